/- Plain mathematics of layer 10: what is read, what is printed, which whole number it is. No program in it. -/
import Derived.Test.YtakbbhhhdcnlnaaDoorG10Math
namespace Go.Proofs.YtakbbhhhdcnlnaaDoor
set_option linter.unusedVariables false

/-- a number's digits -/
def dig (n : Nat) : List UInt8 := if h : n < 10 then [UInt8.ofNat (48 + n)] else dig (n / 10) ++ [UInt8.ofNat (48 + n % 10)]
termination_by n
decreasing_by omega
def printF (n : Int) : List UInt8 := (if n < 0 then [45] else []) ++ dig n.natAbs
theorem dig_lo {n : Nat} (h : n < 10) : dig n = [UInt8.ofNat (48 + n)] := by rw [dig, dif_pos h]
theorem dig_hi {n : Nat} (h : ¬ n < 10) : dig n = dig (n / 10) ++ [UInt8.ofNat (48 + n % 10)] := by rw [dig, dif_neg h]
theorem ofD {k : Nat} (h : k < 10) : (UInt8.ofNat (48 + k)).toNat = 48 + k := by
  rw [UInt8.toNat_ofNat']; exact Nat.mod_eq_of_lt (by omega)
theorem isD_of {k : Nat} (h : k < 10) : isD (UInt8.ofNat (48 + k)) = true := by
  unfold isD; rw [ofD h]; exact decide_eq_true (by omega)
theorem dv_of {k : Nat} (h : k < 10) : dv (UInt8.ofNat (48 + k)) = k := by unfold dv; rw [ofD h]; omega
theorem dig_all (n : Nat) : allD (dig n) := by
  induction n using Nat.strongRecOn with
  | _ n ih =>
    by_cases h : n < 10
    · rw [dig_lo h]; intro c hc; rw [List.mem_singleton.1 hc]; exact isD_of h
    · rw [dig_hi h]
      intro c hc
      rcases List.mem_append.1 hc with hc | hc
      · exact ih _ (by omega) c hc
      · rw [List.mem_singleton.1 hc]; exact isD_of (by omega)
theorem dig_num (n : Nat) : num (dig n) = n := by
  induction n using Nat.strongRecOn with
  | _ n ih =>
    by_cases h : n < 10
    · rw [dig_lo h, num_cons, dv_of h]; simp [num]
    · rw [dig_hi h, num_snoc, ih _ (by omega), dv_of (by omega)]; omega
theorem dig_ne (n : Nat) : dig n ≠ [] := by
  by_cases h : n < 10
  · rw [dig_lo h]; simp
  · rw [dig_hi h]; simp
theorem dig_head {n : Nat} (h0 : 0 < n) : (dig n).head? ≠ some 48 := by
  induction n using Nat.strongRecOn with
  | _ n ih =>
    by_cases h : n < 10
    · rw [dig_lo h]
      intro e
      have h1 := ofD h
      have h2 := congrArg UInt8.toNat (Option.some.inj e)
      rw [h1] at h2
      have : (48 : UInt8).toNat = 48 := rfl
      omega
    · rw [dig_hi h]
      have h1 := ih (n / 10) (by omega) (by omega)
      rw [List.head?_append]
      have h2 := dig_ne (n / 10)
      cases hd : dig (n / 10) with
      | nil => exact absurd hd h2
      | cons c l => rw [hd] at h1; simpa using h1
theorem dig_zero : dig 0 = [48] := by rw [dig_lo (by omega)]; rfl
theorem dig_len {n k : Nat} (hk : 0 < k) (h : n < 10 ^ k) : (dig n).length ≤ k := by
  induction n using Nat.strongRecOn generalizing k with
  | _ n ih =>
    by_cases hn : n < 10
    · rw [dig_lo hn]; simp; omega
    · rw [dig_hi hn]
      obtain ⟨j, rfl⟩ : ∃ j, k = j + 1 := ⟨k - 1, by omega⟩
      have hj : 0 < j := by
        rcases Nat.eq_zero_or_pos j with h0 | h0
        · subst h0; simp at h; omega
        · exact h0
      have := ih (n / 10) (by omega) hj (by rw [Nat.pow_succ] at h; omega)
      simp; omega
/-! ## reading -/
def exF (l : List UInt8) : Nat := l.foldl (fun e c => min (10 * e + dv c) 1000000000) 0
theorem exF_snoc (l : List UInt8) (c : UInt8) : exF (l ++ [c]) = min (10 * exF l + dv c) 1000000000 := by unfold exF; rw [List.foldl_append]; rfl
theorem exF_num (l : List UInt8) : exF l = min (num l) 1000000000 := by
  refine snoc8 (p := fun l => exF l = min (num l) 1000000000) rfl (fun l c ih => ?_) l
  rw [exF_snoc, num_snoc, ih]; omega
/-- what stands behind the digits: an exponent, or nothing -/
def readE (n : Bool) (d : List UInt8) (e : Int) (s : List UInt8) : Option Dc :=
  if s = [] then some (normF ⟨n, d, e⟩)
  else if s.head? = some 101 ∨ s.head? = some 69 then
    let t := if s.tail.head? = some 45 ∨ s.tail.head? = some 43 then s.tail.tail else s.tail
    if t.takeWhile isD = [] then none
    else if t.dropWhile isD = [] then some (normF ⟨n, d, e + (if s.tail.head? = some 45 then -(exF (t.takeWhile isD) : Int) else exF (t.takeWhile isD))⟩)
    else none
  else none
/-- what stands behind the whole part -/
def readP (n : Bool) (d : List UInt8) (s : List UInt8) : Option Dc :=
  if s.head? = some 46 then
    if s.tail.takeWhile isD = [] then none else readE n (d ++ s.tail.takeWhile isD) (-((s.tail.takeWhile isD).length : Int)) (s.tail.dropWhile isD)
  else readE n d 0 s
def readW (n : Bool) (s : List UInt8) : Option Dc :=
  if s.takeWhile isD = [] ∨ (1 < (s.takeWhile isD).length ∧ s.head? = some 48) then none else readP n (s.takeWhile isD) (s.dropWhile isD)
def readF (s : List UInt8) : Option Dc := if s.head? = some 45 then readW true s.tail else readW false s
theorem take_app {a b : List UInt8} (ha : allD a) (hb : ∀ c ∈ b.head?, isD c = false) : (a ++ b).takeWhile isD = a ∧ (a ++ b).dropWhile isD = b := by
  induction a with
  | nil =>
    cases b with
    | nil => exact ⟨rfl, rfl⟩
    | cons c b =>
      have := hb c rfl
      simp [this]
  | cons c a ih =>
    obtain ⟨h1, h2⟩ := ih (fun x hx => ha x (by simp [hx]))
    have hc := ha c (by simp)
    simp [hc, h1, h2]
/-- an exponent as it is written -/
structure Exp (s : List UInt8) (e : Int) : Prop where
  is : (s = [] ∧ e = 0) ∨ (∃ c k, (c = 101 ∨ c = 69) ∧ allD k ∧ k ≠ [] ∧ ((s = c :: k ∧ e = exF k) ∨ (s = c :: 43 :: k ∧ e = exF k) ∨ (s = c :: 45 :: k ∧ e = -(exF k : Int))))
theorem d_not {c : UInt8} (h : isD c = true) : c ≠ 45 ∧ c ≠ 43 ∧ c ≠ 46 ∧ c ≠ 101 ∧ c ≠ 69 := by
  have := of_decide_eq_true h
  refine ⟨?_, ?_, ?_, ?_, ?_⟩ <;> (intro e; subst e; revert this; decide)
theorem read_exp (n : Bool) (d : List UInt8) (e0 : Int) {s : List UInt8} {e : Int} (h : Exp s e) : readE n d e0 s = some (normF ⟨n, d, e0 + e⟩) := by
  rcases h.is with ⟨rfl, rfl⟩ | ⟨c, k, hc, hk, hn, hs⟩
  · unfold readE; rw [if_pos rfl, Int.add_zero]
  · obtain ⟨h1, h2⟩ := take_app (a := k) (b := []) hk (fun c hc => by cases hc)
    rw [List.append_nil] at h1 h2
    have hkh : k.head? ≠ some 45 ∧ k.head? ≠ some 43 := by
      cases k with
      | nil => exact absurd rfl hn
      | cons x k => have := d_not (hk x (by simp)); simp [this]
    have hce : (some c = some (101 : UInt8) ∨ some c = some (69 : UInt8)) := by simpa using hc
    rcases hs with ⟨rfl, rfl⟩ | ⟨rfl, rfl⟩ | ⟨rfl, rfl⟩
    · unfold readE
      simp only [List.head?_cons, List.tail_cons, hkh.2, hkh.1, or_self, if_false, h1, h2, if_neg hn, if_pos hce, reduceCtorEq]
      rfl
    · unfold readE
      simp only [List.head?_cons, List.tail_cons, h1, h2, if_neg hn, if_pos hce, reduceCtorEq, if_false, or_true, if_true]
      rfl
    · unfold readE
      simp only [List.head?_cons, List.tail_cons, h1, h2, if_neg hn, if_pos hce, reduceCtorEq, if_false, true_or, if_true]
theorem exp_head {s : List UInt8} {e : Int} (h : Exp s e) : (∀ c ∈ s.head?, isD c = false) ∧ s.head? ≠ some 46 := by
  rcases h.is with ⟨rfl, rfl⟩ | ⟨c, k, hc, hk, hn, hs⟩
  · exact ⟨(fun c h => by cases h), by simp⟩
  · have : s.head? = some c := by rcases hs with ⟨rfl, _⟩ | ⟨rfl, _⟩ | ⟨rfl, _⟩ <;> rfl
    rw [this]
    refine ⟨fun x hx => ?_, ?_⟩
    · simp at hx; subst hx; rcases hc with rfl | rfl <;> decide
    · rcases hc with rfl | rfl <;> decide
/-- a text of a sign, a whole part, a fraction or none, an exponent or none -/
theorem read_form (n : Bool) {w f s : List UInt8} {e : Int} (hw : allD w) (hw0 : w ≠ []) (hwh : w.length = 1 ∨ w.head? ≠ some 48) (hf : allD f) (h : Exp s e) :
    readF ((if n then [45] else []) ++ (w ++ ((if f = [] then [] else 46 :: f) ++ s))) = some (normF ⟨n, w ++ f, -(f.length : Int) + e⟩) := by
  obtain ⟨eh1, eh2⟩ := exp_head h
  have hP : readP n w ((if f = [] then [] else 46 :: f) ++ s) = some (normF ⟨n, w ++ f, -(f.length : Int) + e⟩) := by
    by_cases h0 : f = []
    · subst h0
      rw [if_pos rfl, List.nil_append, List.append_nil]
      unfold readP
      rw [if_neg eh2, read_exp n w 0 h]
      simp
    · rw [if_neg h0]
      obtain ⟨h1, h2⟩ := take_app (a := f) (b := s) hf eh1
      unfold readP
      simp only [List.cons_append, List.head?_cons, List.tail_cons, if_true, h1, h2, if_neg h0]
      exact read_exp n _ _ h
  have hhead : ∀ c ∈ ((if f = [] then [] else 46 :: f) ++ s).head?, isD c = false := by
    by_cases h0 : f = []
    · rw [if_pos h0, List.nil_append]; exact eh1
    · rw [if_neg h0]; intro c hc; simp at hc; subst hc; decide
  obtain ⟨h1, h2⟩ := take_app (a := w) hw hhead
  have hW : readW n (w ++ ((if f = [] then [] else 46 :: f) ++ s)) = some (normF ⟨n, w ++ f, -(f.length : Int) + e⟩) := by
    unfold readW
    rw [h1, h2, if_neg, hP]
    rintro (h3 | ⟨h3, h4⟩)
    · exact hw0 h3
    · rcases hwh with h5 | h5
      · omega
      · cases w with
        | nil => exact hw0 rfl
        | cons c w => exact h5 (by simpa using h4)
  unfold readF
  cases n with
  | true => simpa using hW
  | false =>
    rw [if_neg Bool.false_ne_true, List.nil_append, if_neg, hW]
    cases w with
    | nil => exact absurd rfl hw0
    | cons c w => have := d_not (hw c (by simp)); simp [this]
/-! ## whole numbers -/
def wholeF (x : Dc) : Bool := decide (0 ≤ (normF x).e)
def maxW : Nat := 9007199254740991
def errFraction : Int := 7
def errRange : Int := 8
def intF (x : Dc) : Int × Int :=
  if (normF x).e < 0 then (0, errFraction)
  else if 16 < ((normF x).d.length : Int) + (normF x).e then (0, errRange)
  else if maxW < num (normF x).d * 10 ^ (normF x).e.toNat then (0, errRange)
  else ((if (normF x).n then -((num (normF x).d * 10 ^ (normF x).e.toNat : Nat) : Int) else ((num (normF x).d * 10 ^ (normF x).e.toNat : Nat) : Int)), 0)
theorem last_ten {l : List UInt8} (h : allD l) (hl : l.getLast? ≠ some 48) (hn : l ≠ []) : num l % 10 ≠ 0 := by
  rcases List.eq_nil_or_concat l with e | ⟨m, c, e⟩
  · exact absurd e hn
  · subst e
    rw [List.concat_eq_append] at *
    have h1 := dv_ne (h c (by simp)) (by simpa using hl)
    have h2 := dv_le (h c (by simp))
    rw [num_snoc]; omega
/-- whose value is whole is Whole, and Int tells it -/
theorem int_of {x : Dc} {K : Nat} {m : Int} (hd : allD x.d) (hk : 0 ≤ x.e + K) (hv : sc K x = m * 10 ^ K) : wholeF x = true ∧ intF x = if m.natAbs ≤ maxW then (m, 0) else (0, errRange) := by
  rw [← sc_norm hk] at hv
  rcases norm_cases x with ⟨e, _⟩ | ⟨hn, _, he, _, _, hm, _⟩
  · have hz : sc K zeroD = 0 := by simp [sc, zeroD, num]
    rw [e, hz] at hv
    have hp : (0 : Int) < 10 ^ K := Int.pow_pos (by omega)
    have m0 : m = 0 := by
      rcases Int.mul_eq_zero.1 hv.symm with h | h
      · exact h
      · omega
    subst m0
    unfold wholeF intF
    rw [e]
    exact ⟨by decide, by decide⟩
  · have hda : allD (normF x).d := fun c hc => hd c (hm c hc)
    unfold wholeF intF
    generalize normF x = y at *
    have hva : num y.d * 10 ^ (y.e + K).toNat = m.natAbs * 10 ^ K := by
      have := congrArg Int.natAbs hv
      unfold sc at this
      rw [Int.natAbs_mul, Int.natAbs_mul] at this
      have e1 : (if y.n = true then (-1 : Int) else 1).natAbs = 1 := by split <;> rfl
      have e2 : ((10 : Int) ^ K).natAbs = 10 ^ K := by rw [Int.natAbs_pow]; rfl
      rw [e1, e2, Int.natAbs_natCast] at this
      omega
    have he0 : 0 ≤ y.e := by
      apply Classical.byContradiction
      intro hneg
      obtain ⟨j, hj⟩ : ∃ j : Nat, y.e = -((j + 1 : Nat) : Int) := ⟨(-y.e - 1).toNat, by omega⟩
      have hK : K = (y.e + K).toNat + (j + 1) := by omega
      rw [hK] at hva
      have e3 : (y.e + ((y.e + K).toNat + (j + 1) : Nat)).toNat = (y.e + K).toNat := by omega
      rw [e3, Nat.pow_add, Nat.mul_comm (10 ^ (y.e + K).toNat), ← Nat.mul_assoc] at hva
      have := Nat.eq_of_mul_eq_mul_right (Nat.pow_pos (by omega)) hva
      rw [Nat.pow_succ, ← Nat.mul_assoc] at this
      exact last_ten hda hn.2.2 hn.1 (by omega)
    have hval : num y.d * 10 ^ y.e.toNat = m.natAbs := by
      have e3 : (y.e + K).toNat = y.e.toNat + K := by omega
      rw [e3, Nat.pow_add, ← Nat.mul_assoc] at hva
      exact Nat.eq_of_mul_eq_mul_right (Nat.pow_pos (by omega)) hva
    have hsgn : (if y.n then -((num y.d * 10 ^ y.e.toNat : Nat) : Int) else ((num y.d * 10 ^ y.e.toNat : Nat) : Int)) = m := by
      have e3 : (y.e + K).toNat = y.e.toNat + K := by omega
      unfold sc at hv
      rw [e3, Nat.pow_add, ← Nat.mul_assoc, Int.natCast_mul (num y.d * 10 ^ y.e.toNat), ← Int.mul_assoc] at hv
      have e4 : (((10 ^ K : Nat)) : Int) = 10 ^ K := by simp
      rw [e4] at hv
      have hp : (0 : Int) < 10 ^ K := Int.pow_pos (by omega)
      have := Int.eq_of_mul_eq_mul_right (Int.ne_of_gt hp) hv
      cases hy : y.n with
      | true => rw [hy] at this; simp only [if_true] at this ⊢; omega
      | false => rw [hy] at this; simp only [Bool.false_eq_true, if_false] at this ⊢; omega
    have hge := num_ge hda hn.1 hn.2.1
    have hlp : 0 < y.d.length := List.length_pos_iff.2 hn.1
    refine ⟨decide_eq_true he0, ?_⟩
    rw [if_neg (by omega), hsgn, hval]
    by_cases h16 : 16 < (y.d.length : Int) + y.e
    · rw [if_pos h16, if_neg]
      have h1 : 10 ^ (y.d.length - 1) * 10 ^ y.e.toNat ≤ num y.d * 10 ^ y.e.toNat := Nat.mul_le_mul_right _ hge
      rw [← Nat.pow_add, hval] at h1
      have h2 : 10 ^ 16 ≤ 10 ^ (y.d.length - 1 + y.e.toNat) := Nat.pow_le_pow_right (by omega) (by omega)
      unfold maxW
      omega
    · rw [if_neg h16]
      by_cases h3 : m.natAbs ≤ maxW
      · rw [if_neg (by omega), if_pos h3]
      · rw [if_pos (by omega), if_neg h3]
end Go.Proofs.YtakbbhhhdcnlnaaDoor
