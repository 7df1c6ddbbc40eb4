/- What makes a text that begins a number one that is whole and within: an exponent. No program in it. -/
import Derived.Test.YtiibfejgiilakaaDoorG11Sem
namespace Go.Proofs.YtiibfejgiilakaaDoor
set_option maxRecDepth 100000
set_option linter.unusedVariables false

/-- with u behind it, s is a number that is read, whole and within -/
def Makes (s u : List UInt8) : Prop := ∃ x, readF (s ++ u) = some x ∧ (intF x).2 = 0
theorem mk_of {s u : List UInt8} {t v : Nt} (ht : goF t0 s = some t) (hu : goF t u = some v) (he : endsF v.p = true) (hi : (intF (decF v)).2 = 0) : Makes s u := by
  refine ⟨normF (decF v), ?_, by rw [int_norm]; exact hi⟩
  rw [read_go, go_app, ht]
  show (goF t u).bind finF = _
  rw [hu]
  show finF v = _
  unfold finF
  rw [he, if_pos rfl]
/-- where the exponent brings it within -/
theorem int_at {v : Nt} (hd : allD v.d) (h : nrm v.d = [] ∨ (0 ≤ (asR (rgOf v)).e ∧ (asR (rgOf v)).e ≤ roomF (nrm v.d))) : (intF (decF v)).2 = 0 := by
  rw [← as_int]
  by_cases h0 : nrm v.d = []
  · rw [← int_norm, as_dec]
    have e : normF (decF v) = zeroD := by
      unfold decF
      rw [norm_eq, if_pos h0]
    rw [e]
    rfl
  · obtain ⟨h1, h2⟩ := h.resolve_left h0
    have hn := nrm_nm h0
    have hi := (room_ok hn (nrm_allD hd) (asR (rgOf v)).e.toNat).2 (by omega)
    obtain ⟨i1, i2, i3, i4⟩ := int_ok (n := false) hn hi
    show (intF ⟨v.n, nrm v.d, (asR (rgOf v)).e⟩).2 = 0
    rw [intF_nm hn] at hi ⊢
    have e3 : (((asR (rgOf v)).e.toNat : Nat) : Int).toNat = (asR (rgOf v)).e.toNat := by omega
    rw [e3] at hi
    rw [if_neg (by omega)] at hi ⊢
    by_cases q1 : 16 < ((nrm v.d).length : Int) + (asR (rgOf v)).e
    · rw [if_pos (by omega)] at hi
      exact absurd hi (by decide)
    · rw [if_neg (by omega)] at hi
      rw [if_neg q1]
      by_cases q2 : maxW < num (nrm v.d) * 10 ^ (asR (rgOf v)).e.toNat
      · rw [if_pos q2] at hi
        exact absurd hi (by decide)
      · rw [if_neg q2]
/-- what Norm says of the exponent of all its digits -/
def eOf (t : Nt) : Int := if nrm t.d = [] then 0 else -(t.b : Int) + (((frontL t.d).length - (nrm t.d).length : Nat) : Int)
theorem as_e (v : Nt) : (asR (rgOf v)).e = (((frontL v.d).length - (nrm v.d).length : Nat) : Int) - v.b + (if (v.g == 45) = true then -(exF v.x : Int) else exF v.x) := rfl
theorem dwd {l : List UInt8} (h : allD l) : l.dropWhile isD = [] := by
  induction l with
  | nil => rfl
  | cons c l ih =>
    rw [List.dropWhile_cons, h c (by simp), if_pos rfl]
    exact ih (fun x hx => h x (by simp [hx]))
/-- digits behind an exponent's sign or digits -/
theorem go_more {t : Nt} {u : List UInt8} (hp : t.p = 7 ∨ t.p = 8) (hx : t.p = 7 → t.x = []) (hu : allD u) (hne : t.p = 7 → u ≠ []) : goF t u = some { t with p := 8, x := t.x ++ u } := by
  rcases hp with h | h
  · rw [go_7 t u h (hx h), if_neg (hne h), if_pos (dwd hu), hx h]
    rfl
  · rw [go_8 t u h, if_pos (dwd hu)]
    obtain ⟨p, n, d, b, g, x⟩ := t
    obtain rfl : p = 8 := h
    rfl
/-- a printed number behind the e -/
theorem go_print {t : Nt} (hp : t.p = 6) (hg : t.g = 0) (hx : t.x = []) (k : Int) : goF t (printF k) = some { t with p := 8, g := if k < 0 then 45 else 0, x := dig k.natAbs } := by
  obtain ⟨p, n, d, b, g, x⟩ := t
  obtain rfl : p = 6 := hp
  obtain rfl : g = 0 := hg
  obtain rfl : x = [] := hx
  unfold printF
  by_cases h : k < 0
  · rw [if_pos h, if_pos h]
    show goF ⟨6, n, d, b, 0, []⟩ (45 :: dig k.natAbs) = _
    rw [go_cons]
    have e : stepF ⟨6, n, d, b, 0, []⟩ 45 = some ⟨7, n, d, b, 45, []⟩ := rfl
    rw [e]
    show goF ⟨7, n, d, b, 45, []⟩ (dig k.natAbs) = _
    rw [go_more (.inl rfl) (fun _ => rfl) (dig_all _) (fun _ => dig_ne _)]
    rfl
  · rw [if_neg h, if_neg h, List.nil_append]
    cases hd : dig k.natAbs with
    | nil => exact absurd hd (dig_ne _)
    | cons c l =>
      have ha := dig_all k.natAbs
      rw [hd] at ha
      have hc := ha c (by simp)
      rw [go_cons]
      have hn := d_not hc
      have e : stepF ⟨6, n, d, b, 0, []⟩ c = some ⟨8, n, d, b, 0, [c]⟩ := by
        have q : ¬ (c = 43 ∨ c = 45) := by
          rintro (q | q)
          · rw [q] at hc; exact absurd hc (by decide)
          · rw [q] at hc; exact absurd hc (by decide)
        have hq : nextF 6 c = some 8 := by
          show (if c = 43 ∨ c = 45 then some 7 else if isD c = true then some 8 else none) = some 8
          rw [if_neg q, if_pos hc]
        show (nextF 6 c).map _ = _
        rw [hq]
        rfl
      rw [e]
      show goF ⟨8, n, d, b, 0, [c]⟩ l = _
      rw [go_8 _ _ rfl, if_pos (dwd (fun x hx => ha x (by simp [hx])))]
      rfl
/-- all digits of a number without noughts ahead are those of its value -/
theorem dig_back {l : List UInt8} (ha : allD l) (hh : l.head? ≠ some 48) (hn : l ≠ []) : dig (num l) = l ∧ 0 < num l := by
  revert ha hh hn
  refine snoc8 (p := fun l => allD l → l.head? ≠ some 48 → l ≠ [] → dig (num l) = l ∧ 0 < num l) (fun _ _ h => absurd rfl h) (fun l c ih ha hh hn => ?_) l
  have hc := ha c (by simp)
  have hdc : dv c < 10 ∧ UInt8.ofNat (48 + dv c) = c := by
    unfold isD at hc
    have h1 := of_decide_eq_true hc
    unfold dv
    refine ⟨by omega, ?_⟩
    apply UInt8.toNat_inj.1
    rw [UInt8.toNat_ofNat']
    have h2 : c.toNat < 256 := c.toNat_lt
    rw [Nat.mod_eq_of_lt (by omega)]
    omega
  by_cases h0 : l = []
  · subst h0
    rw [List.nil_append, num_cons]
    have e : dv c * 10 ^ ([] : List UInt8).length + num [] = dv c := by simp [num]
    rw [e, dig_lo hdc.1, hdc.2]
    refine ⟨rfl, ?_⟩
    have : c ≠ 48 := fun e => hh (by rw [e]; rfl)
    rcases Nat.eq_zero_or_pos (dv c) with h | h
    · rw [h] at hdc
      exact absurd hdc.2.symm this
    · exact h
  · have hl := ih (fun x hx => ha x (by simp [hx])) (by
      rw [List.head?_append] at hh
      cases l with
      | nil => exact absurd rfl h0
      | cons a l => simpa using hh) h0
    rw [num_snoc]
    refine ⟨?_, by omega⟩
    rw [dig_hi (by omega)]
    have e1 : (10 * num l + dv c) / 10 = num l := by omega
    have e2 : (10 * num l + dv c) % 10 = dv c := by omega
    rw [e1, e2, hl.1, hdc.2]
/-- more digits behind a number above nought -/
theorem dig_pre {v : Nat} (hv : 0 < v) : ∀ (k r : Nat), r < 10 ^ k → ∃ m, dig (v * 10 ^ k + r) = dig v ++ m ∧ allD m := by
  intro k
  induction k with
  | zero =>
    intro r hr
    have : r = 0 := by simp at hr; omega
    subst this
    exact ⟨[], by simp, fun c h => by cases h⟩
  | succ k ih =>
    intro r hr
    have hp : 10 ^ (k + 1) = 10 * 10 ^ k := by rw [Nat.pow_succ, Nat.mul_comm]
    have hk : 1 ≤ 10 ^ k := Nat.pow_pos (by omega)
    obtain ⟨m, hm, hma⟩ := ih (r / 10) (by omega)
    have e0 : v * 10 ^ (k + 1) = 10 * (v * 10 ^ k) := by rw [hp, ← Nat.mul_assoc, Nat.mul_comm v 10, Nat.mul_assoc]
    have hvk : 1 ≤ v * 10 ^ k := Nat.mul_pos hv hk
    rw [e0, dig_hi (by omega)]
    have e1 : (10 * (v * 10 ^ k) + r) / 10 = v * 10 ^ k + r / 10 := by omega
    have e2 : (10 * (v * 10 ^ k) + r) % 10 < 10 := by omega
    rw [e1, hm]
    refine ⟨m ++ [UInt8.ofNat (48 + (10 * (v * 10 ^ k) + r) % 10)], by rw [List.append_assoc], fun c hc => ?_⟩
    rcases List.mem_append.1 hc with h | h
    · exact hma c h
    · rw [List.mem_singleton.1 h]; exact isD_of e2
/-- the digits behind those of an exponent that make it e (none: none do) -/
def fitF (neg : Bool) (x : List UInt8) (e : Int) : Option (List UInt8) :=
  if (if neg = true then -e else e) < 0 then none
  else if frontL x = [] ∧ x ≠ [] ∧ (if neg = true then -e else e) = 0 then some []
  else if frontL x = [] then some (printF (if neg = true then -e else e))
  else if (frontL x).length ≤ (printF (if neg = true then -e else e)).length ∧ (printF (if neg = true then -e else e)).take (frontL x).length = frontL x then some ((printF (if neg = true then -e else e)).drop (frontL x).length)
  else none
theorem printF_nat {n : Int} (h : 0 ≤ n) : printF n = dig n.natAbs := by unfold printF; rw [if_neg (by omega), List.nil_append]
/-- what fit gives makes the exponent -/
theorem fit_says {neg : Bool} {x : List UInt8} {e : Int} {X : Nat} (ha : allD x) (hX : (if neg = true then -e else e) = (X : Int)) {k r : Nat} (hr : r < 10 ^ k) (hv : X = num x * 10 ^ k + r) : ∃ u, fitF neg x e = some u ∧ allD u ∧ num (x ++ u) = X ∧ (x = [] → u ≠ []) := by
  unfold fitF
  rw [hX, printF_nat (by omega)]
  have e0 : ((X : Int)).natAbs = X := rfl
  rw [e0, if_neg (by omega)]
  by_cases h0 : frontL x = []
  · have hn0 : num x = 0 := by rw [← num_front, h0]; rfl
    by_cases h1 : frontL x = [] ∧ x ≠ [] ∧ (X : Int) = 0
    · rw [if_pos h1]
      exact ⟨[], rfl, (fun c h => by cases h), by rw [List.append_nil, hn0]; omega, fun h => absurd h h1.2.1⟩
    · rw [if_neg h1, if_pos h0]
      exact ⟨_, rfl, dig_all _, by rw [num_app, hn0, dig_num]; omega, fun _ => dig_ne _⟩
  · rw [if_neg (fun h => h0 h.1), if_neg h0]
    have hf := dig_back (l := frontL x) (fun c hc => ha c (front_mem hc)) (front_head x) h0
    rw [num_front] at hf
    obtain ⟨m, hm, hma⟩ := dig_pre hf.2 k r hr
    rw [← hv, hf.1] at hm
    rw [hm, if_pos ⟨by rw [List.length_append]; omega, List.take_left⟩, List.drop_left]
    refine ⟨m, rfl, hma, ?_, fun h => absurd (by rw [h]; rfl) h0⟩
    have h1 : num (frontL x ++ m) = num (x ++ m) := by rw [num_app, num_app, num_front]
    rw [← h1, ← hm, dig_num]
end Go.Proofs.YtiibfejgiilakaaDoor
