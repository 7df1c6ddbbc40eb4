/- Plain mathematics of layer 10: numbers as digits, by their value. No program in it. -/
import GoSem.Op.String
namespace Go.Proofs.YtakbbhhhdcnlnaaDoor
set_option linter.unusedVariables false

def isD (c : UInt8) : Bool := decide (48 ≤ c.toNat ∧ c.toNat ≤ 57)
def dv (c : UInt8) : Nat := c.toNat - 48
/-- a decimal number as the program has it -/
structure Dc where
  n : Bool
  d : List UInt8
  e : Int
def zeroD : Dc := ⟨false, [], 0⟩
def frontL (l : List UInt8) : List UInt8 := l.dropWhile (· == 48)
def endL (l : List UInt8) : List UInt8 := (l.reverse.dropWhile (· == 48)).reverse
def normF (x : Dc) : Dc := if endL (frontL x.d) = [] then zeroD else ⟨x.n, endL (frontL x.d), x.e + (((frontL x.d).length - (endL (frontL x.d)).length : Nat) : Int)⟩
def num (l : List UInt8) : Nat := l.foldl (fun n c => 10 * n + dv c) 0
def allD (l : List UInt8) : Prop := ∀ c ∈ l, isD c = true
/-- the value, times ten to the power of K -/
def sc (K : Nat) (x : Dc) : Int := (if x.n then -1 else 1) * ((num x.d * 10 ^ (x.e + K).toNat : Nat) : Int)

theorem snoc8 {p : List UInt8 → Prop} (h0 : p []) (h1 : ∀ l c, p l → p (l ++ [c])) (l : List UInt8) : p l := by
  have : ∀ m : List UInt8, p m.reverse := fun m => by
    induction m with
    | nil => exact h0
    | cons c m ih => rw [List.reverse_cons]; exact h1 _ _ ih
  have h := this l.reverse
  rwa [List.reverse_reverse] at h
theorem fold_num (l : List UInt8) : ∀ n0 : Nat, l.foldl (fun n c => 10 * n + dv c) n0 = n0 * 10 ^ l.length + num l := by
  induction l with
  | nil => intro n0; simp [num]
  | cons c l ih =>
    intro n0
    have h1 := ih (10 * n0 + dv c)
    have h2 := ih (10 * 0 + dv c)
    have e2 : num (c :: l) = l.foldl (fun n c => 10 * n + dv c) (10 * 0 + dv c) := rfl
    rw [e2, h2, List.foldl_cons, h1, List.length_cons, Nat.pow_succ, Nat.add_mul, Nat.mul_zero, Nat.zero_add]
    have : 10 * n0 * 10 ^ l.length = n0 * (10 ^ l.length * 10) := by rw [Nat.mul_comm (10 ^ l.length) 10, ← Nat.mul_assoc, Nat.mul_comm n0 10]
    omega
theorem num_nil : num [] = 0 := rfl
theorem num_cons (c : UInt8) (l : List UInt8) : num (c :: l) = dv c * 10 ^ l.length + num l := by
  have h := fold_num l (10 * 0 + dv c)
  have e : num (c :: l) = l.foldl (fun n c => 10 * n + dv c) (10 * 0 + dv c) := rfl
  rw [e, h]
  simp
theorem num_app (a b : List UInt8) : num (a ++ b) = num a * 10 ^ b.length + num b := by
  have e : num (a ++ b) = b.foldl (fun n c => 10 * n + dv c) (num a) := by unfold num; rw [List.foldl_append]
  rw [e, fold_num]
theorem num_snoc (a : List UInt8) (c : UInt8) : num (a ++ [c]) = 10 * num a + dv c := by
  rw [num_app]; simp [num]; omega
theorem dv_le {c : UInt8} (h : isD c = true) : dv c ≤ 9 := by
  have := of_decide_eq_true h
  unfold dv; omega
theorem num_lt {l : List UInt8} (h : allD l) : num l < 10 ^ l.length := by
  induction l with
  | nil => simp [num]
  | cons c l ih =>
    have h1 := ih (fun x hx => h x (by simp [hx]))
    have h2 := dv_le (h c (by simp))
    rw [num_cons, List.length_cons, Nat.pow_succ]
    have : dv c * 10 ^ l.length ≤ 9 * 10 ^ l.length := Nat.mul_le_mul_right _ h2
    omega
theorem dv_ne {c : UInt8} (h : isD c = true) (hn : c ≠ 48) : 1 ≤ dv c := by
  have h1 := of_decide_eq_true h
  have h2 : c.toNat ≠ 48 := fun e => hn (UInt8.toNat_inj.1 e)
  unfold dv; omega
theorem dv48 : dv 48 = 0 := rfl
theorem front_cons (c : UInt8) (l : List UInt8) : frontL (c :: l) = if c = 48 then frontL l else c :: l := by
  unfold frontL
  rw [List.dropWhile_cons]
  by_cases h : c = 48 <;> simp [h]
theorem end_nil : endL [] = [] := rfl
theorem end_snoc (l : List UInt8) (c : UInt8) : endL (l ++ [c]) = if c = 48 then endL l else l ++ [c] := by
  unfold endL
  rw [List.reverse_append, List.reverse_cons, List.reverse_nil, List.nil_append, List.cons_append, List.nil_append, List.dropWhile_cons]
  by_cases h : c = 48 <;> simp [h]
theorem num_front (l : List UInt8) : num (frontL l) = num l := by
  induction l with
  | nil => rfl
  | cons c l ih =>
    rw [front_cons]
    split
    · rename_i h
      rw [ih, num_cons, h, dv48]; simp
    · rfl
theorem end_le (l : List UInt8) : (endL l).length ≤ l.length := by
  unfold endL
  rw [List.length_reverse]
  have := (List.dropWhile_sublist (fun c : UInt8 => c == 48) (l := l.reverse)).length_le
  rw [List.length_reverse] at this
  exact this
theorem front_le (l : List UInt8) : (frontL l).length ≤ l.length := (List.dropWhile_sublist _).length_le
theorem num_end (l : List UInt8) : num l = num (endL l) * 10 ^ (l.length - (endL l).length) := by
  refine snoc8 (p := fun l => num l = num (endL l) * 10 ^ (l.length - (endL l).length)) rfl (fun l c ih => ?_) l
  rw [end_snoc]
  by_cases h : c = 48
  · rw [if_pos h, num_snoc, h, dv48]
    have hl := end_le l
    have e : (l ++ [(48 : UInt8)]).length - (endL l).length = (l.length - (endL l).length) + 1 := by simp; omega
    rw [e, Nat.pow_succ, ← Nat.mul_assoc, ← ih]; omega
  · rw [if_neg h]; simp
/-- digits as they are in a normed number -/
def NmD (l : List UInt8) : Prop := l ≠ [] ∧ l.head? ≠ some 48 ∧ l.getLast? ≠ some 48
theorem front_head (l : List UInt8) : (frontL l).head? ≠ some 48 := by
  induction l with
  | nil => simp [frontL]
  | cons c l ih =>
    rw [front_cons]
    split
    · exact ih
    · rename_i h; simp [h]
theorem end_last (l : List UInt8) : (endL l).getLast? ≠ some 48 := by
  refine snoc8 (p := fun l => (endL l).getLast? ≠ some 48) (by simp [endL]) (fun l c ih => ?_) l
  rw [end_snoc]
  by_cases h : c = 48
  · rw [if_pos h]; exact ih
  · rw [if_neg h]; simp [h]
theorem end_pre (l : List UInt8) : ∃ m, l = endL l ++ m ∧ ∀ c ∈ m, c = 48 := by
  refine snoc8 (p := fun l => ∃ m, l = endL l ++ m ∧ ∀ c ∈ m, c = 48) ⟨[], rfl, fun c h => by cases h⟩ (fun l c ih => ?_) l
  rw [end_snoc]
  by_cases h : c = 48
  · obtain ⟨m, e, hm⟩ := ih
    rw [if_pos h]
    refine ⟨m ++ [c], by rw [← List.append_assoc, ← e], fun x hx => ?_⟩
    rcases List.mem_append.1 hx with hx | hx
    · exact hm x hx
    · simp at hx; rw [hx]; exact h
  · rw [if_neg h]; exact ⟨[], by simp, fun c h => by cases h⟩
theorem end_head {l : List UInt8} (h : l.head? ≠ some 48) : (endL l).head? ≠ some 48 := by
  obtain ⟨m, e, _⟩ := end_pre l
  cases hg : endL l with
  | nil => simp
  | cons c g =>
    rw [hg] at e
    rw [e] at h
    simpa using h
theorem front_mem {l : List UInt8} {c : UInt8} (h : c ∈ frontL l) : c ∈ l := (List.dropWhile_sublist _).mem h
theorem end_mem {l : List UInt8} {c : UInt8} (h : c ∈ endL l) : c ∈ l := by
  obtain ⟨m, e, _⟩ := end_pre l
  rw [e]; simp [h]
theorem norm_cases (x : Dc) : (normF x = zeroD ∧ num x.d = 0) ∨ (NmD (normF x).d ∧ (normF x).n = x.n ∧ x.e ≤ (normF x).e ∧ (normF x).e ≤ x.e + x.d.length ∧ num x.d = num (normF x).d * 10 ^ ((normF x).e - x.e).toNat ∧ (∀ c ∈ (normF x).d, c ∈ x.d) ∧ (normF x).d.length ≤ x.d.length) := by
  have h1 := num_front x.d
  have h2 := num_end (frontL x.d)
  have h3 := end_le (frontL x.d)
  have h4 := front_le x.d
  unfold normF
  by_cases h : endL (frontL x.d) = []
  · rw [if_pos h]
    rw [h, num_nil, Nat.zero_mul] at h2
    exact .inl ⟨rfl, by omega⟩
  · rw [if_neg h]
    refine .inr ⟨⟨h, end_head (front_head _), end_last _⟩, rfl, by dsimp only; omega, by dsimp only; omega, ?_, fun c hc => front_mem (end_mem hc), by dsimp only; omega⟩
    dsimp only
    have e : (x.e + (((frontL x.d).length - (endL (frontL x.d)).length : Nat) : Int) - x.e).toNat = (frontL x.d).length - (endL (frontL x.d)).length := by omega
    rw [e, ← h2, h1]
theorem sc_norm {x : Dc} {K : Nat} (h : 0 ≤ x.e + K) : sc K (normF x) = sc K x := by
  rcases norm_cases x with ⟨e, h0⟩ | ⟨_, hn, he, _, hv, _⟩
  · rw [e]
    unfold sc
    rw [h0]; simp [zeroD, num]
  · unfold sc
    rw [hn, hv, Nat.mul_assoc, ← Nat.pow_add]
    have : ((normF x).e - x.e).toNat + (x.e + K).toNat = ((normF x).e + K).toNat := by omega
    rw [this]
theorem front_id {l : List UInt8} (h : l.head? ≠ some 48) : frontL l = l := by
  cases l with
  | nil => rfl
  | cons c l => rw [front_cons, if_neg (by simpa using h)]
theorem end_id {l : List UInt8} (h : l.getLast? ≠ some 48) : endL l = l := by
  rcases List.eq_nil_or_concat l with e | ⟨m, c, e⟩
  · subst e; rfl
  · subst e
    rw [List.concat_eq_append] at *
    rw [end_snoc, if_neg (by simpa using h)]
theorem norm_id {x : Dc} (h : NmD x.d) : normF x = x := by
  unfold normF
  rw [front_id h.2.1, end_id h.2.2, if_neg h.1]
  simp
theorem norm_zero : normF zeroD = zeroD := rfl
theorem norm_twice (x : Dc) : normF (normF x) = normF x := by
  rcases norm_cases x with ⟨e, _⟩ | ⟨h, _⟩
  · rw [e]; rfl
  · exact norm_id h
theorem norm_front (n : Bool) (d : List UInt8) (e : Int) : normF ⟨n, 48 :: d, e⟩ = normF ⟨n, d, e⟩ := by
  unfold normF
  dsimp only
  rw [front_cons, if_pos rfl]
theorem front_snoc (d : List UInt8) : frontL (d ++ [48]) = if frontL d = [] then [] else frontL d ++ [48] := by
  induction d with
  | nil => rfl
  | cons c d ih =>
    rw [List.cons_append, front_cons, front_cons]
    by_cases h : c = 48
    · rw [if_pos h, if_pos h]; exact ih
    · rw [if_neg h, if_neg h, if_neg (by simp)]; rfl
theorem norm_end (n : Bool) (d : List UInt8) (e : Int) : normF ⟨n, d ++ [48], e - 1⟩ = normF ⟨n, d, e⟩ := by
  unfold normF
  dsimp only
  rw [front_snoc]
  by_cases h : frontL d = []
  · rw [if_pos h, h, if_pos end_nil, if_pos end_nil]
  · rw [if_neg h, end_snoc, if_pos rfl]
    by_cases h2 : endL (frontL d) = []
    · rw [if_pos h2, if_pos h2]
    · rw [if_neg h2, if_neg h2]
      have h3 := end_le (frontL d)
      have e1 : e - 1 + (((frontL d ++ [48]).length - (endL (frontL d)).length : Nat) : Int) = e + (((frontL d).length - (endL (frontL d)).length : Nat) : Int) := by
        rw [List.length_append, List.length_singleton]; omega
      rw [e1]
/-! ## which is greater -/
/-- digits behind a point, M places -/
def fr (M : Nat) (l : List UInt8) : Nat := num l * 10 ^ (M - l.length)
theorem fr_cons (m : Nat) (c : UInt8) (l : List UInt8) (h : l.length ≤ m) : fr (m + 1) (c :: l) = dv c * 10 ^ m + fr m l := by
  unfold fr
  have e : m + 1 - (c :: l).length = m - l.length := by simp
  rw [num_cons, e, Nat.add_mul, Nat.mul_assoc, ← Nat.pow_add]
  have e2 : l.length + (m - l.length) = m := by omega
  rw [e2]
theorem fr_lt {m : Nat} {l : List UInt8} (h : allD l) (hl : l.length ≤ m) : fr m l < 10 ^ m := by
  have h1 := num_lt h
  have h2 : num l * 10 ^ (m - l.length) < 10 ^ l.length * 10 ^ (m - l.length) := Nat.mul_lt_mul_of_pos_right h1 (Nat.pow_pos (by omega))
  rw [← Nat.pow_add] at h2
  have e2 : l.length + (m - l.length) = m := by omega
  rw [e2] at h2
  exact h2
theorem num_pos {l : List UInt8} (h : allD l) (hn : l ≠ []) (hl : l.getLast? ≠ some 48) : 0 < num l := by
  rcases List.eq_nil_or_concat l with e | ⟨m, c, e⟩
  · exact absurd e hn
  · subst e
    rw [List.concat_eq_append] at *
    rw [num_snoc]
    have := dv_ne (h c (by simp)) (by simpa using hl)
    omega
theorem less_fr : ∀ (M : Nat) (a b : List UInt8), allD a → allD b → a.length ≤ M → b.length ≤ M → a.getLast? ≠ some 48 → b.getLast? ≠ some 48 → Op.bytesLess a b = decide (fr M a < fr M b)
  | M, a, [], ha, hb, hla, hlb, h1, h2 => by
    have e : Op.bytesLess a [] = false := by cases a <;> rfl
    rw [e]
    have : fr M [] = 0 := by simp [fr, num]
    rw [this]; simp
  | M, [], y :: b, ha, hb, hla, hlb, h1, h2 => by
    have e : Op.bytesLess [] (y :: b) = true := rfl
    have e0 : fr M [] = 0 := by simp [fr, num]
    have hp : 0 < fr M (y :: b) := Nat.mul_pos (num_pos hb (by simp) h2) (Nat.pow_pos (by omega))
    rw [e, e0, decide_eq_true hp]
  | 0, x :: a, y :: b, ha, hb, hla, hlb, h1, h2 => by simp at hla
  | m + 1, x :: a, y :: b, ha, hb, hla, hlb, h1, h2 => by
    have hla' : a.length ≤ m := by simpa using hla
    have hlb' : b.length ≤ m := by simpa using hlb
    have e : Op.bytesLess (x :: a) (y :: b) = (decide (x < y) || (x == y && Op.bytesLess a b)) := rfl
    have da : allD a := fun c hc => ha c (by simp [hc])
    have db : allD b := fun c hc => hb c (by simp [hc])
    have fa := fr_lt da hla'
    have fb := fr_lt db hlb'
    have dx := of_decide_eq_true (ha x (by simp))
    have dy := of_decide_eq_true (hb y (by simp))
    rw [e, fr_cons m x a hla', fr_cons m y b hlb']
    by_cases hlt : x < y
    · have hl : x.toNat < y.toNat := UInt8.lt_iff_toNat_lt.1 hlt
      have hd : dv x + 1 ≤ dv y := by unfold dv; omega
      have hm : (dv x + 1) * 10 ^ m ≤ dv y * 10 ^ m := Nat.mul_le_mul_right _ hd
      rw [Nat.add_mul] at hm
      rw [decide_eq_true hlt, decide_eq_true (by omega)]; rfl
    · rw [decide_eq_false hlt, Bool.false_or]
      by_cases heq : x = y
      · subst heq
        have ea : a.getLast? ≠ some 48 := fun hh => h1 (by rw [List.getLast?_cons, hh]; rfl)
        have eb : b.getLast? ≠ some 48 := fun hh => h2 (by rw [List.getLast?_cons, hh]; rfl)
        rw [less_fr m a b da db hla' hlb' ea eb]
        simp
      · have hne : (x == y) = false := by simpa using heq
        have hl : ¬ x.toNat < y.toNat := fun h => hlt (UInt8.lt_iff_toNat_lt.2 h)
        have hl2 : x.toNat ≠ y.toNat := fun h => heq (UInt8.toNat_inj.1 h)
        have hd : dv y + 1 ≤ dv x := by unfold dv; omega
        have hm : (dv y + 1) * 10 ^ m ≤ dv x * 10 ^ m := Nat.mul_le_mul_right _ hd
        rw [Nat.add_mul] at hm
        rw [hne, Bool.false_and, decide_eq_false (by omega)]
theorem less_no {a b : List UInt8} (h1 : Op.bytesLess a b = false) (h2 : Op.bytesLess b a = false) : a = b := by
  induction a generalizing b with
  | nil => cases b with
    | nil => rfl
    | cons y b => cases h1
  | cons x a ih => cases b with
    | nil => cases h2
    | cons y b =>
      have e1 : (decide (x < y) || (x == y && Op.bytesLess a b)) = false := h1
      have e2 : (decide (y < x) || (y == x && Op.bytesLess b a)) = false := h2
      simp only [Bool.or_eq_false_iff, decide_eq_false_iff_not] at e1 e2
      have hxy : x = y := by
        apply UInt8.toNat_inj.1
        have h3 := e1.1
        have h4 := e2.1
        rw [UInt8.lt_iff_toNat_lt] at h3 h4
        omega
      subst hxy
      have e3 := e1.2
      have e4 := e2.2
      simp at e3 e4
      rw [ih e3 e4]
def sgnZ (z : Int) : Int := if z < 0 then -1 else if z = 0 then 0 else 1
/-- of two without a sign, normed -/
def sizeF (a b : Dc) : Int :=
  if (a.d.length : Int) + a.e < b.d.length + b.e then -1 else if (b.d.length : Int) + b.e < a.d.length + a.e then 1
  else if Op.bytesLess a.d b.d then -1 else if Op.bytesLess b.d a.d then 1 else 0
def cmpN (x y : Dc) : Int :=
  if x.d = [] ∧ y.d = [] then 0
  else if (x.d = [] ∧ y.n = true) ∨ (y.d = [] ∧ x.n = false) then 1
  else if x.d = [] ∨ y.d = [] then -1
  else if x.n ≠ y.n ∧ x.n = true then -1
  else if x.n ≠ y.n then 1
  else if x.n = true then sizeF y x else sizeF x y
def cmpF (a b : Dc) : Int := cmpN (normF a) (normF b)
theorem num_ge {l : List UInt8} (h : allD l) (hn : l ≠ []) (hh : l.head? ≠ some 48) : 10 ^ (l.length - 1) ≤ num l := by
  cases l with
  | nil => exact absurd rfl hn
  | cons c l =>
    have h1 := dv_ne (h c (by simp)) (by simpa using hh)
    rw [num_cons]
    have : 1 * 10 ^ l.length ≤ dv c * 10 ^ l.length := Nat.mul_le_mul_right _ h1
    simp
    omega
theorem size_sc {a b : Dc} {K : Nat} (ha : allD a.d) (hb : allD b.d) (na : NmD a.d) (nb : NmD b.d) (ka : 0 ≤ a.e + K) (kb : 0 ≤ b.e + K) :
    sizeF a b = sgnZ (((num a.d * 10 ^ (a.e + K).toNat : Nat) : Int) - ((num b.d * 10 ^ (b.e + K).toNat : Nat) : Int)) := by
  have la := num_lt ha
  have lb := num_lt hb
  have ga := num_ge ha na.1 na.2.1
  have gb := num_ge hb nb.1 nb.2.1
  have pa : 0 < a.d.length := List.length_pos_iff.2 na.1
  have pb : 0 < b.d.length := List.length_pos_iff.2 nb.1
  generalize hp : a.d.length = p at *
  generalize hq : b.d.length = q at *
  generalize hX : num a.d = X at *
  generalize hY : num b.d = Y at *
  have hea : (a.e + K).toNat + 0 = (a.e + K).toNat := rfl
  unfold sizeF
  rw [hp, hq]
  have key : ∀ {X Y p q u v : Nat}, X < 10 ^ p → 10 ^ (q - 1) ≤ Y → 0 < q → p + u < q + v → X * 10 ^ u < Y * 10 ^ v := fun {X Y p q u v} h1 h2 h3 h4 => by
    have e1 : X * 10 ^ u < 10 ^ p * 10 ^ u := Nat.mul_lt_mul_of_pos_right h1 (Nat.pow_pos (by omega))
    have e2 : 10 ^ (q - 1) * 10 ^ v ≤ Y * 10 ^ v := Nat.mul_le_mul_right _ h2
    rw [← Nat.pow_add] at e1 e2
    have e3 : 10 ^ (p + u) ≤ 10 ^ (q - 1 + v) := Nat.pow_le_pow_right (by omega) (by omega)
    omega
  by_cases h1 : (p : Int) + a.e < q + b.e
  · rw [if_pos h1]
    have := key (u := (a.e + K).toNat) (v := (b.e + K).toNat) la gb pb (by omega)
    unfold sgnZ
    rw [if_pos (by omega)]
  · rw [if_neg h1]
    by_cases h2 : (q : Int) + b.e < p + a.e
    · rw [if_pos h2]
      have := key (u := (b.e + K).toNat) (v := (a.e + K).toNat) lb ga pa (by omega)
      unfold sgnZ
      rw [if_neg (by omega), if_neg (by omega)]
    · rw [if_neg h2]
      have hM : p + (a.e + K).toNat = q + (b.e + K).toNat := by omega
      have fa : X * 10 ^ (a.e + K).toNat = fr (p + (a.e + K).toNat) a.d := by unfold fr; rw [hX, hp]; congr 2; omega
      have fb : Y * 10 ^ (b.e + K).toNat = fr (p + (a.e + K).toNat) b.d := by unfold fr; rw [hY, hq]; congr 2; omega
      have l1 := less_fr (p + (a.e + K).toNat) a.d b.d ha hb (by omega) (by omega) na.2.2 nb.2.2
      have l2 := less_fr (p + (a.e + K).toNat) b.d a.d hb ha (by omega) (by omega) nb.2.2 na.2.2
      rw [fa, fb]
      generalize fr (p + (a.e + K).toNat) a.d = U at *
      generalize fr (p + (a.e + K).toNat) b.d = V at *
      rw [l1, l2]
      unfold sgnZ
      by_cases h3 : U < V
      · rw [if_pos (decide_eq_true h3), if_pos (by omega)]
      · rw [if_neg (by simpa using h3)]
        by_cases h4 : V < U
        · rw [if_pos (decide_eq_true h4), if_neg (by omega), if_neg (by omega)]
        · rw [if_neg (by simpa using h4), if_neg (by omega), if_pos (by omega)]
theorem sgn_neg (z : Int) : sgnZ (-z) = -sgnZ z := by
  unfold sgnZ
  by_cases h : z < 0
  · rw [if_neg (by omega), if_neg (by omega), if_pos h]; rfl
  · by_cases h2 : z = 0
    · rw [if_neg (by omega), if_pos (by omega), if_neg h, if_pos h2]; rfl
    · rw [if_pos (by omega), if_neg h, if_neg h2]
/-- which is greater, by the values -/
theorem cmp_sc {a b : Dc} {K : Nat} (ha : allD a.d) (hb : allD b.d) (ka : 0 ≤ a.e + K) (kb : 0 ≤ b.e + K) : cmpF a b = sgnZ (sc K a - sc K b) := by
  unfold cmpF
  rw [← sc_norm ka, ← sc_norm kb]
  have hzs : sc K zeroD = 0 := by simp [sc, zeroD, num]
  rcases norm_cases a with ⟨ea, _⟩ | ⟨na, _, ha1, _, _, ha2, _⟩
  · rw [ea, hzs]
    rcases norm_cases b with ⟨eb, _⟩ | ⟨nb, _, hb1, _, _, hb2, _⟩
    · rw [eb, hzs]; rfl
    · have hp : 0 < num (normF b).d := num_pos (fun c hc => hb c (hb2 c hc)) nb.1 nb.2.2
      have hpp : 0 < num (normF b).d * 10 ^ ((normF b).e + K).toNat := Nat.mul_pos hp (Nat.pow_pos (by omega))
      unfold cmpN sc
      rw [if_neg (fun h => nb.1 h.2)]
      cases hn : (normF b).n with
      | true => rw [if_pos (.inl ⟨rfl, rfl⟩)]; unfold sgnZ; simp only [if_true]; rw [if_neg (by omega), if_neg (by omega)]
      | false => rw [if_neg (fun h => h.elim (fun h => by cases h.2) (fun h => nb.1 h.1)), if_pos (.inl rfl)]; unfold sgnZ; simp only [Bool.false_eq_true, if_false]; rw [if_pos (by omega)]
  · have pa : 0 < num (normF a).d := num_pos (fun c hc => ha c (ha2 c hc)) na.1 na.2.2
    have paa : 0 < num (normF a).d * 10 ^ ((normF a).e + K).toNat := Nat.mul_pos pa (Nat.pow_pos (by omega))
    rcases norm_cases b with ⟨eb, _⟩ | ⟨nb, _, hb1, _, _, hb2, _⟩
    · rw [eb, hzs]
      unfold cmpN sc
      rw [if_neg (fun h => na.1 h.1)]
      cases hn : (normF a).n with
      | true => rw [if_neg (fun h => h.elim (fun h => na.1 h.1) (fun h => by cases h.2)), if_pos (.inr rfl)]; unfold sgnZ; simp only [if_true]; rw [if_pos (by omega)]
      | false => rw [if_pos (.inr ⟨rfl, rfl⟩)]; unfold sgnZ; simp only [Bool.false_eq_true, if_false]; rw [if_neg (by omega), if_neg (by omega)]
    · have hp : 0 < num (normF b).d := num_pos (fun c hc => hb c (hb2 c hc)) nb.1 nb.2.2
      have hpp : 0 < num (normF b).d * 10 ^ ((normF b).e + K).toNat := Nat.mul_pos hp (Nat.pow_pos (by omega))
      have s1 := size_sc (a := normF a) (b := normF b) (K := K) (fun c hc => ha c (ha2 c hc)) (fun c hc => hb c (hb2 c hc)) na nb (by omega) (by omega)
      have s2 := size_sc (a := normF b) (b := normF a) (K := K) (fun c hc => hb c (hb2 c hc)) (fun c hc => ha c (ha2 c hc)) nb na (by omega) (by omega)
      unfold cmpN
      rw [if_neg (fun h => na.1 h.1), if_neg (fun h => h.elim (fun h => na.1 h.1) (fun h => nb.1 h.1)), if_neg (fun h => h.elim na.1 nb.1), s1, s2]
      unfold sc
      generalize num (normF a).d * 10 ^ ((normF a).e + K).toNat = X at *
      generalize num (normF b).d * 10 ^ ((normF b).e + K).toNat = Y at *
      cases (normF a).n <;> cases (normF b).n <;> simp <;> unfold sgnZ <;> (repeat' split) <;> omega
end Go.Proofs.YtakbbhhhdcnlnaaDoor
