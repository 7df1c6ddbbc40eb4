/- Plain mathematics of DigitsForms: a whole number times ten as often as it is taken back. No walk in it. -/
import Derived.Test.YtadbnajodpfpgaaDoorG10BackM
namespace Go.Proofs.YtadbnajodpfpgaaDoor
set_option linter.unusedVariables false

def zs (z : Nat) : List UInt8 := List.replicate z 48
theorem zs_len (z : Nat) : (zs z).length = z := by unfold zs; simp
theorem zs_allD (z : Nat) : allD (zs z) := fun c hc => by rw [List.eq_of_mem_replicate hc]; rfl
theorem zs_num (z : Nat) : num (zs z) = 0 := by
  induction z with
  | zero => rfl
  | succ z ih =>
    have e : zs (z + 1) = 48 :: zs z := rfl
    rw [e, num_cons, ih, dv48]; simp
theorem zs_snoc (z : Nat) : zs z ++ [48] = zs (z + 1) := by unfold zs; exact (List.replicate_succ' ..).symm
/-- read, it is m -/
structure FormOf (m : Int) (s : ByteArray) : Prop where
  size : s.size ≤ 200
  is : ∃ x : Dc, readF (L8 s) = some (normF x) ∧ allD x.d ∧ x.d.length ≤ 200 ∧ -200 ≤ x.e ∧ x.e ≤ 200 ∧ ∀ K : Nat, 400 ≤ K → sc K x = m * 10 ^ K
theorem sc_of {n : Bool} {d : List UInt8} {e : Int} {m : Int} {K : Nat} (hn : n = decide (m < 0)) (hv : num d * 10 ^ (e + K).toNat = m.natAbs * 10 ^ K) : sc K ⟨n, d, e⟩ = m * 10 ^ K := by
  unfold sc
  dsimp only
  rw [hv, Int.natCast_mul]
  have e1 : (((10 ^ K : Nat)) : Int) = 10 ^ K := by simp
  rw [e1, ← Int.mul_assoc]
  congr 1
  subst hn
  by_cases hm : m < 0
  · rw [if_pos (decide_eq_true hm)]; omega
  · rw [if_neg (by simpa using hm)]; omega
theorem sc_pad (m : Int) (z : Nat) {K : Nat} (hz : z ≤ K) : sc K ⟨decide (m < 0), dig m.natAbs ++ zs z, -(z : Int)⟩ = m * 10 ^ K := by
  refine sc_of rfl ?_
  rw [num_app, dig_num, zs_num, zs_len, Nat.add_zero, Nat.mul_assoc, ← Nat.pow_add]
  congr 2
  omega
theorem dig_hd (N : Nat) : (dig N).length = 1 ∨ (dig N).head? ≠ some 48 := by
  rcases Nat.eq_zero_or_pos N with h | h
  · rw [h, dig_zero]; exact .inl rfl
  · exact .inr (dig_head h)
theorem allD_app {a b : List UInt8} (ha : allD a) (hb : allD b) : allD (a ++ b) := fun c hc => by
  rcases List.mem_append.1 hc with h | h
  · exact ha c h
  · exact hb c h
theorem print_text (m : Int) (t : List UInt8) : (if decide (m < 0) = true then [(45 : UInt8)] else []) ++ (dig m.natAbs ++ t) = printF m ++ t := by
  unfold printF
  by_cases h : m < 0
  · rw [if_pos (decide_eq_true h), if_pos h]; simp
  · rw [if_neg (by simpa using h), if_neg h]; simp
def In53 (m : Int) : Prop := m.natAbs < 9007199254740991
theorem dig_16 {m : Int} (h : In53 m) : (dig m.natAbs).length ≤ 16 := dig_len (by omega) (by unfold In53 at h; omega)
theorem print_17 {m : Int} (h : In53 m) : (printF m).length ≤ 17 := by
  have := dig_16 h
  unfold printF
  rw [List.length_append]
  split <;> simp <;> omega
theorem L8_size {s : ByteArray} {l : List UInt8} (h : L8 s = l) : s.size = l.length := by rw [← L8_len, h]
/-- by its point -/
theorem form_point {m : Int} {z : Nat} {s : ByteArray} (hm : In53 m) (hz : z ≤ 40) (hz0 : 0 < z) {t : List UInt8} {e : Int} (ht : Exp t e) (htl : t.length ≤ 10) (he : e = 0) (hs : L8 s = printF m ++ (46 :: zs z ++ t)) : FormOf m s := by
  have h1 := dig_16 hm
  have h2 := print_17 hm
  subst he
  refine ⟨?_, ⟨decide (m < 0), dig m.natAbs ++ zs z, -(z : Int)⟩, ?_, allD_app (dig_all _) (zs_allD z), ?_, ?_, ?_, fun K hK => sc_pad m z (by omega)⟩
  · rw [L8_size hs, List.length_append, List.cons_append, List.length_cons, List.length_append, zs_len]; omega
  · have h := read_form (decide (m < 0)) (w := dig m.natAbs) (f := zs z) (dig_all _) (dig_ne _) (dig_hd _) (zs_allD z) ht
    have hne : zs z ≠ [] := fun e => by have := zs_len z; rw [e] at this; simp at this; omega
    rw [if_neg hne, print_text, zs_len, Int.add_zero] at h
    rw [hs, h]
  · dsimp only; rw [List.length_append, zs_len]; omega
  · dsimp only; omega
  · dsimp only; omega
/-- with no point -/
theorem form_plain {m : Int} {z : Nat} {s : ByteArray} (hm : In53 m) (hz : z ≤ 40) (h0 : z = 0 ∨ m ≠ 0) {t : List UInt8} {e : Int} (ht : Exp t e) (htl : t.length ≤ 45) (he : e = -(z : Int)) (hs : L8 s = printF m ++ (zs z ++ t)) : FormOf m s := by
  have h1 := dig_16 hm
  have h2 := print_17 hm
  subst he
  refine ⟨?_, ⟨decide (m < 0), dig m.natAbs ++ zs z, -(z : Int)⟩, ?_, allD_app (dig_all _) (zs_allD z), ?_, ?_, ?_, fun K hK => sc_pad m z (by omega)⟩
  · rw [L8_size hs, List.length_append, List.length_append, zs_len]; omega
  · have hh : (dig m.natAbs ++ zs z).length = 1 ∨ (dig m.natAbs ++ zs z).head? ≠ some 48 := by
      rcases h0 with rfl | h0
      · have e0 : zs 0 = [] := rfl
        rw [e0, List.append_nil]; exact dig_hd _
      · refine .inr ?_
        have := dig_head (n := m.natAbs) (by omega)
        have hn := dig_ne m.natAbs
        cases hd : dig m.natAbs with
        | nil => exact absurd hd hn
        | cons c l => rw [hd] at this; simpa using this
    have hn2 : dig m.natAbs ++ zs z ≠ [] := fun e => dig_ne _ (List.append_eq_nil_iff.1 e).1
    have h := read_form (decide (m < 0)) (w := dig m.natAbs ++ zs z) (f := []) (allD_app (dig_all _) (zs_allD z)) hn2 hh (fun c hc => by cases hc) ht
    rw [if_pos rfl, List.nil_append, List.append_nil, List.append_assoc, print_text] at h
    rw [hs, h]
    simp
  · dsimp only; rw [List.length_append, zs_len]; omega
  · dsimp only; omega
  · dsimp only; omega
theorem exp_none : Exp [] 0 := ⟨.inl ⟨rfl, rfl⟩⟩
theorem exp_plus0 : Exp [101, 43, 48] 0 := ⟨.inr ⟨101, [48], .inl rfl, zs_allD 1, by simp, .inr (.inl ⟨rfl, rfl⟩)⟩⟩
theorem exp_zeros (z : Nat) : Exp (101 :: 48 :: zs z) 0 := ⟨.inr ⟨101, 48 :: zs z, .inl rfl, zs_allD (z + 1), by simp, .inl ⟨rfl, by rw [exF_num]; have : num (48 :: zs z) = 0 := zs_num (z + 1); rw [this]; rfl⟩⟩⟩
theorem exF_dig {n : Nat} (h : n ≤ 1000) : exF (dig n) = n := by rw [exF_num, dig_num]; omega
theorem exp_less {n : Nat} (h : n ≤ 1000) : Exp (69 :: 45 :: dig n) (-(n : Int)) := ⟨.inr ⟨69, dig n, .inr rfl, dig_all n, dig_ne n, .inr (.inr ⟨rfl, by rw [exF_dig h]⟩)⟩⟩
theorem exp_more {n : Nat} (h : n ≤ 1000) : Exp (101 :: dig n) n := ⟨.inr ⟨101, dig n, .inl rfl, dig_all n, dig_ne n, .inl ⟨rfl, by rw [exF_dig h]⟩⟩⟩
theorem print_nat {n : Int} (h : 0 ≤ n) : printF n = dig n.natAbs := by unfold printF; rw [if_neg (by omega), List.nil_append]
/-- a nought, a point, noughts, the number, and the exponent that takes it back -/
theorem form_front {m : Int} {z : Nat} {s : ByteArray} (hm : In53 m) (hz : z ≤ 40) (h0 : 0 < m) (hs : L8 s = 48 :: 46 :: (zs z ++ (dig m.natAbs ++ (101 :: dig (z + (dig m.natAbs).length))))) : FormOf m s := by
  have h1 := dig_16 hm
  have hl := dig_len (n := z + (dig m.natAbs).length) (k := 3) (by omega) (by omega)
  refine ⟨?_, ⟨false, [48] ++ (zs z ++ dig m.natAbs), 0⟩, ?_, allD_app (zs_allD 1) (allD_app (zs_allD z) (dig_all _)), ?_, ?_, ?_, fun K hK => ?_⟩
  · rw [L8_size hs]; simp only [List.length_cons, List.length_append, zs_len]; omega
  · have h := read_form false (w := [48]) (f := zs z ++ dig m.natAbs) (zs_allD 1) (by simp) (.inl rfl) (allD_app (zs_allD z) (dig_all _)) (exp_more (n := z + (dig m.natAbs).length) (by omega))
    have hne : zs z ++ dig m.natAbs ≠ [] := fun e => dig_ne _ (List.append_eq_nil_iff.1 e).2
    rw [if_neg hne, if_neg Bool.false_ne_true, List.nil_append] at h
    have e0 : -((zs z ++ dig m.natAbs).length : Int) + ((z + (dig m.natAbs).length : Nat) : Int) = 0 := by rw [List.length_append, zs_len]; omega
    rw [e0] at h
    rw [hs, ← h]
    simp
  · dsimp only; simp only [List.length_append, zs_len, List.length_singleton]; omega
  · dsimp only; omega
  · dsimp only; omega
  · refine sc_of (decide_eq_false (by omega)).symm ?_
    rw [num_app, num_app, zs_num, dig_num]
    have e48 : num [48] = 0 := zs_num 1
    rw [e48, Nat.zero_mul, Nat.zero_mul, Nat.zero_add, Nat.zero_add]
    congr 2
    omega
/-- what the walk asks of such a text -/
theorem form_end {m : Int} {s : ByteArray} (h : FormOf m s) (hm : In53 m) : ∃ y : Dc, readF (L8 s) = some y ∧ checkF y = true ∧ y.d.length ≤ 1000 ∧ wholeF y = true ∧ intF y = (m, 0) := by
  obtain ⟨x, h1, h2, h3, h4, h5, h6⟩ := h.is
  obtain ⟨K, hK⟩ : ∃ K : Nat, 400 ≤ K := ⟨_, Nat.le_refl _⟩
  have h7 := h6 K hK
  have hl := norm_len x
  have he := norm_e x
  have hk : 0 ≤ (normF x).e + K := by omega
  have hv : sc K (normF x) = m * 10 ^ K := by rw [sc_norm (by omega), h7]
  have hi := int_of (x := normF x) (K := K) (norm_allD h2) hk hv
  rw [if_pos (by unfold In53 at hm; unfold maxW; omega)] at hi
  exact ⟨normF x, h1, check_of (norm_allD h2) (by omega) (by omega), by omega, hi.1, hi.2⟩
end Go.Proofs.YtadbnajodpfpgaaDoor
