/- Plain mathematics: what is printed is read, and is the number. -/
import Derived.Test.YtadbnajodpfpgaaDoorG10Ex
import Derived.Test.YtadbnajodpfpgaaDoorG10Int
namespace Go.Proofs.YtadbnajodpfpgaaDoor
set_option linter.unusedVariables false

/-- what is read of what is printed -/
def backD (n : Int) : Dc := normF ⟨decide (n < 0), dig n.natAbs, 0⟩
theorem read_print (n : Int) : readF (printF n) = some (backD n) := by
  have hx : Exp [] 0 := ⟨.inl ⟨rfl, rfl⟩⟩
  have hh : (dig n.natAbs).length = 1 ∨ (dig n.natAbs).head? ≠ some 48 := by
    rcases Nat.eq_zero_or_pos n.natAbs with h | h
    · rw [h, dig_zero]; exact .inl rfl
    · exact .inr (dig_head h)
  have h := read_form (decide (n < 0)) (w := dig n.natAbs) (f := []) (dig_all _) (dig_ne _) hh (fun c hc => by cases hc) hx
  have e : (if decide (n < 0) = true then [(45 : UInt8)] else []) ++ (dig n.natAbs ++ ((if ([] : List UInt8) = [] then [] else 46 :: []) ++ [])) = printF n := by
    unfold printF
    by_cases hn : n < 0
    · rw [if_pos (decide_eq_true hn), if_pos hn, if_pos rfl]; simp
    · rw [if_neg (by simpa using hn), if_neg hn, if_pos rfl]; simp
  rw [e] at h
  rw [h]
  unfold backD
  simp
theorem sc_back (n : Int) : sc 0 ⟨decide (n < 0), dig n.natAbs, 0⟩ = n * 10 ^ 0 := by
  unfold sc
  dsimp only
  rw [dig_num]
  by_cases hn : n < 0
  · rw [if_pos (decide_eq_true hn)]; simp; omega
  · rw [if_neg (by simpa using hn)]; simp; omega
theorem back_facts (n : Int) : allD (backD n).d ∧ 0 ≤ (backD n).e ∧ (backD n).d.length ≤ (dig n.natAbs).length ∧ (backD n).e ≤ (dig n.natAbs).length ∧ sc 0 (backD n) = n * 10 ^ 0 := by
  have h1 := norm_allD (x := ⟨decide (n < 0), dig n.natAbs, 0⟩) (dig_all _)
  have h2 := norm_e ⟨decide (n < 0), dig n.natAbs, 0⟩
  have h3 := norm_len ⟨decide (n < 0), dig n.natAbs, 0⟩
  have h4 := sc_norm (x := ⟨decide (n < 0), dig n.natAbs, 0⟩) (K := 0) (by simp)
  rw [sc_back] at h4
  unfold backD
  dsimp only at h2 h3
  exact ⟨h1, by omega, h3, by omega, h4⟩
theorem int_back (n : Int) : intF (backD n) = if n.natAbs ≤ maxW then (n, 0) else (0, errRange) := by
  obtain ⟨h1, h2, _, _, h5⟩ := back_facts n
  exact (int_of (K := 0) h1 (by omega) h5).2
theorem check_of {x : Dc} (hd : allD x.d) (h0 : -1000000000 ≤ x.e) (h1 : x.e ≤ 1000000000) : checkF x = true := by
  unfold checkF
  rw [decide_eq_true h0, decide_eq_true h1]
  have : allB x.d = true := List.all_eq_true.2 hd
  rw [this]; rfl
theorem dig_19 {n : Int} (h : I64 n) : (dig n.natAbs).length ≤ 19 := dig_len (by omega) (by unfold I64 at h; omega)
theorem check_back {n : Int} (h : I64 n) : checkF (backD n) = true ∧ (backD n).d.length ≤ 1000 := by
  obtain ⟨h1, h2, h3, h4, _⟩ := back_facts n
  have := dig_19 h
  exact ⟨check_of h1 (by omega) (by omega), by omega⟩
/-- how what is printed begins -/
theorem print_head (n : Int) : ∃ h : 0 < (bs (printF n)).size, (n < 0 ∧ (bs (printF n))[0] = 45) ∨ (n = 0 ∧ (bs (printF n)).toList = [48]) ∨ (0 < n ∧ (bs (printF n))[0] ≠ 45 ∧ (bs (printF n))[0] ≠ 48) := by
  have hs : 0 < (bs (printF n)).size := by
    rw [bs_size]
    unfold printF
    have := List.length_pos_iff.2 (dig_ne n.natAbs)
    rw [List.length_append]; omega
  refine ⟨hs, ?_⟩
  have hd := L8_drop (bs (printF n)) 0 hs
  rw [List.drop_zero, L8_bs] at hd
  have h2 := congrArg List.head? hd
  rw [List.head?_cons] at h2
  clear hd
  generalize (bs (printF n))[0] = c at *
  by_cases hn : n < 0
  · refine .inl ⟨hn, ?_⟩
    have e : printF n = 45 :: dig n.natAbs := by unfold printF; rw [if_pos hn]; rfl
    rw [e] at h2
    simpa using h2.symm
  · have e : printF n = dig n.natAbs := by unfold printF; rw [if_neg hn]; rfl
    rcases Nat.eq_zero_or_pos n.natAbs with h | h
    · refine .inr (.inl ⟨by omega, ?_⟩)
      rw [L8_toList, L8_bs, e, h, dig_zero]
    · refine .inr (.inr ⟨by omega, ?_⟩)
      rw [e] at h2
      have hh := dig_head h
      rw [h2] at hh
      have hm : c ∈ dig n.natAbs := List.mem_of_head? h2
      have hdg := d_not (dig_all n.natAbs _ hm)
      exact ⟨hdg.1, fun hc => hh (by rw [hc])⟩
end Go.Proofs.YtadbnajodpfpgaaDoor
