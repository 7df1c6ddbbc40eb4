/- The walk of Utf16Scalars. -/
import Derived.Test.YtmidoopapfkilaaU16LoneWalk
import Derived.Test.YtmidoopapfkilaaU16ScMath
import Derived.Test.YtmidoopapfkilaaRBytes
namespace Go.Proofs.Ytmidoopapfkilaa
open Go.ChangeShapes Go.WideShapes Go.ChangeAt Go.RowKit
set_option linter.unusedVariables false

theorem sc_none (n m k c d : Int) (w : World) (hcd : isB c = false ∨ isB d = false)
    (hrn : ∀ W : World, Calls Try.prog 19 #[.int .i64 n] W fun e w' => e = .returned (.int .i32 c) ∧ W = w')
    (hrm : ∀ W : World, Calls Try.prog 19 #[.int .i64 m] W fun e w' => e = .returned (.int .i32 d) ∧ W = w') :
    Calls Try.prog 6 #[.int .i64 n, .int .i64 m, .int .i64 k] w fun e w' => e = .returned (.bool true) ∧ Below w.heap.size w w' := by
  have HN := Lib.hid hrn
  have HM := Lib.hid hrm
  clear hrn hrm
  cases hc : isB c with
  | false =>
    clear hcd
    go_enter Try.func6, Try.ntmps6
    go_wp2_with fail
    with_reducible refine (HN.out _).mono ?_
    rintro e w' ⟨rfl, rfl⟩
    go_wp2_with fail
    with_reducible refine (HM.out _).mono ?_
    rintro e w' ⟨rfl, rfl⟩
    go_wp2_with fail
    with_reducible refine (r_is_any c _).mono ?_
    rintro e w' ⟨rfl, rfl⟩
    go_wp2_with fail
    with_reducible refine (awake_any _).mono ?_
    rintro e w7 ⟨rfl, hb7⟩
    go_wp2
    go_ret
    exact ⟨rfl, hb7⟩
  | true =>
    have hd : isB d = false := by rcases hcd with h | h
                                  · rw [hc] at h; cases h
                                  · exact h
    clear hcd
    go_enter Try.func6, Try.ntmps6
    go_wp2_with fail
    with_reducible refine (HN.out _).mono ?_
    rintro e w' ⟨rfl, rfl⟩
    go_wp2_with fail
    with_reducible refine (HM.out _).mono ?_
    rintro e w' ⟨rfl, rfl⟩
    go_wp2_with fail
    with_reducible refine (r_is_any c _).mono ?_
    rintro e w' ⟨rfl, rfl⟩
    go_wp2_with fail
    with_reducible refine (r_is_any d _).mono ?_
    rintro e w' ⟨rfl, rfl⟩
    go_wp2_with fail
    with_reducible refine (awake_any _).mono ?_
    rintro e w7 ⟨rfl, hb7⟩
    go_wp2
    go_ret
    exact ⟨rfl, hb7⟩

set_option maxHeartbeats 8000000 in
theorem sc_core (n m k c d : Int) (w : World) (hc : isB c = true) (hd : isB d = true)
    (hrn : ∀ W : World, Calls Try.prog 19 #[.int .i64 n] W fun e w' => e = .returned (.int .i32 c) ∧ W = w')
    (hrm : ∀ W : World, Calls Try.prog 19 #[.int .i64 m] W fun e w' => e = .returned (.int .i32 d) ∧ W = w') :
    Calls Try.prog 6 #[.int .i64 n, .int .i64 m, .int .i64 k] w fun e w' => e = .returned (.bool true) ∧ Below w.heap.size w w' := by
  have HN := Lib.hid hrn
  have HM := Lib.hid hrm
  have HCU := Lib.hid (cmp_un1 hc hd)
  have HLE := Lib.hid (str_less hc hd)
  clear hrn hrm
  go_enter Try.func6, Try.ntmps6
  go_wp2_with fail
  with_reducible refine (HN.out _).mono ?_
  rintro e w' ⟨rfl, rfl⟩
  go_wp2_with fail
  with_reducible refine (HM.out _).mono ?_
  rintro e w' ⟨rfl, rfl⟩
  go_wp2_with fail
  with_reducible refine (r_is_any c _).mono ?_
  rintro e w' ⟨rfl, rfl⟩
  go_wp2_with fail
  with_reducible refine (r_is_any d _).mono ?_
  rintro e w' ⟨rfl, rfl⟩
  go_wp2_with fail
  with_reducible refine (cmp_lit c d w _ rfl).mono ?_
  rintro e w1 ⟨rfl, hb1⟩
  clear hc hd
  generalize cmpL (un1 c) (un1 d) = g at *
  go_wp2_with fail
  refine wp_region_G (by kernel_rfl) ?_
  have hg2 := Grow.drew w1
  generalize w1.drew = w2 at hg2 ⊢
  refine wpG_take 0 31 (v := ?v0) rfl rfl (by kernel_rfl) (by kernel_rfl) (by kernel_rfl) (fun _ _ _ h => h) (Or.inl ⟨by rfl, ?y0⟩) ?r0
  case y0 => (intro W hW; (go_simp; try with_reducible rfl))
  simp only [Act.put, List.setIfInBounds_toArray, List.set_cons_zero, List.set_cons_succ]
  refine wpG_take 3 34 (v := ?v3) rfl rfl (by kernel_rfl) (by kernel_rfl) (by kernel_rfl) (fun _ _ _ h => h) (Or.inl ⟨by rfl, ?y3⟩) ?r3
  case y3 => (intro W hW; (go_simp; try with_reducible rfl))
  simp only [Act.put, List.setIfInBounds_toArray, List.set_cons_zero, List.set_cons_succ]
  refine wpG_call 1 (by kernel_rfl) rfl (fun K hK => ?_)
  go_simp
  with_reducible refine (Calls.mono (r_bytes_any c w2) (fun _ _ h => RowRes.str h)).mono ?_
  rintro e w3 ⟨v3, rfl, hcv3, hg23⟩
  have hg3 := hg2.trans hg23
  have HV3 := Lib.hid hcv3
  clear hcv3
  go_wp2_with fail
  refine hK.out _ _ ?_ ?_
  · exact hg23
  clear hK K
  refine wpG_take 2 33 (v := ?v2) rfl rfl (by kernel_rfl) (by kernel_rfl) (by kernel_rfl) (fun _ _ _ h => h) (Or.inl ⟨by rfl, ?y2⟩) ?r2
  case y2 => (intro W hW; have hcv := HV3.out W hW; (go_simp; try with_reducible rfl))
  simp only [Act.put, List.setIfInBounds_toArray, List.set_cons_zero, List.set_cons_succ]
  refine wpG_call 4 (by kernel_rfl) rfl (fun K hK => ?_)
  go_simp
  with_reducible refine (Calls.mono (r_bytes_any d w3) (fun _ _ h => RowRes.str h)).mono ?_
  rintro e w4 ⟨v4, rfl, hcv4, hg34⟩
  have hg4 := hg3.trans hg34
  have HV4 := Lib.hid hcv4
  clear hcv4
  go_wp2_with fail
  refine hK.out _ _ ?_ ?_
  · exact hg34
  clear hK K
  refine wpG_take 5 36 (v := ?v5) rfl rfl (by kernel_rfl) (by kernel_rfl) (by kernel_rfl) (fun _ _ _ h => h) (Or.inl ⟨by rfl, ?y5⟩) ?r5
  case y5 => (intro W hW; have hcv := HV4.out W hW; (go_simp; try with_reducible rfl))
  simp only [Act.put, List.setIfInBounds_toArray, List.set_cons_zero, List.set_cons_succ]
  refine wpG_take 6 37 (v := ?v6) rfl rfl (by kernel_rfl) (by kernel_rfl) (by kernel_rfl) (fun _ _ _ h => h) (Or.inl ⟨by rfl, ?y6⟩) ?r6
  case y6 => (intro W hW; (go_simp; try with_reducible rfl))
  simp only [Act.put, List.setIfInBounds_toArray, List.set_cons_zero, List.set_cons_succ]
  refine wpG_take 7 10 (v := ?v7) rfl rfl (by kernel_rfl) (by kernel_rfl) (by kernel_rfl) (fun _ _ _ h => h) (Or.inl ⟨by rfl, ?y7⟩) ?r7
  case y7 => (intro W hW; (go_simp; try with_reducible rfl))
  simp only [Act.put, List.setIfInBounds_toArray, List.set_cons_zero, List.set_cons_succ]
  refine wpG_done (by kernel_rfl) ?_ _
  have hb4 := hb1.trans (hg4.below.mono hb1.size)
  clear hg2 hg3 hg4 hg23 hg34 HV3 HV4 hb1
  obtain ⟨x, hx, hx0, hx1⟩ : ∃ x, 65536 + k % 1048576 = x ∧ 65536 ≤ x ∧ x ≤ 1114111 := ⟨_, rfl, by omega, by omega⟩
  have HH := Lib.hid hx
  have HX1 := Lib.hid (cmp_high hx0 hx1).1
  have HX2 := Lib.hid (cmp_high hx0 hx1).2
  clear hx
  rcases HCU.out with ⟨h, hk, hg⟩ | ⟨h, k1, k2, k3, hg⟩ | ⟨h, hg⟩ | ⟨h, hk, hg⟩ | ⟨h, k1, k2, k3, hg⟩
  all_goals subst hg
  · by_cases a1 : 65536 ≤ c
    · skip
      have q1 : decide (65536 ≤ c) = true := decide_eq_true (by omega)
      have q2 : decide (57344 ≤ d) = true := decide_eq_true (by omega)
      have q3 : decide (d < 65536) = false := decide_eq_false (by omega)
      have q4 : decide (65536 ≤ d) = true := decide_eq_true (by omega)
      have q5 : decide (57344 ≤ c) = true := decide_eq_true (by omega)
      have q6 : decide (c < 65536) = false := decide_eq_false (by omega)
      have hle := HLE.out.trans (decide_eq_true h)
      have hne : (c != d) = true := bne_iff_ne.2 (by omega)
      have heq : (c == d) = false := beq_eq_false_iff_ne.2 (by omega)
      clear h hk a1
      clear HLE HCU
      rw [hle]
      clear hle
      go_wp2_with fail
      with_reducible refine (place_any k 1048576 _ (by omega) (by omega)).mono ?_
      rintro e w' ⟨rfl, rfl⟩
      go_wp2_with fail
      rw [HH.out]
      with_reducible refine (cmp_lit x 57344 w4 _ rfl).mono ?_
      rintro e w5 ⟨rfl, hb5'⟩
      rw [HX1.out]
      have hb5 := hb4.trans (hb5'.mono hb4.size)
      clear hb5'
      go_wp2_with fail
      with_reducible refine (cmp_lit x 55295 w5 _ rfl).mono ?_
      rintro e w6 ⟨rfl, hb6'⟩
      rw [HX2.out]
      have hb6 := hb5.trans (hb6'.mono hb5.size)
      clear hb6'
      go_wp2_with fail
      with_reducible refine (awake_any _).mono ?_
      rintro e w7 ⟨rfl, hb7'⟩
      have hb7 := hb6.trans (hb7'.mono hb6.size)
      go_wp2
      go_ret
      exact ⟨rfl, hb7⟩
    · by_cases a2 : 65536 ≤ d
      · skip
        have q1 : decide (65536 ≤ c) = false := decide_eq_false (by omega)
        have q4 : decide (65536 ≤ d) = true := decide_eq_true (by omega)
        have q5 : decide (57344 ≤ c) = false := decide_eq_false (by omega)
        have hle := HLE.out.trans (decide_eq_true h)
        have hne : (c != d) = true := bne_iff_ne.2 (by omega)
        have heq : (c == d) = false := beq_eq_false_iff_ne.2 (by omega)
        clear h hk a1 a2
        clear HLE HCU
        rw [hle]
        clear hle
        go_wp2_with fail
        with_reducible refine (place_any k 1048576 _ (by omega) (by omega)).mono ?_
        rintro e w' ⟨rfl, rfl⟩
        go_wp2_with fail
        rw [HH.out]
        with_reducible refine (cmp_lit x 57344 w4 _ rfl).mono ?_
        rintro e w5 ⟨rfl, hb5'⟩
        rw [HX1.out]
        have hb5 := hb4.trans (hb5'.mono hb4.size)
        clear hb5'
        go_wp2_with fail
        with_reducible refine (cmp_lit x 55295 w5 _ rfl).mono ?_
        rintro e w6 ⟨rfl, hb6'⟩
        rw [HX2.out]
        have hb6 := hb5.trans (hb6'.mono hb5.size)
        clear hb6'
        go_wp2_with fail
        with_reducible refine (awake_any _).mono ?_
        rintro e w7 ⟨rfl, hb7'⟩
        have hb7 := hb6.trans (hb7'.mono hb6.size)
        go_wp2
        go_ret
        exact ⟨rfl, hb7⟩
      · skip
        have q1 : decide (65536 ≤ c) = false := decide_eq_false (by omega)
        have q4 : decide (65536 ≤ d) = false := decide_eq_false (by omega)
        have hle := HLE.out.trans (decide_eq_true h)
        have hne : (c != d) = true := bne_iff_ne.2 (by omega)
        have heq : (c == d) = false := beq_eq_false_iff_ne.2 (by omega)
        clear h hk a1 a2
        clear HLE HCU
        rw [hle]
        clear hle
        go_wp2_with fail
        with_reducible refine (place_any k 1048576 _ (by omega) (by omega)).mono ?_
        rintro e w' ⟨rfl, rfl⟩
        go_wp2_with fail
        rw [HH.out]
        with_reducible refine (cmp_lit x 57344 w4 _ rfl).mono ?_
        rintro e w5 ⟨rfl, hb5'⟩
        rw [HX1.out]
        have hb5 := hb4.trans (hb5'.mono hb4.size)
        clear hb5'
        go_wp2_with fail
        with_reducible refine (cmp_lit x 55295 w5 _ rfl).mono ?_
        rintro e w6 ⟨rfl, hb6'⟩
        rw [HX2.out]
        have hb6 := hb5.trans (hb6'.mono hb5.size)
        clear hb6'
        go_wp2_with fail
        with_reducible refine (awake_any _).mono ?_
        rintro e w7 ⟨rfl, hb7'⟩
        have hb7 := hb6.trans (hb7'.mono hb6.size)
        go_wp2
        go_ret
        exact ⟨rfl, hb7⟩
  · skip
    have q1 : decide (65536 ≤ c) = false := decide_eq_false (by omega)
    have q4 : decide (65536 ≤ d) = true := decide_eq_true (by omega)
    have q5 : decide (57344 ≤ c) = true := decide_eq_true (by omega)
    have q6 : decide (c < 65536) = true := decide_eq_true (by omega)
    have hle := HLE.out.trans (decide_eq_true h)
    have hne : (c != d) = true := bne_iff_ne.2 (by omega)
    have heq : (c == d) = false := beq_eq_false_iff_ne.2 (by omega)
    clear h k1 k2 k3
    clear HLE HCU
    rw [hle]
    clear hle
    go_wp2_with fail
    with_reducible refine (place_any k 1048576 _ (by omega) (by omega)).mono ?_
    rintro e w' ⟨rfl, rfl⟩
    go_wp2_with fail
    rw [HH.out]
    with_reducible refine (cmp_lit x 57344 w4 _ rfl).mono ?_
    rintro e w5 ⟨rfl, hb5'⟩
    rw [HX1.out]
    have hb5 := hb4.trans (hb5'.mono hb4.size)
    clear hb5'
    go_wp2_with fail
    with_reducible refine (cmp_lit x 55295 w5 _ rfl).mono ?_
    rintro e w6 ⟨rfl, hb6'⟩
    rw [HX2.out]
    have hb6 := hb5.trans (hb6'.mono hb5.size)
    clear hb6'
    go_wp2_with fail
    with_reducible refine (awake_any _).mono ?_
    rintro e w7 ⟨rfl, hb7'⟩
    have hb7 := hb6.trans (hb7'.mono hb6.size)
    go_wp2
    go_ret
    exact ⟨rfl, hb7⟩
  · subst h
    by_cases a1 : 65536 ≤ c
    · have q1 : decide (65536 ≤ c) = true := decide_eq_true (by omega)
      have q2 : decide (57344 ≤ c) = true := decide_eq_true (by omega)
      have q3 : decide (c < 65536) = false := decide_eq_false (by omega)
      have hle := HLE.out.trans (decide_eq_false (by omega))
      have hne : (c != c) = false := by simp
      have heq : (c == c) = true := by simp
      clear a1
      clear HLE HCU
      rw [hle]
      clear hle
      go_wp2_with fail
      with_reducible refine (place_any k 1048576 _ (by omega) (by omega)).mono ?_
      rintro e w' ⟨rfl, rfl⟩
      go_wp2_with fail
      rw [HH.out]
      with_reducible refine (cmp_lit x 57344 w4 _ rfl).mono ?_
      rintro e w5 ⟨rfl, hb5'⟩
      rw [HX1.out]
      have hb5 := hb4.trans (hb5'.mono hb4.size)
      clear hb5'
      go_wp2_with fail
      with_reducible refine (cmp_lit x 55295 w5 _ rfl).mono ?_
      rintro e w6 ⟨rfl, hb6'⟩
      rw [HX2.out]
      have hb6 := hb5.trans (hb6'.mono hb5.size)
      clear hb6'
      go_wp2_with fail
      with_reducible refine (awake_any _).mono ?_
      rintro e w7 ⟨rfl, hb7'⟩
      have hb7 := hb6.trans (hb7'.mono hb6.size)
      go_wp2
      go_ret
      exact ⟨rfl, hb7⟩
    · have q1 : decide (65536 ≤ c) = false := decide_eq_false (by omega)
      have hle := HLE.out.trans (decide_eq_false (by omega))
      have hne : (c != c) = false := by simp
      have heq : (c == c) = true := by simp
      clear a1
      clear HLE HCU
      rw [hle]
      clear hle
      go_wp2_with fail
      with_reducible refine (place_any k 1048576 _ (by omega) (by omega)).mono ?_
      rintro e w' ⟨rfl, rfl⟩
      go_wp2_with fail
      rw [HH.out]
      with_reducible refine (cmp_lit x 57344 w4 _ rfl).mono ?_
      rintro e w5 ⟨rfl, hb5'⟩
      rw [HX1.out]
      have hb5 := hb4.trans (hb5'.mono hb4.size)
      clear hb5'
      go_wp2_with fail
      with_reducible refine (cmp_lit x 55295 w5 _ rfl).mono ?_
      rintro e w6 ⟨rfl, hb6'⟩
      rw [HX2.out]
      have hb6 := hb5.trans (hb6'.mono hb5.size)
      clear hb6'
      go_wp2_with fail
      with_reducible refine (awake_any _).mono ?_
      rintro e w7 ⟨rfl, hb7'⟩
      have hb7 := hb6.trans (hb7'.mono hb6.size)
      go_wp2
      go_ret
      exact ⟨rfl, hb7⟩
  · by_cases a1 : 65536 ≤ d
    · skip
      have q1 : decide (65536 ≤ c) = true := decide_eq_true (by omega)
      have q2 : decide (57344 ≤ d) = true := decide_eq_true (by omega)
      have q3 : decide (d < 65536) = false := decide_eq_false (by omega)
      have q4 : decide (65536 ≤ d) = true := decide_eq_true (by omega)
      have q5 : decide (57344 ≤ c) = true := decide_eq_true (by omega)
      have q6 : decide (c < 65536) = false := decide_eq_false (by omega)
      have hle := HLE.out.trans (decide_eq_false (by omega))
      have hne : (c != d) = true := bne_iff_ne.2 (by omega)
      have heq : (c == d) = false := beq_eq_false_iff_ne.2 (by omega)
      clear h hk a1
      clear HLE HCU
      rw [hle]
      clear hle
      go_wp2_with fail
      with_reducible refine (place_any k 1048576 _ (by omega) (by omega)).mono ?_
      rintro e w' ⟨rfl, rfl⟩
      go_wp2_with fail
      rw [HH.out]
      with_reducible refine (cmp_lit x 57344 w4 _ rfl).mono ?_
      rintro e w5 ⟨rfl, hb5'⟩
      rw [HX1.out]
      have hb5 := hb4.trans (hb5'.mono hb4.size)
      clear hb5'
      go_wp2_with fail
      with_reducible refine (cmp_lit x 55295 w5 _ rfl).mono ?_
      rintro e w6 ⟨rfl, hb6'⟩
      rw [HX2.out]
      have hb6 := hb5.trans (hb6'.mono hb5.size)
      clear hb6'
      go_wp2_with fail
      with_reducible refine (awake_any _).mono ?_
      rintro e w7 ⟨rfl, hb7'⟩
      have hb7 := hb6.trans (hb7'.mono hb6.size)
      go_wp2
      go_ret
      exact ⟨rfl, hb7⟩
    · by_cases a2 : 65536 ≤ c
      · skip
        have q1 : decide (65536 ≤ c) = true := decide_eq_true (by omega)
        have q2 : decide (57344 ≤ d) = false := decide_eq_false (by omega)
        have q4 : decide (65536 ≤ d) = false := decide_eq_false (by omega)
        have hle := HLE.out.trans (decide_eq_false (by omega))
        have hne : (c != d) = true := bne_iff_ne.2 (by omega)
        have heq : (c == d) = false := beq_eq_false_iff_ne.2 (by omega)
        clear h hk a1 a2
        clear HLE HCU
        rw [hle]
        clear hle
        go_wp2_with fail
        with_reducible refine (place_any k 1048576 _ (by omega) (by omega)).mono ?_
        rintro e w' ⟨rfl, rfl⟩
        go_wp2_with fail
        rw [HH.out]
        with_reducible refine (cmp_lit x 57344 w4 _ rfl).mono ?_
        rintro e w5 ⟨rfl, hb5'⟩
        rw [HX1.out]
        have hb5 := hb4.trans (hb5'.mono hb4.size)
        clear hb5'
        go_wp2_with fail
        with_reducible refine (cmp_lit x 55295 w5 _ rfl).mono ?_
        rintro e w6 ⟨rfl, hb6'⟩
        rw [HX2.out]
        have hb6 := hb5.trans (hb6'.mono hb5.size)
        clear hb6'
        go_wp2_with fail
        with_reducible refine (awake_any _).mono ?_
        rintro e w7 ⟨rfl, hb7'⟩
        have hb7 := hb6.trans (hb7'.mono hb6.size)
        go_wp2
        go_ret
        exact ⟨rfl, hb7⟩
      · skip
        have q1 : decide (65536 ≤ c) = false := decide_eq_false (by omega)
        have q4 : decide (65536 ≤ d) = false := decide_eq_false (by omega)
        have hle := HLE.out.trans (decide_eq_false (by omega))
        have hne : (c != d) = true := bne_iff_ne.2 (by omega)
        have heq : (c == d) = false := beq_eq_false_iff_ne.2 (by omega)
        clear h hk a1 a2
        clear HLE HCU
        rw [hle]
        clear hle
        go_wp2_with fail
        with_reducible refine (place_any k 1048576 _ (by omega) (by omega)).mono ?_
        rintro e w' ⟨rfl, rfl⟩
        go_wp2_with fail
        rw [HH.out]
        with_reducible refine (cmp_lit x 57344 w4 _ rfl).mono ?_
        rintro e w5 ⟨rfl, hb5'⟩
        rw [HX1.out]
        have hb5 := hb4.trans (hb5'.mono hb4.size)
        clear hb5'
        go_wp2_with fail
        with_reducible refine (cmp_lit x 55295 w5 _ rfl).mono ?_
        rintro e w6 ⟨rfl, hb6'⟩
        rw [HX2.out]
        have hb6 := hb5.trans (hb6'.mono hb5.size)
        clear hb6'
        go_wp2_with fail
        with_reducible refine (awake_any _).mono ?_
        rintro e w7 ⟨rfl, hb7'⟩
        have hb7 := hb6.trans (hb7'.mono hb6.size)
        go_wp2
        go_ret
        exact ⟨rfl, hb7⟩
  · skip
    have q1 : decide (65536 ≤ c) = true := decide_eq_true (by omega)
    have q2 : decide (57344 ≤ d) = true := decide_eq_true (by omega)
    have q3 : decide (d < 65536) = true := decide_eq_true (by omega)
    have hle := HLE.out.trans (decide_eq_false (by omega))
    have hne : (c != d) = true := bne_iff_ne.2 (by omega)
    have heq : (c == d) = false := beq_eq_false_iff_ne.2 (by omega)
    clear h k1 k2 k3
    clear HLE HCU
    rw [hle]
    clear hle
    go_wp2_with fail
    with_reducible refine (place_any k 1048576 _ (by omega) (by omega)).mono ?_
    rintro e w' ⟨rfl, rfl⟩
    go_wp2_with fail
    rw [HH.out]
    with_reducible refine (cmp_lit x 57344 w4 _ rfl).mono ?_
    rintro e w5 ⟨rfl, hb5'⟩
    rw [HX1.out]
    have hb5 := hb4.trans (hb5'.mono hb4.size)
    clear hb5'
    go_wp2_with fail
    with_reducible refine (cmp_lit x 55295 w5 _ rfl).mono ?_
    rintro e w6 ⟨rfl, hb6'⟩
    rw [HX2.out]
    have hb6 := hb5.trans (hb6'.mono hb5.size)
    clear hb6'
    go_wp2_with fail
    with_reducible refine (awake_any _).mono ?_
    rintro e w7 ⟨rfl, hb7'⟩
    have hb7 := hb6.trans (hb7'.mono hb6.size)
    go_wp2
    go_ret
    exact ⟨rfl, hb7⟩

theorem sc_walk (n m k : Int) (w : World) :
    Calls Try.prog 6 #[.int .i64 n, .int .i64 m, .int .i64 k] w fun e w' => e = .returned (.bool true) ∧ Below w.heap.size w w' := by
  obtain ⟨c, _, hn⟩ := rune_fn n
  obtain ⟨d, _, hm⟩ := rune_fn m
  cases hc : isB c with
  | false => exact sc_none n m k c d w (.inl hc) hn hm
  | true => cases hd : isB d with
    | false => exact sc_none n m k c d w (.inr hd) hn hm
    | true => exact sc_core n m k c d w hc hd hn hm
end Go.Proofs.Ytmidoopapfkilaa
