/- The walk of Utf8Turned. -/
import Derived.Test.YtbmeinicjfmjlaaDoorU8AllWalk
import Derived.Test.YtbmeinicjfmjlaaDoorLaw00
import Derived.Test.YtbmeinicjfmjlaaDoorU8Inj
namespace Go.Proofs.YtbmeinicjfmjlaaDoor
open Go.ChangeShapes Go.WideShapes Go.ChangeAt Go.RowKit
set_option linter.unusedVariables false

theorem byt_pos {c : Int} (h : isB c = true) : 1 ≤ (byt c).length := by
  unfold byt; rw [h]; (repeat' split) <;> simp_all

theorem first_tail (x : Int) (w : World) (g : Nat) (hg : w.heap.size = g) (hT : Tab w) (x0 : 0 ≤ x) (x1 : x ≤ 255) : Calls Tryd.prog 9 #[.slice (some ⟨g, 0, none⟩) 2 2] (w.alloc (.cells #[.int .u8 (128 + x % 64), .int .u8 x] 5)) fun e w' => e = .returned (.tuple #[.int .i32 0, .int .i64 0, .bool false]) ∧ Below w.heap.size w w' := by
  subst hg
  have h := first_lit w hT [128 + x % 64, x] (fun y hy => by simp at hy; omega) (by simp [maxLen])
  have hl : lng (128 + x % 64) = 0 := by unfold lng; (repeat' split) <;> omega
  obtain ⟨e1, e2, e3⟩ := first_no (b := [128 + x % 64, x]) (k := 0) (by simp) (fun j a b => by omega) (.inr (by simp [how, hl]))
  rw [e1, e2, e3] at h
  exact h

set_option maxHeartbeats 4000000 in
theorem turned_core (n m x c d : Int) (w : World) (hT : Tab w) (x0 : 0 ≤ x) (x1 : x ≤ 255) (hc : isB c = true) (hd : isB d = true)
    (hrn : ∀ W : World, Calls Tryd.prog 24 #[.int .i64 n] W fun e w' => e = .returned (.int .i32 c) ∧ W = w')
    (hrm : ∀ W : World, Calls Tryd.prog 24 #[.int .i64 m] W fun e w' => e = .returned (.int .i32 d) ∧ W = w') :
    Calls Tryd.prog 7 #[.int .i64 n, .int .i64 m, .int .u8 x] w fun e w' => e = .returned (.bool true) ∧ Below w.heap.size w w' := by
  have HN := Lib.hid hrn
  have HM := Lib.hid hrm
  clear hrn hrm
  go_enter Tryd.func7, Tryd.ntmps7
  go_wp2_with fail
  with_reducible refine (HN.out _).mono ?_
  rintro e w' ⟨rfl, rfl⟩
  go_wp2_with fail
  with_reducible refine (HM.out _).mono ?_
  rintro e w' ⟨rfl, rfl⟩
  go_wp2_with fail
  with_reducible refine (r_is_any c _).mono ?_
  rintro e w' ⟨rfl, rfl⟩
  go_wp2_with fail
  with_reducible refine (r_is_any d _).mono ?_
  rintro e w' ⟨rfl, rfl⟩
  go_wp2_with fail
  refine wp_region_G (by kernel_rfl) ?_
  have hg1 := Grow.drew w
  generalize w.drew = w1 at hg1 ⊢
  refine wpG_take 0 28 (v := ?v0) rfl rfl (by kernel_rfl) (by kernel_rfl) (by kernel_rfl) (fun _ _ _ h => h) (Or.inl ⟨by rfl, ?y0⟩) ?r0
  case y0 => (intro W hW; (go_simp; try with_reducible rfl))
  simp only [Act.put, List.setIfInBounds_toArray, List.set_cons_zero, List.set_cons_succ]
  refine wpG_take 3 31 (v := ?v3) rfl rfl (by kernel_rfl) (by kernel_rfl) (by kernel_rfl) (fun _ _ _ h => h) (Or.inl ⟨by rfl, ?y3⟩) ?r3
  case y3 => (intro W hW; (go_simp; try with_reducible rfl))
  simp only [Act.put, List.setIfInBounds_toArray, List.set_cons_zero, List.set_cons_succ]
  refine wpG_call 1 (by kernel_rfl) rfl (fun K hK => ?_)
  go_simp
  with_reducible refine (Calls.mono (bytes_any c w1) (fun _ _ h => RowRes.str h)).mono ?_
  rintro e w2 ⟨v2, rfl, hcv2, hg12⟩
  have hg2 := hg1.trans hg12
  have HV2 := Lib.hid hcv2
  clear hcv2
  go_wp2_with fail
  refine hK.out _ _ ?_ ?_
  · exact hg12
  clear hK K
  refine wpG_take 2 30 (v := ?v2) rfl rfl (by kernel_rfl) (by kernel_rfl) (by kernel_rfl) (fun _ _ _ h => h) (Or.inl ⟨by rfl, ?y2⟩) ?r2
  case y2 => (intro W hW; have hcv := HV2.out W hW; (go_simp; try with_reducible rfl))
  simp only [Act.put, List.setIfInBounds_toArray, List.set_cons_zero, List.set_cons_succ]
  refine wpG_call 4 (by kernel_rfl) rfl (fun K hK => ?_)
  go_simp
  with_reducible refine (Calls.mono (bytes_any d w2) (fun _ _ h => RowRes.str h)).mono ?_
  rintro e w3 ⟨v3, rfl, hcv3, hg23⟩
  have hg3 := hg2.trans hg23
  have HV3 := Lib.hid hcv3
  clear hcv3
  go_wp2_with fail
  refine hK.out _ _ ?_ ?_
  · exact hg23
  clear hK K
  refine wpG_take 5 33 (v := ?v5) rfl rfl (by kernel_rfl) (by kernel_rfl) (by kernel_rfl) (fun _ _ _ h => h) (Or.inl ⟨by rfl, ?y5⟩) ?r5
  case y5 => (intro W hW; have hcv := HV3.out W hW; (go_simp; try with_reducible rfl))
  simp only [Act.put, List.setIfInBounds_toArray, List.set_cons_zero, List.set_cons_succ]
  refine wpG_take 6 9 (v := ?v6) rfl rfl (by kernel_rfl) (by kernel_rfl) (by kernel_rfl) (fun _ _ _ h => h) (Or.inl ⟨by rfl, ?y6⟩) ?r6
  case y6 => (intro W hW; (go_simp; try with_reducible rfl))
  simp only [Act.put, List.setIfInBounds_toArray, List.set_cons_zero, List.set_cons_succ]
  refine wpG_take 7 10 (v := ?v7) rfl rfl (by kernel_rfl) (by kernel_rfl) (by kernel_rfl) (fun _ _ _ h => h) (Or.inl ⟨by rfl, ?y7⟩) ?r7
  case y7 => (intro W hW; (go_simp; try with_reducible rfl))
  simp only [Act.put, List.setIfInBounds_toArray, List.set_cons_zero, List.set_cons_succ]
  refine wpG_done (by kernel_rfl) ?_ _
  have hT3 := hT.below' hg3.below
  have hsc := strOfNums_size (byt c)
  have hsd := strOfNums_size (byt d)
  have hpc := byt_pos hc
  have hpd := byt_pos hd
  have hlc := byt_len c
  have hld := byt_len d
  generalize hS : strOfNums (byt c) = s at hsc HV2 ⊢
  generalize hU : strOfNums (byt d) = t at hsd HV3 ⊢
  have HS := Lib.hid hS
  have HU := Lib.hid hU
  clear hS hU
  have hs0 : 1 ≤ s.size := by omega
  have ht0 : 1 ≤ t.size := by omega
  have HSC := Lib.hid hsc
  have HSD := Lib.hid hsd
  clear hsc hsd
  by_cases hst : s.size ≤ t.size
  · have hst' : (s.size : Int) ≤ t.size := by omega
    have hne : ((s.size : Int) == 0) = false := beq_eq_false_iff_ne.2 (by omega)
    have hE : (s.toList == (t.extract 0 s.size).toList) = (c == d) := by
      rw [← HS.out, ← HU.out]; exact str_pre hc hd (by rw [HS.out, HU.out]; exact hst)
    go_wp2
    go_quiet (fail)
    go_wp2_with fail
    with_reducible refine (first_tail x (w3.drewN nq) w3.heap.size rfl (hT3.below' (below_drewN' (Below.refl _ _) nq)) x0 x1).mono ?_
    rintro e w5 ⟨rfl, hb5⟩
    have hb6 := (below_drewN' hg3.below nq).trans (hb5.mono hg3.size)
    have hT6 := hT.below' hb6
    clear hb5
    go_wp2_with fail
    with_reducible refine (awake_any _ hT6).mono ?_
    rintro e w7 ⟨rfl, hb7⟩
    have hb8 := hb6.trans (hb7.mono hb6.size)
    clear hb7
    go_wp2
    go_ret
    exact ⟨rfl, hb8⟩
  · have hst' : ¬ (s.size : Int) ≤ t.size := by omega
    have hst2 : (t.size : Int) < s.size := by omega
    have hne : ((t.size : Int) == 0) = false := beq_eq_false_iff_ne.2 (by omega)
    have hE : ((s.extract 0 t.size).toList == t.toList) = (c == d) := by
      have h := str_pre hd hc (by rw [HS.out, HU.out]; omega)
      rw [HS.out, HU.out] at h
      rw [Bool.eq_iff_iff, beq_iff_eq, beq_iff_eq] at h ⊢
      exact ⟨fun k => (h.1 k.symm).symm, fun k => (h.2 k.symm).symm⟩
    go_wp2
    go_quiet (fail)
    go_wp2_with fail
    with_reducible refine (first_tail x (w3.drewN nq) w3.heap.size rfl (hT3.below' (below_drewN' (Below.refl _ _) nq)) x0 x1).mono ?_
    rintro e w5 ⟨rfl, hb5⟩
    have hb6 := (below_drewN' hg3.below nq).trans (hb5.mono hg3.size)
    have hT6 := hT.below' hb6
    clear hb5
    go_wp2_with fail
    with_reducible refine (awake_any _ hT6).mono ?_
    rintro e w7 ⟨rfl, hb7⟩
    have hb8 := hb6.trans (hb7.mono hb6.size)
    clear hb7
    go_wp2
    go_ret
    exact ⟨rfl, hb8⟩

theorem turned_none (n m x c d : Int) (w : World) (hT : Tab w) (hcd : isB c = false ∨ isB d = false)
    (hrn : ∀ W : World, Calls Tryd.prog 24 #[.int .i64 n] W fun e w' => e = .returned (.int .i32 c) ∧ W = w')
    (hrm : ∀ W : World, Calls Tryd.prog 24 #[.int .i64 m] W fun e w' => e = .returned (.int .i32 d) ∧ W = w') :
    Calls Tryd.prog 7 #[.int .i64 n, .int .i64 m, .int .u8 x] w fun e w' => e = .returned (.bool true) ∧ Below w.heap.size w w' := by
  have HN := Lib.hid hrn
  have HM := Lib.hid hrm
  clear hrn hrm
  cases hc : isB c with
  | false =>
    clear hcd
    go_enter Tryd.func7, Tryd.ntmps7
    go_wp2_with fail
    with_reducible refine (HN.out _).mono ?_
    rintro e w' ⟨rfl, rfl⟩
    go_wp2_with fail
    with_reducible refine (HM.out _).mono ?_
    rintro e w' ⟨rfl, rfl⟩
    go_wp2_with fail
    with_reducible refine (r_is_any c _).mono ?_
    rintro e w' ⟨rfl, rfl⟩
    go_wp2_with fail
    with_reducible refine (awake_any _ hT).mono ?_
    rintro e w7 ⟨rfl, hb7⟩
    go_wp2
    go_ret
    exact ⟨rfl, hb7⟩
  | true =>
    have hd : isB d = false := by rcases hcd with h | h
                                  · rw [hc] at h; cases h
                                  · exact h
    clear hcd
    go_enter Tryd.func7, Tryd.ntmps7
    go_wp2_with fail
    with_reducible refine (HN.out _).mono ?_
    rintro e w' ⟨rfl, rfl⟩
    go_wp2_with fail
    with_reducible refine (HM.out _).mono ?_
    rintro e w' ⟨rfl, rfl⟩
    go_wp2_with fail
    with_reducible refine (r_is_any c _).mono ?_
    rintro e w' ⟨rfl, rfl⟩
    go_wp2_with fail
    with_reducible refine (r_is_any d _).mono ?_
    rintro e w' ⟨rfl, rfl⟩
    go_wp2_with fail
    with_reducible refine (awake_any _ hT).mono ?_
    rintro e w7 ⟨rfl, hb7⟩
    go_wp2
    go_ret
    exact ⟨rfl, hb7⟩

theorem turned_walk (n m x : Int) (w : World) (hT : Tab w) (x0 : 0 ≤ x) (x1 : x ≤ 255) :
    Calls Tryd.prog 7 #[.int .i64 n, .int .i64 m, .int .u8 x] w fun e w' => e = .returned (.bool true) ∧ Below w.heap.size w w' := by
  obtain ⟨c, _, hn⟩ := rune_fn n
  obtain ⟨d, _, hm⟩ := rune_fn m
  cases hc : isB c with
  | false => exact turned_none n m x c d w hT (.inl hc) hn hm
  | true => cases hd : isB d with
    | false => exact turned_none n m x c d w hT (.inr hd) hn hm
    | true => exact turned_core n m x c d w hT x0 x1 hc hd hn hm
end Go.Proofs.YtbmeinicjfmjlaaDoor
