/- The program's Meter of layer 15 by contracts. Printed by wip/gen_p15.py. -/
import Derived.Test.YthiakokjijfgoaaR15
import Derived.Deep.RegionHeld3
import Derived.LoopN
namespace Go.Proofs.Ythiakokjijfgoaa
set_option maxRecDepth 100000
open Go.RowKit
set_option linter.unusedVariables false
set_option linter.unusedSimpArgs false

def prA (m : Mt) : Array Value := #[.int .i64 m.u.b, .int .i64 m.u.d, .int .i64 m.u.n, .int .i64 m.u.k, .int .i64 m.u.t, .int .i64 m.l.b, .int .i64 m.l.d, .int .i64 m.l.n, .int .i64 m.l.k, .int .i64 m.l.t, .int .i64 m.o]

set_option maxHeartbeats 2000000 in
theorem pbyte_any (g : Nat) (m : Mt) (hm : MOk m) (W : World) (h : Blk W g 48 (prA m)) :
    Calls Try.prog 11 #[.pointer (some ⟨g, 0, none⟩)] W fun e w' => e = .returned (.int .i64 (byteF m).1) ∧ Blk w' g 48 (prA (byteF m).2) ∧ But g W w' := by
  obtain ⟨⟨lb, ld, ln, lk, lt⟩, ⟨ub, ud, un, uk, ut⟩, o⟩ := m
  obtain ⟨h1, h2, h3, h4, h5, h6, h7, h8, h9, h10, h11⟩ := hm
  dsimp only at h1 h2 h3 h4 h5 h6 h7 h8 h9 h10 h11
  have HX := Lib.hid h
  unfold prA at HX
  dsimp only at HX
  clear h
  have c0 := HX.out.cell 0
  have c1 := HX.out.cell 1
  have c2 := HX.out.cell 2
  have c3 := HX.out.cell 3
  have c4 := HX.out.cell 4
  have c5 := HX.out.cell 5
  have c6 := HX.out.cell 6
  have c7 := HX.out.cell 7
  have c8 := HX.out.cell 8
  have c9 := HX.out.cell 9
  have c10 := HX.out.cell 10
  have f0 := HX.out.frozen 0
  simp only [List.getElem?_toArray, List.getElem?_cons_zero, List.getElem?_cons_succ] at c0 c1 c2 c3 c4 c5 c6 c7 c8 c9 c10
  have hl := HX.out.lt
  unfold prA byteF
  dsimp only
  by_cases e : ub = lb
  · have e1 : (ub == lb) = true := by rw [beq_iff_eq]; exact e
    have e2 : lb ≤ ub := by omega
    rw [if_pos e]
    clear e
    go_enter Try.func11, Try.ntmps11
    go_wp2_with fail
    go_quiet (fail)
    go_wp2
    go_ret
    exact ⟨rfl, HX.out, but_drewN (But.refl _ _) _⟩
  · have e1 : (ub == lb) = false := by rw [beq_eq_false_iff_ne]; exact e
    have e2 : ub < lb := by omega
    rw [if_neg e]
    have e3 : ub + 1 ≤ 1048576 := by omega
    clear e
    go_enter Try.func11, Try.ntmps11
    go_wp2_with fail
    go_quiet (fail)
    go_wp2
    go_ret
    exact ⟨rfl, ((HX.out.drewN _).set 0 (.int .i64 (ub + 1))).cong rfl, (but_drewN (But.refl _ _) _).set _ _⟩

set_option maxHeartbeats 2000000 in
theorem pnode_any (g : Nat) (m : Mt) (hm : MOk m) (W : World) (h : Blk W g 48 (prA m)) :
    Calls Try.prog 13 #[.pointer (some ⟨g, 0, none⟩)] W fun e w' => e = .returned (.int .i64 (nodeF m).1) ∧ Blk w' g 48 (prA (nodeF m).2) ∧ But g W w' := by
  obtain ⟨⟨lb, ld, ln, lk, lt⟩, ⟨ub, ud, un, uk, ut⟩, o⟩ := m
  obtain ⟨h1, h2, h3, h4, h5, h6, h7, h8, h9, h10, h11⟩ := hm
  dsimp only at h1 h2 h3 h4 h5 h6 h7 h8 h9 h10 h11
  have HX := Lib.hid h
  unfold prA at HX
  dsimp only at HX
  clear h
  have c0 := HX.out.cell 0
  have c1 := HX.out.cell 1
  have c2 := HX.out.cell 2
  have c3 := HX.out.cell 3
  have c4 := HX.out.cell 4
  have c5 := HX.out.cell 5
  have c6 := HX.out.cell 6
  have c7 := HX.out.cell 7
  have c8 := HX.out.cell 8
  have c9 := HX.out.cell 9
  have c10 := HX.out.cell 10
  have f2 := HX.out.frozen 2
  simp only [List.getElem?_toArray, List.getElem?_cons_zero, List.getElem?_cons_succ] at c0 c1 c2 c3 c4 c5 c6 c7 c8 c9 c10
  have hl := HX.out.lt
  unfold prA nodeF
  dsimp only
  by_cases e : un = ln
  · have e1 : (un == ln) = true := by rw [beq_iff_eq]; exact e
    have e2 : ln ≤ un := by omega
    rw [if_pos e]
    clear e
    go_enter Try.func13, Try.ntmps13
    go_wp2_with fail
    go_quiet (fail)
    go_wp2
    go_ret
    exact ⟨rfl, HX.out, but_drewN (But.refl _ _) _⟩
  · have e1 : (un == ln) = false := by rw [beq_eq_false_iff_ne]; exact e
    have e2 : un < ln := by omega
    rw [if_neg e]
    have e3 : un + 1 ≤ 1048576 := by omega
    clear e
    go_enter Try.func13, Try.ntmps13
    go_wp2_with fail
    go_quiet (fail)
    go_wp2
    go_ret
    exact ⟨rfl, ((HX.out.drewN _).set 2 (.int .i64 (un + 1))).cong rfl, (but_drewN (But.refl _ _) _).set _ _⟩

set_option maxHeartbeats 2000000 in
theorem popen_any (g : Nat) (m : Mt) (hm : MOk m) (W : World) (h : Blk W g 48 (prA m)) :
    Calls Try.prog 15 #[.pointer (some ⟨g, 0, none⟩)] W fun e w' => e = .returned (.int .i64 (openF m).1) ∧ Blk w' g 48 (prA (openF m).2) ∧ But g W w' := by
  obtain ⟨⟨lb, ld, ln, lk, lt⟩, ⟨ub, ud, un, uk, ut⟩, o⟩ := m
  obtain ⟨h1, h2, h3, h4, h5, h6, h7, h8, h9, h10, h11⟩ := hm
  dsimp only at h1 h2 h3 h4 h5 h6 h7 h8 h9 h10 h11
  have HX := Lib.hid h
  unfold prA at HX
  dsimp only at HX
  clear h
  have c0 := HX.out.cell 0
  have c1 := HX.out.cell 1
  have c2 := HX.out.cell 2
  have c3 := HX.out.cell 3
  have c4 := HX.out.cell 4
  have c5 := HX.out.cell 5
  have c6 := HX.out.cell 6
  have c7 := HX.out.cell 7
  have c8 := HX.out.cell 8
  have c9 := HX.out.cell 9
  have c10 := HX.out.cell 10
  have f1 := HX.out.frozen 1
  have f10 := HX.out.frozen 10
  simp only [List.getElem?_toArray, List.getElem?_cons_zero, List.getElem?_cons_succ] at c0 c1 c2 c3 c4 c5 c6 c7 c8 c9 c10
  have hl := HX.out.lt
  unfold prA openF
  dsimp only
  by_cases e : o = ld
  · have e1 : (o == ld) = true := by rw [beq_iff_eq]; exact e
    have e2 : ld ≤ o := by omega
    rw [if_pos e]
    clear e
    go_enter Try.func15, Try.ntmps15
    go_wp2_with fail
    go_quiet (fail)
    go_wp2
    go_ret
    exact ⟨rfl, HX.out, but_drewN (But.refl _ _) _⟩
  · have e1 : (o == ld) = false := by rw [beq_eq_false_iff_ne]; exact e
    have e2 : o < ld := by omega
    have e3 : o + 1 ≤ 1048576 := by omega
    rw [if_neg e]
    clear e
    obtain ⟨z, hz⟩ : ∃ z, mx ud (o + 1) = z := ⟨_, rfl⟩
    have hz2 : (if ud < o + 1 then o + 1 else ud) = z := hz
    rw [hz]
    clear hz
    go_enter Try.func15, Try.ntmps15
    go_wp2_with fail
    go_quiet (fail)
    go_wp2_with fail
    have HY := Lib.hid (((HX.out.drewN nq).set 10 (.int .i64 (o + 1))).cong (b := #[.int .i64 ub, .int .i64 ud, .int .i64 un, .int .i64 uk, .int .i64 ut, .int .i64 lb, .int .i64 ld, .int .i64 ln, .int .i64 lk, .int .i64 lt, .int .i64 (o + 1)]) rfl)
    have HG := Lib.hid ((but_drewN (But.refl g W) nq).set 10 (.int .i64 (o + 1)))
    generalize (W.drewN nq).setCell ⟨g, 10, none⟩ (.int .i64 (o + 1)) = W0 at *
    refine wp_region_still_tail 14 (by kernel_rfl) (by kernel_rfl) ?_
    simp only [List.take_succ_cons, List.take_zero, List.drop_succ_cons, List.drop_zero]
    generalize hW1 : ({ W0 with drawn := W0.drawn + 1 } : World) = W1
    have HZ : Hid (Blk W1 g 48 #[.int .i64 ub, .int .i64 ud, .int .i64 un, .int .i64 uk, .int .i64 ut, .int .i64 lb, .int .i64 ld, .int .i64 ln, .int .i64 lk, .int .i64 lt, .int .i64 (o + 1)]) := Lib.hid (by rw [← hW1]; exact HY.out)
    have HG1 : Hid (But g W W1) := Lib.hid (by rw [← hW1]; exact but_drewN HG.out 1)
    clear hW1 HY HG
    have d1 := HZ.out.cell 1
    have d10 := HZ.out.cell 10
    have e1 := HZ.out.frozen 1
    simp only [List.getElem?_toArray, List.getElem?_cons_zero, List.getElem?_cons_succ] at d1 d10
    have hl1 := HZ.out.lt
    repeat still_step
    refine wpStill_nil ?_
    go_wp2
    go_ret
    exact ⟨rfl, (HZ.out.set 1 (.int .i64 z)).cong rfl, HG1.out.set _ _⟩

set_option maxHeartbeats 2000000 in
theorem pclose_any (g : Nat) (m : Mt) (hm : MOk m) (W : World) (h : Blk W g 48 (prA m)) :
    Calls Try.prog 17 #[.pointer (some ⟨g, 0, none⟩)] W fun e w' => e = .returned (.tuple #[]) ∧ Blk w' g 48 (prA (closeF m)) ∧ But g W w' := by
  obtain ⟨⟨lb, ld, ln, lk, lt⟩, ⟨ub, ud, un, uk, ut⟩, o⟩ := m
  obtain ⟨h1, h2, h3, h4, h5, h6, h7, h8, h9, h10, h11⟩ := hm
  dsimp only at h1 h2 h3 h4 h5 h6 h7 h8 h9 h10 h11
  have HX := Lib.hid h
  unfold prA at HX
  dsimp only at HX
  clear h
  have c0 := HX.out.cell 0
  have c1 := HX.out.cell 1
  have c2 := HX.out.cell 2
  have c3 := HX.out.cell 3
  have c4 := HX.out.cell 4
  have c5 := HX.out.cell 5
  have c6 := HX.out.cell 6
  have c7 := HX.out.cell 7
  have c8 := HX.out.cell 8
  have c9 := HX.out.cell 9
  have c10 := HX.out.cell 10
  have f10 := HX.out.frozen 10
  simp only [List.getElem?_toArray, List.getElem?_cons_zero, List.getElem?_cons_succ] at c0 c1 c2 c3 c4 c5 c6 c7 c8 c9 c10
  have hl := HX.out.lt
  unfold prA closeF
  dsimp only
  by_cases e : 0 < o
  · have hz : mx (o - 1) 0 = o - 1 := if_neg (by omega)
    rw [hz]
    clear hz
    go_enter Try.func17, Try.ntmps17
    go_wp2_with fail
    go_end0
    exact ⟨rfl, (HX.out.set 10 (.int .i64 (o - 1))).cong rfl, (But.refl _ _).set _ _⟩
  · have hz : mx (o - 1) 0 = o := by unfold mx; rw [if_pos (by omega)]; omega
    rw [hz]
    clear hz
    go_enter Try.func17, Try.ntmps17
    go_wp2_with fail
    go_end0
    exact ⟨rfl, HX.out, But.refl _ _⟩

set_option maxHeartbeats 2000000 in
theorem pname_any (g : Nat) (x : Int) (hx : -9223372036854775808 ≤ x ∧ x ≤ 9223372036854775807) (m : Mt) (hm : MOk m) (W : World) (h : Blk W g 48 (prA m)) :
    Calls Try.prog 19 #[.pointer (some ⟨g, 0, none⟩), .int .i64 x] W fun e w' => e = .returned (.int .i64 (nameF x m).1) ∧ Blk w' g 48 (prA (nameF x m).2) ∧ But g W w' := by
  obtain ⟨⟨lb, ld, ln, lk, lt⟩, ⟨ub, ud, un, uk, ut⟩, o⟩ := m
  obtain ⟨h1, h2, h3, h4, h5, h6, h7, h8, h9, h10, h11⟩ := hm
  dsimp only at h1 h2 h3 h4 h5 h6 h7 h8 h9 h10 h11
  have HX := Lib.hid h
  unfold prA at HX
  dsimp only at HX
  clear h
  have c0 := HX.out.cell 0
  have c1 := HX.out.cell 1
  have c2 := HX.out.cell 2
  have c3 := HX.out.cell 3
  have c4 := HX.out.cell 4
  have c5 := HX.out.cell 5
  have c6 := HX.out.cell 6
  have c7 := HX.out.cell 7
  have c8 := HX.out.cell 8
  have c9 := HX.out.cell 9
  have c10 := HX.out.cell 10
  have f3 := HX.out.frozen 3
  simp only [List.getElem?_toArray, List.getElem?_cons_zero, List.getElem?_cons_succ] at c0 c1 c2 c3 c4 c5 c6 c7 c8 c9 c10
  have hl := HX.out.lt
  unfold prA nameF
  dsimp only
  by_cases e : lk < x
  · rw [if_pos e]
    go_enter Try.func19, Try.ntmps19
    go_wp2_with fail
    go_ret
    exact ⟨rfl, HX.out, But.refl _ _⟩
  · rw [if_neg e]
    obtain ⟨z, hz⟩ : ∃ z, mx uk x = z := ⟨_, rfl⟩
    have hz2 : (if uk < x then x else uk) = z := hz
    rw [hz]
    clear hz
    go_enter Try.func19, Try.ntmps19
    go_wp2_with fail
    go_ret
    exact ⟨rfl, (HX.out.set 3 (.int .i64 z)).cong rfl, (But.refl _ _).set _ _⟩

set_option maxHeartbeats 2000000 in
theorem ptext_any (g : Nat) (x : Int) (hx : -9223372036854775808 ≤ x ∧ x ≤ 9223372036854775807) (m : Mt) (hm : MOk m) (W : World) (h : Blk W g 48 (prA m)) :
    Calls Try.prog 21 #[.pointer (some ⟨g, 0, none⟩), .int .i64 x] W fun e w' => e = .returned (.int .i64 (textF x m).1) ∧ Blk w' g 48 (prA (textF x m).2) ∧ But g W w' := by
  obtain ⟨⟨lb, ld, ln, lk, lt⟩, ⟨ub, ud, un, uk, ut⟩, o⟩ := m
  obtain ⟨h1, h2, h3, h4, h5, h6, h7, h8, h9, h10, h11⟩ := hm
  dsimp only at h1 h2 h3 h4 h5 h6 h7 h8 h9 h10 h11
  have HX := Lib.hid h
  unfold prA at HX
  dsimp only at HX
  clear h
  have c0 := HX.out.cell 0
  have c1 := HX.out.cell 1
  have c2 := HX.out.cell 2
  have c3 := HX.out.cell 3
  have c4 := HX.out.cell 4
  have c5 := HX.out.cell 5
  have c6 := HX.out.cell 6
  have c7 := HX.out.cell 7
  have c8 := HX.out.cell 8
  have c9 := HX.out.cell 9
  have c10 := HX.out.cell 10
  have f4 := HX.out.frozen 4
  simp only [List.getElem?_toArray, List.getElem?_cons_zero, List.getElem?_cons_succ] at c0 c1 c2 c3 c4 c5 c6 c7 c8 c9 c10
  have hl := HX.out.lt
  unfold prA textF
  dsimp only
  by_cases e : lt < x
  · rw [if_pos e]
    go_enter Try.func21, Try.ntmps21
    go_wp2_with fail
    go_ret
    exact ⟨rfl, HX.out, But.refl _ _⟩
  · rw [if_neg e]
    obtain ⟨z, hz⟩ : ∃ z, mx ut x = z := ⟨_, rfl⟩
    have hz2 : (if ut < x then x else ut) = z := hz
    rw [hz]
    clear hz
    go_enter Try.func21, Try.ntmps21
    go_wp2_with fail
    go_ret
    exact ⟨rfl, (HX.out.set 4 (.int .i64 z)).cong rfl, (But.refl _ _).set _ _⟩

theorem pused_any (g : Nat) (m : Mt) (W : World) (h : Blk W g 48 (prA m)) :
    Calls Try.prog 23 #[.pointer (some ⟨g, 0, none⟩)] W fun e w' => e = .returned (.agg (lmA m.u)) ∧ Below W.heap.size W w' := by
  obtain ⟨⟨lb, ld, ln, lk, lt⟩, ⟨ub, ud, un, uk, ut⟩, o⟩ := m
  have HX := Lib.hid h
  unfold prA at HX
  dsimp only at HX
  unfold lmA
  dsimp only
  clear h
  have HA := (Below.refl W.heap.size W).alloc (Nat.le_refl _) (.cells #[.int .i64 0, .int .i64 0, .int .i64 0, .int .i64 0, .int .i64 0] 23)
  have HY := Lib.hid (Blk.new W 23 #[.int .i64 0, .int .i64 0, .int .i64 0, .int .i64 0, .int .i64 0])
  have HX1 := Lib.hid (HX.out.go' HA)
  replace HA := Lib.hid HA
  clear HX
  go_enter Try.func23, Try.ntmps23
  go_upto_region 1 with fail
  generalize hW : W.alloc (.cells #[.int .i64 0, .int .i64 0, .int .i64 0, .int .i64 0, .int .i64 0] 23) = W1 at *
  obtain ⟨y, hx⟩ : ∃ y, Hid (y = W.heap.size) := ⟨_, Lib.hid rfl⟩
  rw [← hx.out] at HY HA ⊢
  clear hW
  refine wp_region_still_tail 26 (by kernel_rfl) (by kernel_rfl) ?_
  simp only [List.take_succ_cons, List.take_zero, List.drop_succ_cons, List.drop_zero]
  generalize hW2 : ({ W1 with drawn := W1.drawn + 1 } : World) = W2
  have HX2 := Lib.hid (show Blk W2 g 48 _ by rw [← hW2]; exact HX1.out)
  have HY2 := Lib.hid (show Blk W2 y 23 _ by rw [← hW2]; exact HY.out)
  have HA2 := Lib.hid (show Below y W W2 by rw [← hW2]; exact below_drewN' HA.out 1)
  clear hW2 HX1 HY HA
  have c0 := HX2.out.cell 0
  have c1 := HX2.out.cell 1
  have c2 := HX2.out.cell 2
  have c3 := HX2.out.cell 3
  have c4 := HX2.out.cell 4
  have c5 := HX2.out.cell 5
  have c6 := HX2.out.cell 6
  have c7 := HX2.out.cell 7
  have c8 := HX2.out.cell 8
  have c9 := HX2.out.cell 9
  have c10 := HX2.out.cell 10
  have d0 := HY2.out.cell 0
  have f0 := HY2.out.frozen 0
  have d1 := HY2.out.cell 1
  have f1 := HY2.out.frozen 1
  have d2 := HY2.out.cell 2
  have f2 := HY2.out.frozen 2
  have d3 := HY2.out.cell 3
  have f3 := HY2.out.frozen 3
  have d4 := HY2.out.cell 4
  have f4 := HY2.out.frozen 4
  simp only [List.getElem?_toArray, List.getElem?_cons_zero, List.getElem?_cons_succ] at c0 c1 c2 c3 c4 c5 c6 c7 c8 c9 c10 d0 d1 d2 d3 d4
  have hl := HX2.out.lt
  have hl2 := HY2.out.lt
  repeat still_step
  refine wpStill_nil ?_
  go_wp2_with fail
  have hR := (((((HY2.out.set 0 (.int .i64 ub)).set 1 (.int .i64 ud)).set 2 (.int .i64 un)).set 3 (.int .i64 uk)).set 4 (.int .i64 ut)).cong (b := #[.int .i64 ub, .int .i64 ud, .int .i64 un, .int .i64 uk, .int .i64 ut]) rfl
  refine bodyPost_ret (results_one Try.results23 _ _ _ _ _ _ rfl hR Try.underlying23 rfl (by kernel_rfl)) rfl ⟨rfl, ?_⟩
  rw [← hx.out]
  exact (((((HA2.out.setCell (p := ⟨y, 0, none⟩) (Nat.le_refl _) _).setCell (p := ⟨y, 1, none⟩) (Nat.le_refl _) _).setCell (p := ⟨y, 2, none⟩) (Nat.le_refl _) _).setCell (p := ⟨y, 3, none⟩) (Nat.le_refl _) _).setCell (p := ⟨y, 4, none⟩) (Nat.le_refl _) _)
set_option maxHeartbeats 8000000 in
theorem pcheck_any (l : Lm) (W : World) : Calls Try.prog 8 #[.agg (lmA l)] W fun e w' => e = .returned (.bool (chk l)) ∧ Below W.heap.size W w' := by
  obtain ⟨b, d, n, k, t⟩ := l
  have HX := Lib.hid (Blk.new W 23 #[.int .i64 b, .int .i64 d, .int .i64 n, .int .i64 k, .int .i64 t])
  have HB := Lib.hid ((Below.refl W.heap.size W).alloc (Nat.le_refl _) (.cells #[.int .i64 b, .int .i64 d, .int .i64 n, .int .i64 k, .int .i64 t] 23))
  obtain ⟨v, hv⟩ : ∃ v, Hid (chk ⟨b, d, n, k, t⟩ = v) := ⟨_, Lib.hid rfl⟩
  rw [hv.out]
  unfold lmA
  dsimp only
  go_enter Try.func8, Try.ntmps8
  go_upto_region 1 with fail
  generalize hW : W.alloc (.cells #[.int .i64 b, .int .i64 d, .int .i64 n, .int .i64 k, .int .i64 t] 23) = W1 at *
  generalize hx : W.heap.size = y at *
  clear hW
  replace hx := Lib.hid hx
  have c0 := HX.out.cell 0
  have c1 := HX.out.cell 1
  have c2 := HX.out.cell 2
  have c3 := HX.out.cell 3
  have c4 := HX.out.cell 4
  simp only [List.getElem?_toArray, List.getElem?_cons_zero, List.getElem?_cons_succ] at c0 c1 c2 c3 c4
  have hl := HX.out.lt
  have i0 : ∀ w, (Instr.index 49 (.agg #[.int .i64 b, .int .i64 d, .int .i64 n, .int .i64 k, .int .i64 t]) (.int .i64 0)).run Try.prog w = .ok (.int .i64 b) w := fun _ => by kernel_rfl
  have i1 : ∀ w, (Instr.index 49 (.agg #[.int .i64 b, .int .i64 d, .int .i64 n, .int .i64 k, .int .i64 t]) (.int .i64 1)).run Try.prog w = .ok (.int .i64 d) w := fun _ => by kernel_rfl
  have i2 : ∀ w, (Instr.index 49 (.agg #[.int .i64 b, .int .i64 d, .int .i64 n, .int .i64 k, .int .i64 t]) (.int .i64 2)).run Try.prog w = .ok (.int .i64 n) w := fun _ => by kernel_rfl
  have i3 : ∀ w, (Instr.index 49 (.agg #[.int .i64 b, .int .i64 d, .int .i64 n, .int .i64 k, .int .i64 t]) (.int .i64 3)).run Try.prog w = .ok (.int .i64 k) w := fun _ => by kernel_rfl
  have i4 : ∀ w, (Instr.index 49 (.agg #[.int .i64 b, .int .i64 d, .int .i64 n, .int .i64 k, .int .i64 t]) (.int .i64 4)).run Try.prog w = .ok (.int .i64 t) w := fun _ => by kernel_rfl
  go_wp2_with fail
  refine wp_loop_rounds 6 ?_
  rw [rounds_succ]
  rcases (by omega : b < 1 ∨ 1048576 < b ∨ (1 ≤ b ∧ b ≤ 1048576)) with l1 | l1 | ⟨lb, mb⟩
  · have hi : inL b = false := by unfold inL; rw [Bool.and_eq_false_iff]; exact .inl (decide_eq_false (by omega))
    replace hi := Lib.hid hi
    go_wp2_with fail
    go_ret
    have hf : v = false := by rw [← hv.out]; unfold chk; simp only [hi.out, Bool.false_and, Bool.and_false]
    exact ⟨by rw [hf]; rfl, by rw [hx.out]; exact HB.out⟩
  · have hi : inL b = false := by unfold inL; rw [Bool.and_eq_false_iff]; exact .inr (decide_eq_false (by omega))
    replace hi := Lib.hid hi
    go_wp2_with fail
    go_ret
    have hf : v = false := by rw [← hv.out]; unfold chk; simp only [hi.out, Bool.false_and, Bool.and_false]
    exact ⟨by rw [hf]; rfl, by rw [hx.out]; exact HB.out⟩
  have hb := Lib.hid (inL_iff.2 ⟨lb, mb⟩)
  go_wp2_with fail
  clear lb mb
  rw [rounds_succ]
  rcases (by omega : d < 1 ∨ 1048576 < d ∨ (1 ≤ d ∧ d ≤ 1048576)) with l1 | l1 | ⟨ld, md⟩
  · have hi : inL d = false := by unfold inL; rw [Bool.and_eq_false_iff]; exact .inl (decide_eq_false (by omega))
    replace hi := Lib.hid hi
    go_wp2_with fail
    go_ret
    have hf : v = false := by rw [← hv.out]; unfold chk; simp only [hi.out, Bool.false_and, Bool.and_false]
    exact ⟨by rw [hf]; rfl, by rw [hx.out]; exact HB.out⟩
  · have hi : inL d = false := by unfold inL; rw [Bool.and_eq_false_iff]; exact .inr (decide_eq_false (by omega))
    replace hi := Lib.hid hi
    go_wp2_with fail
    go_ret
    have hf : v = false := by rw [← hv.out]; unfold chk; simp only [hi.out, Bool.false_and, Bool.and_false]
    exact ⟨by rw [hf]; rfl, by rw [hx.out]; exact HB.out⟩
  have hd := Lib.hid (inL_iff.2 ⟨ld, md⟩)
  go_wp2_with fail
  clear ld md
  rw [rounds_succ]
  rcases (by omega : n < 1 ∨ 1048576 < n ∨ (1 ≤ n ∧ n ≤ 1048576)) with l1 | l1 | ⟨ln, mn⟩
  · have hi : inL n = false := by unfold inL; rw [Bool.and_eq_false_iff]; exact .inl (decide_eq_false (by omega))
    replace hi := Lib.hid hi
    go_wp2_with fail
    go_ret
    have hf : v = false := by rw [← hv.out]; unfold chk; simp only [hi.out, Bool.false_and, Bool.and_false]
    exact ⟨by rw [hf]; rfl, by rw [hx.out]; exact HB.out⟩
  · have hi : inL n = false := by unfold inL; rw [Bool.and_eq_false_iff]; exact .inr (decide_eq_false (by omega))
    replace hi := Lib.hid hi
    go_wp2_with fail
    go_ret
    have hf : v = false := by rw [← hv.out]; unfold chk; simp only [hi.out, Bool.false_and, Bool.and_false]
    exact ⟨by rw [hf]; rfl, by rw [hx.out]; exact HB.out⟩
  have hn := Lib.hid (inL_iff.2 ⟨ln, mn⟩)
  go_wp2_with fail
  clear ln mn
  rw [rounds_succ]
  rcases (by omega : k < 1 ∨ 1048576 < k ∨ (1 ≤ k ∧ k ≤ 1048576)) with l1 | l1 | ⟨lk, mk⟩
  · have hi : inL k = false := by unfold inL; rw [Bool.and_eq_false_iff]; exact .inl (decide_eq_false (by omega))
    replace hi := Lib.hid hi
    go_wp2_with fail
    go_ret
    have hf : v = false := by rw [← hv.out]; unfold chk; simp only [hi.out, Bool.false_and, Bool.and_false]
    exact ⟨by rw [hf]; rfl, by rw [hx.out]; exact HB.out⟩
  · have hi : inL k = false := by unfold inL; rw [Bool.and_eq_false_iff]; exact .inr (decide_eq_false (by omega))
    replace hi := Lib.hid hi
    go_wp2_with fail
    go_ret
    have hf : v = false := by rw [← hv.out]; unfold chk; simp only [hi.out, Bool.false_and, Bool.and_false]
    exact ⟨by rw [hf]; rfl, by rw [hx.out]; exact HB.out⟩
  have hk := Lib.hid (inL_iff.2 ⟨lk, mk⟩)
  go_wp2_with fail
  clear lk mk
  rw [rounds_succ]
  rcases (by omega : t < 1 ∨ 1048576 < t ∨ (1 ≤ t ∧ t ≤ 1048576)) with l1 | l1 | ⟨lt, mt⟩
  · have hi : inL t = false := by unfold inL; rw [Bool.and_eq_false_iff]; exact .inl (decide_eq_false (by omega))
    replace hi := Lib.hid hi
    go_wp2_with fail
    go_ret
    have hf : v = false := by rw [← hv.out]; unfold chk; simp only [hi.out, Bool.false_and, Bool.and_false]
    exact ⟨by rw [hf]; rfl, by rw [hx.out]; exact HB.out⟩
  · have hi : inL t = false := by unfold inL; rw [Bool.and_eq_false_iff]; exact .inr (decide_eq_false (by omega))
    replace hi := Lib.hid hi
    go_wp2_with fail
    go_ret
    have hf : v = false := by rw [← hv.out]; unfold chk; simp only [hi.out, Bool.false_and, Bool.and_false]
    exact ⟨by rw [hf]; rfl, by rw [hx.out]; exact HB.out⟩
  have ht := Lib.hid (inL_iff.2 ⟨lt, mt⟩)
  go_wp2_with fail
  clear lt mt
  rw [rounds_succ]
  go_wp2_with fail
  go_ret
  have hf : v = true := by rw [← hv.out]; unfold chk; simp only [hb.out, hd.out, hn.out, hk.out, ht.out, Bool.and_self]
  exact ⟨by rw [hf]; rfl, by rw [hx.out]; exact HB.out⟩
set_option maxHeartbeats 4000000 in
theorem pnew_yes (l : Lm) (h : chk l = true) (W : World) : Calls Try.prog 6 #[.agg (lmA l)] W fun e w' => ∃ g, e = .returned (.pointer (some ⟨g, 0, none⟩)) ∧ Blk w' g 48 (prA (mt0 l)) ∧ W.heap.size ≤ g ∧ Below W.heap.size W w' := by
  have hC := Lib.hid (fun W => pcheck_any l W)
  rw [h] at hC
  clear h
  obtain ⟨b, d, n, k, t⟩ := l
  unfold lmA at hC ⊢
  unfold prA mt0
  dsimp only at hC ⊢
  have HX := Lib.hid (Blk.new W 23 #[.int .i64 b, .int .i64 d, .int .i64 n, .int .i64 k, .int .i64 t])
  have HB := Lib.hid ((Below.refl W.heap.size W).alloc (Nat.le_refl _) (.cells #[.int .i64 b, .int .i64 d, .int .i64 n, .int .i64 k, .int .i64 t] 23))
  go_enter Try.func6, Try.ntmps6
  go_upto_region 1 with fail
  generalize hW : W.alloc (.cells #[.int .i64 b, .int .i64 d, .int .i64 n, .int .i64 k, .int .i64 t] 23) = W1 at *
  obtain ⟨y, hx⟩ : ∃ y, Hid (y = W.heap.size) := ⟨_, Lib.hid rfl⟩
  rw [← hx.out] at HX HB ⊢
  clear hW
  have c0 := HX.out.cell 0
  have c1 := HX.out.cell 1
  have c2 := HX.out.cell 2
  have c3 := HX.out.cell 3
  have c4 := HX.out.cell 4
  simp only [List.getElem?_toArray, List.getElem?_cons_zero, List.getElem?_cons_succ] at c0 c1 c2 c3 c4
  have hl := HX.out.lt
  go_wp2_with fail
  refine (hC.out _).mono ?_
  rintro e w2 ⟨rfl, hb2⟩
  have HX2 := Lib.hid (HX.out.go' hb2)
  have HB2 := Lib.hid (HB.out.trans (hb2.mono (Nat.le_of_lt HX.out.lt)))
  clear hb2 HX HB c0 c1 c2 c3 c4 hC
  have c0 := HX2.out.cell 0
  have c1 := HX2.out.cell 1
  have c2 := HX2.out.cell 2
  have c3 := HX2.out.cell 3
  have c4 := HX2.out.cell 4
  simp only [List.getElem?_toArray, List.getElem?_cons_zero, List.getElem?_cons_succ] at c0 c1 c2 c3 c4
  have hl2 := HX2.out.lt
  go_wp2_with fail
  go_ret
  exact ⟨_, rfl, Blk.new _ _ _, by rw [← hx.out]; exact Nat.le_of_lt hl2, by rw [← hx.out]; exact HB2.out.alloc (Nat.le_of_lt hl2) _⟩
set_option maxHeartbeats 4000000 in
theorem pnew_no (l : Lm) (h : chk l = false) (W : World) : Calls Try.prog 6 #[.agg (lmA l)] W fun e w' => e = .returned (.pointer none) ∧ Below W.heap.size W w' := by
  have hC := Lib.hid (fun W => pcheck_any l W)
  rw [h] at hC
  clear h
  obtain ⟨b, d, n, k, t⟩ := l
  unfold lmA at hC ⊢
  dsimp only at hC ⊢
  have HX := Lib.hid (Blk.new W 23 #[.int .i64 b, .int .i64 d, .int .i64 n, .int .i64 k, .int .i64 t])
  have HB := Lib.hid ((Below.refl W.heap.size W).alloc (Nat.le_refl _) (.cells #[.int .i64 b, .int .i64 d, .int .i64 n, .int .i64 k, .int .i64 t] 23))
  go_enter Try.func6, Try.ntmps6
  go_upto_region 1 with fail
  generalize hW : W.alloc (.cells #[.int .i64 b, .int .i64 d, .int .i64 n, .int .i64 k, .int .i64 t] 23) = W1 at *
  obtain ⟨y, hx⟩ : ∃ y, Hid (y = W.heap.size) := ⟨_, Lib.hid rfl⟩
  rw [← hx.out] at HX HB ⊢
  clear hW
  have c0 := HX.out.cell 0
  have c1 := HX.out.cell 1
  have c2 := HX.out.cell 2
  have c3 := HX.out.cell 3
  have c4 := HX.out.cell 4
  simp only [List.getElem?_toArray, List.getElem?_cons_zero, List.getElem?_cons_succ] at c0 c1 c2 c3 c4
  have hl := HX.out.lt
  go_wp2_with fail
  refine (hC.out _).mono ?_
  rintro e w2 ⟨rfl, hb2⟩
  have HX2 := Lib.hid (HX.out.go' hb2)
  have HB2 := Lib.hid (HB.out.trans (hb2.mono (Nat.le_of_lt HX.out.lt)))
  clear hb2 HX HB c0 c1 c2 c3 c4 hC
  have c0 := HX2.out.cell 0
  have c1 := HX2.out.cell 1
  have c2 := HX2.out.cell 2
  have c3 := HX2.out.cell 3
  have c4 := HX2.out.cell 4
  simp only [List.getElem?_toArray, List.getElem?_cons_zero, List.getElem?_cons_succ] at c0 c1 c2 c3 c4
  have hl2 := HX2.out.lt
  go_wp2_with fail
  go_ret
  exact ⟨rfl, by rw [← hx.out]; exact HB2.out⟩
end Go.Proofs.Ythiakokjijfgoaa
