/- The document's Meter of layer 15 by contracts. Printed by wip/gen_r15.py. -/
import Derived.Test.YthiakokjijfgoaaG15
import Derived.Test.YthiakokjijfgoaaStill
import Derived.Test.YthiakokjijfgoaaStr8
import Derived.Test.YthiakokjijfgoaaRows
import Derived.Deep.CutRange
import Derived.BigQuiet
import Derived.Deep.QuietTactic
import Derived.StillTailTactics
namespace Go.Proofs.Ythiakokjijfgoaa
set_option maxRecDepth 100000
open Go.RowKit
set_option linter.unusedVariables false
set_option linter.unusedSimpArgs false

def lmA (l : Lm) : Array Value := #[.int .i64 l.b, .int .i64 l.d, .int .i64 l.n, .int .i64 l.k, .int .i64 l.t]
def mrA (m : Mt) : Array Value := #[.int .i64 m.l.b, .int .i64 m.l.d, .int .i64 m.l.n, .int .i64 m.l.k, .int .i64 m.l.t, .int .i64 m.u.b, .int .i64 m.u.d, .int .i64 m.u.n, .int .i64 m.u.k, .int .i64 m.u.t, .int .i64 m.o]
theorem Blk.cong {w : World} {g : Nat} {t : TypeId} {a b : Array Value} (h : Blk w g t a) (e : a = b) : Blk w g t b := e ▸ h
theorem but_drewN {g : Nat} {w w' : World} (h : But g w w') (n : Nat) : But g w (w'.drewN n) := h.trans (But.of_below (below_drewN' (Below.refl _ _) n))

set_option maxHeartbeats 2000000 in
theorem rbyte_any (g : Nat) (m : Mt) (hm : MOk m) (W : World) (h : Blk W g 40 (mrA m)) :
    Calls Try.prog 12 #[.pointer (some ⟨g, 0, none⟩)] W fun e w' => e = .returned (.int .i64 (byteF m).1) ∧ Blk w' g 40 (mrA (byteF m).2) ∧ But g W w' := by
  obtain ⟨⟨lb, ld, ln, lk, lt⟩, ⟨ub, ud, un, uk, ut⟩, o⟩ := m
  obtain ⟨h1, h2, h3, h4, h5, h6, h7, h8, h9, h10, h11⟩ := hm
  dsimp only at h1 h2 h3 h4 h5 h6 h7 h8 h9 h10 h11
  have HX := Lib.hid h
  unfold mrA at HX
  dsimp only at HX
  clear h
  have c0 := HX.out.cell 0
  have c1 := HX.out.cell 1
  have c2 := HX.out.cell 2
  have c3 := HX.out.cell 3
  have c4 := HX.out.cell 4
  have c5 := HX.out.cell 5
  have c6 := HX.out.cell 6
  have c7 := HX.out.cell 7
  have c8 := HX.out.cell 8
  have c9 := HX.out.cell 9
  have c10 := HX.out.cell 10
  have f5 := HX.out.frozen 5
  simp only [List.getElem?_toArray, List.getElem?_cons_zero, List.getElem?_cons_succ] at c0 c1 c2 c3 c4 c5 c6 c7 c8 c9 c10
  have hl := HX.out.lt
  unfold mrA byteF
  dsimp only
  by_cases e : ub = lb
  · have e1 : (ub == lb) = true := by rw [beq_iff_eq]; exact e
    rw [if_pos e]
    clear e
    go_enter Try.func12, Try.ntmps12
    go_wp2_with fail
    go_quiet (fail)
    go_wp2
    go_ret
    exact ⟨rfl, HX.out, but_drewN (But.refl _ _) _⟩
  · have e1 : (ub == lb) = false := by rw [beq_eq_false_iff_ne]; exact e
    rw [if_neg e]
    have e2 : ub + 1 ≤ 1048576 := by omega
    clear e
    go_enter Try.func12, Try.ntmps12
    go_wp2_with fail
    go_quiet (fail)
    go_wp2
    go_ret
    exact ⟨rfl, ((HX.out.drewN _).set 5 (.int .i64 (ub + 1))).cong rfl, (but_drewN (But.refl _ _) _).set _ _⟩

set_option maxHeartbeats 2000000 in
theorem rnode_any (g : Nat) (m : Mt) (hm : MOk m) (W : World) (h : Blk W g 40 (mrA m)) :
    Calls Try.prog 14 #[.pointer (some ⟨g, 0, none⟩)] W fun e w' => e = .returned (.int .i64 (nodeF m).1) ∧ Blk w' g 40 (mrA (nodeF m).2) ∧ But g W w' := by
  obtain ⟨⟨lb, ld, ln, lk, lt⟩, ⟨ub, ud, un, uk, ut⟩, o⟩ := m
  obtain ⟨h1, h2, h3, h4, h5, h6, h7, h8, h9, h10, h11⟩ := hm
  dsimp only at h1 h2 h3 h4 h5 h6 h7 h8 h9 h10 h11
  have HX := Lib.hid h
  unfold mrA at HX
  dsimp only at HX
  clear h
  have c0 := HX.out.cell 0
  have c1 := HX.out.cell 1
  have c2 := HX.out.cell 2
  have c3 := HX.out.cell 3
  have c4 := HX.out.cell 4
  have c5 := HX.out.cell 5
  have c6 := HX.out.cell 6
  have c7 := HX.out.cell 7
  have c8 := HX.out.cell 8
  have c9 := HX.out.cell 9
  have c10 := HX.out.cell 10
  have f7 := HX.out.frozen 7
  simp only [List.getElem?_toArray, List.getElem?_cons_zero, List.getElem?_cons_succ] at c0 c1 c2 c3 c4 c5 c6 c7 c8 c9 c10
  have hl := HX.out.lt
  unfold mrA nodeF
  dsimp only
  by_cases e : un = ln
  · have e1 : (un == ln) = true := by rw [beq_iff_eq]; exact e
    rw [if_pos e]
    clear e
    go_enter Try.func14, Try.ntmps14
    go_wp2_with fail
    go_quiet (fail)
    go_wp2
    go_ret
    exact ⟨rfl, HX.out, but_drewN (But.refl _ _) _⟩
  · have e1 : (un == ln) = false := by rw [beq_eq_false_iff_ne]; exact e
    rw [if_neg e]
    have e2 : un + 1 ≤ 1048576 := by omega
    clear e
    go_enter Try.func14, Try.ntmps14
    go_wp2_with fail
    go_quiet (fail)
    go_wp2
    go_ret
    exact ⟨rfl, ((HX.out.drewN _).set 7 (.int .i64 (un + 1))).cong rfl, (but_drewN (But.refl _ _) _).set _ _⟩

set_option maxHeartbeats 2000000 in
theorem ropen_any (g : Nat) (m : Mt) (hm : MOk m) (W : World) (h : Blk W g 40 (mrA m)) :
    Calls Try.prog 16 #[.pointer (some ⟨g, 0, none⟩)] W fun e w' => e = .returned (.int .i64 (openF m).1) ∧ Blk w' g 40 (mrA (openF m).2) ∧ But g W w' := by
  obtain ⟨⟨lb, ld, ln, lk, lt⟩, ⟨ub, ud, un, uk, ut⟩, o⟩ := m
  obtain ⟨h1, h2, h3, h4, h5, h6, h7, h8, h9, h10, h11⟩ := hm
  dsimp only at h1 h2 h3 h4 h5 h6 h7 h8 h9 h10 h11
  have HX := Lib.hid h
  unfold mrA at HX
  dsimp only at HX
  clear h
  have c0 := HX.out.cell 0
  have c1 := HX.out.cell 1
  have c2 := HX.out.cell 2
  have c3 := HX.out.cell 3
  have c4 := HX.out.cell 4
  have c5 := HX.out.cell 5
  have c6 := HX.out.cell 6
  have c7 := HX.out.cell 7
  have c8 := HX.out.cell 8
  have c9 := HX.out.cell 9
  have c10 := HX.out.cell 10
  have f6 := HX.out.frozen 6
  have f10 := HX.out.frozen 10
  simp only [List.getElem?_toArray, List.getElem?_cons_zero, List.getElem?_cons_succ] at c0 c1 c2 c3 c4 c5 c6 c7 c8 c9 c10
  have hl := HX.out.lt
  unfold mrA openF
  dsimp only
  by_cases e : o = ld
  · have e1 : (o == ld) = true := by rw [beq_iff_eq]; exact e
    rw [if_pos e]
    clear e
    go_enter Try.func16, Try.ntmps16
    go_wp2_with fail
    go_quiet (fail)
    go_wp2
    go_ret
    exact ⟨rfl, HX.out, but_drewN (But.refl _ _) _⟩
  · have e1 : (o == ld) = false := by rw [beq_eq_false_iff_ne]; exact e
    rw [if_neg e]
    have e2 : o + 1 ≤ 1048576 := by omega
    clear e
    obtain ⟨z, hz⟩ : ∃ z, mx ud (o + 1) = z := ⟨_, rfl⟩
    have hz2 : (if ud < o + 1 then o + 1 else ud) = z := hz
    rw [hz]
    clear hz
    go_enter Try.func16, Try.ntmps16
    go_wp2_with fail
    go_quiet (fail)
    go_wp2_with fail
    have HY := Lib.hid (((HX.out.drewN nq).set 10 (.int .i64 (o + 1))).cong (b := #[.int .i64 lb, .int .i64 ld, .int .i64 ln, .int .i64 lk, .int .i64 lt, .int .i64 ub, .int .i64 ud, .int .i64 un, .int .i64 uk, .int .i64 ut, .int .i64 (o + 1)]) rfl)
    have HG := Lib.hid ((but_drewN (But.refl g W) nq).set 10 (.int .i64 (o + 1)))
    generalize (W.drewN nq).setCell ⟨g, 10, none⟩ (.int .i64 (o + 1)) = W0 at *
    refine wp_region_still_tail 14 (by kernel_rfl) (by kernel_rfl) ?_
    simp only [List.take_succ_cons, List.take_zero, List.drop_succ_cons, List.drop_zero]
    generalize hW1 : ({ W0 with drawn := W0.drawn + 1 } : World) = W1
    have HZ : Hid (Blk W1 g 40 #[.int .i64 lb, .int .i64 ld, .int .i64 ln, .int .i64 lk, .int .i64 lt, .int .i64 ub, .int .i64 ud, .int .i64 un, .int .i64 uk, .int .i64 ut, .int .i64 (o + 1)]) := Lib.hid (by rw [← hW1]; exact HY.out)
    have HG1 : Hid (But g W W1) := Lib.hid (by rw [← hW1]; exact but_drewN HG.out 1)
    clear hW1 HY HG
    have d6 := HZ.out.cell 6
    have d10 := HZ.out.cell 10
    have e6 := HZ.out.frozen 6
    simp only [List.getElem?_toArray, List.getElem?_cons_zero, List.getElem?_cons_succ] at d6 d10
    have hl1 := HZ.out.lt
    repeat still_step
    refine wpStill_nil ?_
    go_wp2
    go_ret
    exact ⟨rfl, (HZ.out.set 6 (.int .i64 z)).cong rfl, HG1.out.set _ _⟩

set_option maxHeartbeats 2000000 in
theorem rclose_any (g : Nat) (m : Mt) (hm : MOk m) (W : World) (h : Blk W g 40 (mrA m)) :
    Calls Try.prog 18 #[.pointer (some ⟨g, 0, none⟩)] W fun e w' => e = .returned (.tuple #[]) ∧ Blk w' g 40 (mrA (closeF m)) ∧ But g W w' := by
  obtain ⟨⟨lb, ld, ln, lk, lt⟩, ⟨ub, ud, un, uk, ut⟩, o⟩ := m
  obtain ⟨h1, h2, h3, h4, h5, h6, h7, h8, h9, h10, h11⟩ := hm
  dsimp only at h1 h2 h3 h4 h5 h6 h7 h8 h9 h10 h11
  have HX := Lib.hid h
  unfold mrA at HX
  dsimp only at HX
  clear h
  have c0 := HX.out.cell 0
  have c1 := HX.out.cell 1
  have c2 := HX.out.cell 2
  have c3 := HX.out.cell 3
  have c4 := HX.out.cell 4
  have c5 := HX.out.cell 5
  have c6 := HX.out.cell 6
  have c7 := HX.out.cell 7
  have c8 := HX.out.cell 8
  have c9 := HX.out.cell 9
  have c10 := HX.out.cell 10
  have f10 := HX.out.frozen 10
  simp only [List.getElem?_toArray, List.getElem?_cons_zero, List.getElem?_cons_succ] at c0 c1 c2 c3 c4 c5 c6 c7 c8 c9 c10
  have hl := HX.out.lt
  unfold mrA closeF
  dsimp only
  obtain ⟨z, hz⟩ : ∃ z, mx (o - 1) 0 = z := ⟨_, rfl⟩
  have hz2 : (if o - 1 < 0 then 0 else o - 1) = z := hz
  rw [hz]
  clear hz
  go_enter Try.func18, Try.ntmps18
  go_wp2_with fail
  go_end0
  exact ⟨rfl, (HX.out.set 10 (.int .i64 z)).cong rfl, (But.refl _ _).set _ _⟩

set_option maxHeartbeats 2000000 in
theorem rname_any (g : Nat) (x : Int) (hx : -9223372036854775808 ≤ x ∧ x ≤ 9223372036854775807) (m : Mt) (hm : MOk m) (W : World) (h : Blk W g 40 (mrA m)) :
    Calls Try.prog 20 #[.pointer (some ⟨g, 0, none⟩), .int .i64 x] W fun e w' => e = .returned (.int .i64 (nameF x m).1) ∧ Blk w' g 40 (mrA (nameF x m).2) ∧ But g W w' := by
  obtain ⟨⟨lb, ld, ln, lk, lt⟩, ⟨ub, ud, un, uk, ut⟩, o⟩ := m
  obtain ⟨h1, h2, h3, h4, h5, h6, h7, h8, h9, h10, h11⟩ := hm
  dsimp only at h1 h2 h3 h4 h5 h6 h7 h8 h9 h10 h11
  have HX := Lib.hid h
  unfold mrA at HX
  dsimp only at HX
  clear h
  have c0 := HX.out.cell 0
  have c1 := HX.out.cell 1
  have c2 := HX.out.cell 2
  have c3 := HX.out.cell 3
  have c4 := HX.out.cell 4
  have c5 := HX.out.cell 5
  have c6 := HX.out.cell 6
  have c7 := HX.out.cell 7
  have c8 := HX.out.cell 8
  have c9 := HX.out.cell 9
  have c10 := HX.out.cell 10
  have f8 := HX.out.frozen 8
  simp only [List.getElem?_toArray, List.getElem?_cons_zero, List.getElem?_cons_succ] at c0 c1 c2 c3 c4 c5 c6 c7 c8 c9 c10
  have hl := HX.out.lt
  unfold mrA nameF
  dsimp only
  by_cases e : lk < x
  · have e1 : decide (lk < x) = true := decide_eq_true e
    rw [if_pos e]
    clear e
    go_enter Try.func20, Try.ntmps20
    go_wp2_with fail
    go_ret
    exact ⟨rfl, HX.out, But.refl _ _⟩
  · have e1 : decide (lk < x) = false := decide_eq_false e
    rw [if_neg e]
    clear e
    obtain ⟨z, hz⟩ : ∃ z, mx uk x = z := ⟨_, rfl⟩
    have hz2 : (if uk < x then x else uk) = z := hz
    rw [hz]
    clear hz
    go_enter Try.func20, Try.ntmps20
    go_wp2_with fail
    go_ret
    exact ⟨rfl, (HX.out.set 8 (.int .i64 z)).cong rfl, (But.refl _ _).set _ _⟩

set_option maxHeartbeats 2000000 in
theorem rtext_any (g : Nat) (x : Int) (hx : -9223372036854775808 ≤ x ∧ x ≤ 9223372036854775807) (m : Mt) (hm : MOk m) (W : World) (h : Blk W g 40 (mrA m)) :
    Calls Try.prog 22 #[.pointer (some ⟨g, 0, none⟩), .int .i64 x] W fun e w' => e = .returned (.int .i64 (textF x m).1) ∧ Blk w' g 40 (mrA (textF x m).2) ∧ But g W w' := by
  obtain ⟨⟨lb, ld, ln, lk, lt⟩, ⟨ub, ud, un, uk, ut⟩, o⟩ := m
  obtain ⟨h1, h2, h3, h4, h5, h6, h7, h8, h9, h10, h11⟩ := hm
  dsimp only at h1 h2 h3 h4 h5 h6 h7 h8 h9 h10 h11
  have HX := Lib.hid h
  unfold mrA at HX
  dsimp only at HX
  clear h
  have c0 := HX.out.cell 0
  have c1 := HX.out.cell 1
  have c2 := HX.out.cell 2
  have c3 := HX.out.cell 3
  have c4 := HX.out.cell 4
  have c5 := HX.out.cell 5
  have c6 := HX.out.cell 6
  have c7 := HX.out.cell 7
  have c8 := HX.out.cell 8
  have c9 := HX.out.cell 9
  have c10 := HX.out.cell 10
  have f9 := HX.out.frozen 9
  simp only [List.getElem?_toArray, List.getElem?_cons_zero, List.getElem?_cons_succ] at c0 c1 c2 c3 c4 c5 c6 c7 c8 c9 c10
  have hl := HX.out.lt
  unfold mrA textF
  dsimp only
  by_cases e : lt < x
  · have e1 : decide (lt < x) = true := decide_eq_true e
    rw [if_pos e]
    clear e
    go_enter Try.func22, Try.ntmps22
    go_wp2_with fail
    go_ret
    exact ⟨rfl, HX.out, But.refl _ _⟩
  · have e1 : decide (lt < x) = false := decide_eq_false e
    rw [if_neg e]
    clear e
    obtain ⟨z, hz⟩ : ∃ z, mx ut x = z := ⟨_, rfl⟩
    have hz2 : (if ut < x then x else ut) = z := hz
    rw [hz]
    clear hz
    go_enter Try.func22, Try.ntmps22
    go_wp2_with fail
    go_ret
    exact ⟨rfl, (HX.out.set 9 (.int .i64 z)).cong rfl, (But.refl _ _).set _ _⟩

theorem rin_any (n : Int) (W : World) : Calls Try.prog 26 #[.int .i64 n] W fun e w' => e = .returned (.bool (inL n)) ∧ w' = W := by
  unfold inL
  by_cases h1 : 1 ≤ n
  · by_cases h2 : n ≤ 1048576
    · rw [decide_eq_true h1, decide_eq_true h2]
      go_enter Try.func26, Try.ntmps26
      go_wp2
      go_ret
      exact ⟨rfl, rfl⟩
    · rw [decide_eq_true h1, decide_eq_false h2]
      have h2' : 1048576 < n := by omega
      go_enter Try.func26, Try.ntmps26
      go_wp2
      go_ret
      exact ⟨rfl, rfl⟩
  · rw [decide_eq_false h1]
    have h1' : n < 1 := by omega
    go_enter Try.func26, Try.ntmps26
    go_wp2
    go_ret
    exact ⟨rfl, rfl⟩
set_option maxHeartbeats 4000000 in
theorem rcheck_any (l : Lm) (W : World) : Calls Try.prog 9 #[.agg (lmA l)] W fun e w' => e = .returned (.bool (chk l)) ∧ Below W.heap.size W w' := by
  obtain ⟨b, d, n, k, t⟩ := l
  have HX := Lib.hid (Blk.new W 23 #[.int .i64 b, .int .i64 d, .int .i64 n, .int .i64 k, .int .i64 t])
  have HB := Lib.hid ((Below.refl W.heap.size W).alloc (Nat.le_refl _) (.cells #[.int .i64 b, .int .i64 d, .int .i64 n, .int .i64 k, .int .i64 t] 23))
  have I1 := Lib.hid (fun W => rin_any b W)
  have I2 := Lib.hid (fun W => rin_any d W)
  have I3 := Lib.hid (fun W => rin_any n W)
  have I4 := Lib.hid (fun W => rin_any k W)
  have I5 := Lib.hid (fun W => rin_any t W)
  unfold lmA chk
  dsimp only
  generalize inL b = x1 at *
  generalize inL d = x2 at *
  generalize inL n = x3 at *
  generalize inL k = x4 at *
  generalize inL t = x5 at *
  go_enter Try.func9, Try.ntmps9
  go_upto_region 1 with fail
  generalize hW : W.alloc (.cells #[.int .i64 b, .int .i64 d, .int .i64 n, .int .i64 k, .int .i64 t] 23) = W1 at *
  generalize hx : W.heap.size = y at *
  clear hW
  replace hx := Lib.hid hx
  have c0 := HX.out.cell 0
  have c1 := HX.out.cell 1
  have c2 := HX.out.cell 2
  have c3 := HX.out.cell 3
  have c4 := HX.out.cell 4
  simp only [List.getElem?_toArray, List.getElem?_cons_zero, List.getElem?_cons_succ] at c0 c1 c2 c3 c4
  have hl := HX.out.lt
  go_wp2_with fail
  refine (I1.out _).mono ?_
  rintro e w1 ⟨rfl, rfl⟩
  cases x1
  · go_wp2_with fail
    go_ret
    exact ⟨rfl, by rw [hx.out]; exact HB.out⟩
  go_wp2_with fail
  refine (I2.out _).mono ?_
  rintro e w1 ⟨rfl, rfl⟩
  cases x2
  · go_wp2_with fail
    go_ret
    exact ⟨rfl, by rw [hx.out]; exact HB.out⟩
  go_wp2_with fail
  refine (I3.out _).mono ?_
  rintro e w1 ⟨rfl, rfl⟩
  cases x3
  · go_wp2_with fail
    go_ret
    exact ⟨rfl, by rw [hx.out]; exact HB.out⟩
  go_wp2_with fail
  refine (I4.out _).mono ?_
  rintro e w1 ⟨rfl, rfl⟩
  cases x4
  · go_wp2_with fail
    go_ret
    exact ⟨rfl, by rw [hx.out]; exact HB.out⟩
  go_wp2_with fail
  refine (I5.out _).mono ?_
  rintro e w1 ⟨rfl, rfl⟩
  cases x5
  · go_wp2_with fail
    go_ret
    exact ⟨rfl, by rw [hx.out]; exact HB.out⟩
  go_wp2_with fail
  go_ret
  exact ⟨rfl, by rw [hx.out]; exact HB.out⟩
set_option maxHeartbeats 4000000 in
theorem rnew_yes (l : Lm) (h : chk l = true) (W : World) : Calls Try.prog 7 #[.agg (lmA l)] W fun e w' => ∃ g, e = .returned (.pointer (some ⟨g, 0, none⟩)) ∧ Blk w' g 40 (mrA (mt0 l)) ∧ W.heap.size ≤ g ∧ Below W.heap.size W w' := by
  have hC := Lib.hid (fun W => rcheck_any l W)
  rw [h] at hC
  clear h
  obtain ⟨b, d, n, k, t⟩ := l
  unfold lmA at hC ⊢
  unfold mrA mt0
  dsimp only at hC ⊢
  have HX := Lib.hid (Blk.new W 23 #[.int .i64 b, .int .i64 d, .int .i64 n, .int .i64 k, .int .i64 t])
  have HB := Lib.hid ((Below.refl W.heap.size W).alloc (Nat.le_refl _) (.cells #[.int .i64 b, .int .i64 d, .int .i64 n, .int .i64 k, .int .i64 t] 23))
  go_enter Try.func7, Try.ntmps7
  go_upto_region 1 with fail
  generalize hW : W.alloc (.cells #[.int .i64 b, .int .i64 d, .int .i64 n, .int .i64 k, .int .i64 t] 23) = W1 at *
  obtain ⟨y, hx⟩ : ∃ y, Hid (y = W.heap.size) := ⟨_, Lib.hid rfl⟩
  rw [← hx.out] at HX HB ⊢
  clear hW
  have c0 := HX.out.cell 0
  have c1 := HX.out.cell 1
  have c2 := HX.out.cell 2
  have c3 := HX.out.cell 3
  have c4 := HX.out.cell 4
  simp only [List.getElem?_toArray, List.getElem?_cons_zero, List.getElem?_cons_succ] at c0 c1 c2 c3 c4
  have hl := HX.out.lt
  go_wp2_with fail
  refine (hC.out _).mono ?_
  rintro e w2 ⟨rfl, hb2⟩
  have HX2 := Lib.hid (HX.out.go' hb2)
  have HB2 := Lib.hid (HB.out.trans (hb2.mono (Nat.le_of_lt HX.out.lt)))
  clear hb2 HX HB c0 c1 c2 c3 c4 hC
  have c0 := HX2.out.cell 0
  have c1 := HX2.out.cell 1
  have c2 := HX2.out.cell 2
  have c3 := HX2.out.cell 3
  have c4 := HX2.out.cell 4
  simp only [List.getElem?_toArray, List.getElem?_cons_zero, List.getElem?_cons_succ] at c0 c1 c2 c3 c4
  have hl2 := HX2.out.lt
  go_wp2_with fail
  go_ret
  exact ⟨_, rfl, Blk.new _ _ _, by rw [← hx.out]; exact Nat.le_of_lt hl2, by rw [← hx.out]; exact HB2.out.alloc (Nat.le_of_lt hl2) _⟩
set_option maxHeartbeats 4000000 in
theorem rnew_no (l : Lm) (h : chk l = false) (W : World) : Calls Try.prog 7 #[.agg (lmA l)] W fun e w' => e = .returned (.pointer none) ∧ Below W.heap.size W w' := by
  have hC := Lib.hid (fun W => rcheck_any l W)
  rw [h] at hC
  clear h
  obtain ⟨b, d, n, k, t⟩ := l
  unfold lmA at hC ⊢
  dsimp only at hC ⊢
  have HX := Lib.hid (Blk.new W 23 #[.int .i64 b, .int .i64 d, .int .i64 n, .int .i64 k, .int .i64 t])
  have HB := Lib.hid ((Below.refl W.heap.size W).alloc (Nat.le_refl _) (.cells #[.int .i64 b, .int .i64 d, .int .i64 n, .int .i64 k, .int .i64 t] 23))
  go_enter Try.func7, Try.ntmps7
  go_upto_region 1 with fail
  generalize hW : W.alloc (.cells #[.int .i64 b, .int .i64 d, .int .i64 n, .int .i64 k, .int .i64 t] 23) = W1 at *
  obtain ⟨y, hx⟩ : ∃ y, Hid (y = W.heap.size) := ⟨_, Lib.hid rfl⟩
  rw [← hx.out] at HX HB ⊢
  clear hW
  have c0 := HX.out.cell 0
  have c1 := HX.out.cell 1
  have c2 := HX.out.cell 2
  have c3 := HX.out.cell 3
  have c4 := HX.out.cell 4
  simp only [List.getElem?_toArray, List.getElem?_cons_zero, List.getElem?_cons_succ] at c0 c1 c2 c3 c4
  have hl := HX.out.lt
  go_wp2_with fail
  refine (hC.out _).mono ?_
  rintro e w2 ⟨rfl, hb2⟩
  have HX2 := Lib.hid (HX.out.go' hb2)
  have HB2 := Lib.hid (HB.out.trans (hb2.mono (Nat.le_of_lt HX.out.lt)))
  clear hb2 HX HB c0 c1 c2 c3 c4 hC
  have c0 := HX2.out.cell 0
  have c1 := HX2.out.cell 1
  have c2 := HX2.out.cell 2
  have c3 := HX2.out.cell 3
  have c4 := HX2.out.cell 4
  simp only [List.getElem?_toArray, List.getElem?_cons_zero, List.getElem?_cons_succ] at c0 c1 c2 c3 c4
  have hl2 := HX2.out.lt
  go_wp2_with fail
  go_ret
  exact ⟨rfl, by rw [← hx.out]; exact HB2.out⟩
end Go.Proofs.Ythiakokjijfgoaa
