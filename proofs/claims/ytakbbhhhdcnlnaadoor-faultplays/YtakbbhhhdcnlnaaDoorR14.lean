/- The document's New, Wrap, Input of layer 14 by their contracts; when two faults are one. -/
import Derived.Test.YtakbbhhhdcnlnaaDoorP14Tx
namespace Go.Proofs.YtakbbhhhdcnlnaaDoor
set_option maxRecDepth 100000
open Go.RowKit
set_option linter.unusedVariables false
set_option linter.unusedSimpArgs false

/-- an error as the document has it -/
def eV (i : Bool) (c a n : Int) (t : ByteArray) : Value := .agg #[.bool i, .int .i64 c, .int .i64 a, .int .i64 n, .string t]
def eA (i : Bool) (c a n : Int) (t : ByteArray) : Array Value := #[.bool i, .int .i64 c, .int .i64 a, .int .i64 n, .string t]

theorem e_set5 {w : World} {g : Nat} {i0 : Bool} {c0 a0 n0 : Int} {t0 : ByteArray} (h : Blk w g 32 (eA i0 c0 a0 n0 t0)) (i : Bool) (c a n : Int) (t : ByteArray) :
    Blk (((((w.setCell ⟨g, 0, none⟩ (.bool i)).setCell ⟨g, 1, none⟩ (.int .i64 c)).setCell ⟨g, 2, none⟩ (.int .i64 a)).setCell ⟨g, 3, none⟩ (.int .i64 n)).setCell ⟨g, 4, none⟩ (.string t)) g 32 (eA i c a n t) := by
  have h5 := ((((h.set 0 (.bool i)).set 1 (.int .i64 c)).set 2 (.int .i64 a)).set 3 (.int .i64 n)).set 4 (.string t)
  simpa [eA] using h5
theorem e_below5' {B g : Nat} {w0 w : World} (hg : B ≤ g) (h : Below B w0 w) (i : Bool) (c a n : Int) (t : ByteArray) :
    Below B w0 (((((w.setCell ⟨g, 0, none⟩ (.bool i)).setCell ⟨g, 1, none⟩ (.int .i64 c)).setCell ⟨g, 2, none⟩ (.int .i64 a)).setCell ⟨g, 3, none⟩ (.int .i64 n)).setCell ⟨g, 4, none⟩ (.string t)) :=
  ((((h.setCell (p := ⟨g, 0, none⟩) hg _).setCell (p := ⟨g, 1, none⟩) hg _).setCell (p := ⟨g, 2, none⟩) hg _).setCell (p := ⟨g, 3, none⟩) hg _).setCell (p := ⟨g, 4, none⟩) hg _
theorem e_below5 {B : Nat} {w0 w : World} (h : Below B w0 w) (i : Bool) (c a n : Int) (t : ByteArray) :
    Below B w0 (((((w.setCell ⟨B, 0, none⟩ (.bool i)).setCell ⟨B, 1, none⟩ (.int .i64 c)).setCell ⟨B, 2, none⟩ (.int .i64 a)).setCell ⟨B, 3, none⟩ (.int .i64 n)).setCell ⟨B, 4, none⟩ (.string t)) := e_below5' (Nat.le_refl _) h i c a n t
theorem rnew_ok (a : Int) (w : World) : Calls Tryd.prog 9 #[.int .i64 0, .int .i64 a] w fun e w' => e = .returned (eV false 0 0 0 ⟨#[]⟩) ∧ Below w.heap.size w w' := by
  have hB : Hid (Below w.heap.size w (w.alloc (.cells (eA false 0 0 0 ⟨#[]⟩) 32))) := Lib.hid ((Below.refl _ _).alloc (Nat.le_refl _) _)
  have hX := Blk.new w 32 (eA false 0 0 0 ⟨#[]⟩)
  unfold eA at hB hX
  replace hX := Lib.hid hX
  go_enter Tryd.func9, Tryd.ntmps9
  go_wp2
  exact bodyPost_ret (results_one Tryd.results9 _ _ _ _ _ _ rfl hX.out Tryd.underlying32 rfl (by kernel_rfl)) rfl ⟨rfl, hB.out⟩

set_option maxHeartbeats 8000000 in
theorem rnew_any (c a : Int) (hc : ¬ c = 0) (h0 : -9223372036854775808 ≤ a) (h1 : a ≤ 9223372036854775807) (w : World) : Calls Tryd.prog 9 #[.int .i64 c, .int .i64 a] w fun e w' => e = .returned (eV true c a 0 (bs (wdS (.pl 0 c a)))) ∧ Below w.heap.size w w' := by
  have hc' : (c == 0) = false := by rw [beq_eq_false_iff_ne]; exact hc
  have hR : Hid (bs (nmF c) ++ ⟨#[32]⟩ ++ bs (printF a) = bs (wdS (.pl 0 c a))) := Lib.hid (L8_inj (by rw [L8_app, L8_app, L8_bs, L8_bs, L8_bs]; rfl))
  have hz : (⟨#[32]⟩ : ByteArray).size = 1 := rfl
  have h2 : (bs (nmF c)).size ≤ 12 := by rw [bs_size]; exact nmF_len c
  have h3 : (bs (printF a)).size ≤ 20 := print_len h0 h1
  have hn := Lib.hid (fun w => rname_any c w)
  have hd := Lib.hid (fun w => rprint_any a h0 h1 w)
  generalize bs (wdS (.pl 0 c a)) = R at *
  generalize bs (nmF c) = P at *
  generalize bs (printF a) = D at *
  obtain ⟨Q, hQ⟩ : ∃ Q, P ++ ⟨#[32]⟩ = Q := ⟨_, rfl⟩
  have hQs : Hid (Q.size = P.size + 1) := Lib.hid (by rw [← hQ, ByteArray.size_append, hz])
  have hsum : ¬ P.size + (⟨#[32]⟩ : ByteArray).size > 9223372036854775807 := by omega
  have hsum2 : ¬ Q.size + D.size > 9223372036854775807 := by have := hQs.out; omega
  have hsum3 : ¬ P.size + 1 > 9223372036854775807 := by omega
  rw [hQ] at hR
  obtain ⟨S, hS⟩ : ∃ S, Q ++ D = S := ⟨_, rfl⟩
  rw [hS] at hR
  obtain ⟨w1, hw1⟩ : ∃ w1, Hid (w.alloc (.cells (eA false 0 0 0 ⟨#[]⟩) 32) = w1) := ⟨_, Lib.hid rfl⟩
  have hB : Hid (Below w.heap.size w w1) := Lib.hid (by rw [← hw1.out]; exact (Below.refl _ _).alloc (Nat.le_refl _) _)
  have hX : Hid (Blk w1 w.heap.size 32 (eA false 0 0 0 ⟨#[]⟩)) := Lib.hid (by rw [← hw1.out]; exact Blk.new w _ _)
  unfold eA at hw1
  clear hc
  go_enter Tryd.func9, Tryd.ntmps9
  go_wp2_with fail
  rw [hw1.out]
  clear hw1
  obtain ⟨x0, hx⟩ : ∃ x0, Hid (x0 = w.heap.size) := ⟨_, Lib.hid rfl⟩
  rw [← hx.out] at hX hB ⊢
  refine (hn.out _).mono ?_
  rintro e w2 ⟨rfl, hb2⟩
  have hX2 := Lib.hid (hX.out.go' hb2)
  have hB2 := Lib.hid (hB.out.trans (hb2.mono (Nat.le_of_lt hX.out.lt)))
  clear hb2 hB hX
  go_wp2_with fail
  refine (hd.out _).mono ?_
  rintro e w3 ⟨rfl, hs3⟩
  have hX3 := Lib.hid (hX2.out.go' hs3.below)
  have hB3 := Lib.hid (hB2.out.trans (hs3.lower x0))
  clear hs3 hB2 hX2
  have g0 := hX3.out.cell 0
  have g1 := hX3.out.cell 1
  have g2 := hX3.out.cell 2
  have g3 := hX3.out.cell 3
  have g4 := hX3.out.cell 4
  have f0 := hX3.out.frozen 0
  have f1 := hX3.out.frozen 1
  have f2 := hX3.out.frozen 2
  have f3 := hX3.out.frozen 3
  have f4 := hX3.out.frozen 4
  simp only [eA, List.getElem?_toArray, List.getElem?_cons_zero, List.getElem?_cons_succ] at g0 g1 g2 g3 g4
  have hl := hX3.out.lt
  go_wp2_with fail
  refine bodyPost_ret (results_one Tryd.results9 _ _ _ _ _ _ rfl (e_set5 hX3.out true c a 0 S) Tryd.underlying32 rfl (by kernel_rfl)) rfl ⟨by rw [hR.out]; rfl, ?_⟩
  rw [← hx.out]
  exact e_below5 hB3.out true c a 0 S

/-- Wrap and Input: of what is none nothing comes, else its text, its input -/
theorem rwrap_any (i : Bool) (c a n : Int) (t s : ByteArray) (hs : s.size + t.size ≤ 1000000000000) (w : World) : Calls Tryd.prog 11 #[eV i c a n t, .string s] w fun e w' => e = .returned (eV i c a n (if i then bs (L8 s ++ [58, 32] ++ L8 t) else t)) ∧ Below w.heap.size w w' := by
  obtain ⟨w1, hw1⟩ : ∃ w1, Hid ((w.alloc (.cells (eA i c a n t) 32)).alloc (.cells (eA false 0 0 0 ⟨#[]⟩) 32) = w1) := ⟨_, Lib.hid rfl⟩
  have hB : Hid (Below w.heap.size w w1) := Lib.hid (by rw [← hw1.out]; exact ((Below.refl _ _).alloc (Nat.le_refl _) _).alloc (by simp) _)
  have hX : Hid (Blk w1 w.heap.size 32 (eA i c a n t)) := Lib.hid (by rw [← hw1.out]; exact (Blk.new w _ _).alloc _)
  have hY : Hid (Blk w1 (w.heap.size + 1) 32 (eA false 0 0 0 ⟨#[]⟩)) := Lib.hid (by
    rw [← hw1.out]
    have := Blk.new (w.alloc (.cells (eA i c a n t) 32)) 32 (eA false 0 0 0 ⟨#[]⟩)
    simpa using this)
  unfold eA at hw1
  unfold eV
  have hR : Hid (s ++ ⟨#[58, 32]⟩ ++ t = bs (L8 s ++ [58, 32] ++ L8 t)) := Lib.hid (L8_inj (by rw [L8_app, L8_app, L8_bs]; rfl))
  have hz : (⟨#[58, 32]⟩ : ByteArray).size = 2 := rfl
  obtain ⟨Q, hQ⟩ : ∃ Q, s ++ ⟨#[58, 32]⟩ = Q := ⟨_, rfl⟩
  have hQs : Hid (Q.size = s.size + 2) := Lib.hid (by rw [← hQ, ByteArray.size_append, hz])
  have hsum : ¬ s.size + (⟨#[58, 32]⟩ : ByteArray).size > 9223372036854775807 := by omega
  have hsum2 : ¬ Q.size + t.size > 9223372036854775807 := by have := hQs.out; omega
  have hsum3 : ¬ s.size + 2 > 9223372036854775807 := by omega
  rw [hQ] at hR
  obtain ⟨S, hS⟩ : ∃ S, Q ++ t = S := ⟨_, rfl⟩
  rw [hS] at hR
  rw [← hR.out]
  go_enter Tryd.func11, Tryd.ntmps11
  go_upto_region 1 with fail
  rw [hw1.out]
  clear hw1
  obtain ⟨x0, hx⟩ : ∃ x0, Hid (x0 = w.heap.size) := ⟨_, Lib.hid rfl⟩
  rw [← hx.out] at hX hB hY ⊢
  have g0 := hX.out.cell 0
  have g1 := hX.out.cell 1
  have g2 := hX.out.cell 2
  have g3 := hX.out.cell 3
  have g4 := hX.out.cell 4
  have f4 := hX.out.frozen 4
  have k0 := hY.out.cell 0
  have k1 := hY.out.cell 1
  have k2 := hY.out.cell 2
  have k3 := hY.out.cell 3
  have k4 := hY.out.cell 4
  have y0 := hY.out.frozen 0
  have y1 := hY.out.frozen 1
  have y2 := hY.out.frozen 2
  have y3 := hY.out.frozen 3
  have y4 := hY.out.frozen 4
  simp only [eA, List.getElem?_toArray, List.getElem?_cons_zero, List.getElem?_cons_succ] at g0 g1 g2 g3 g4 k0 k1 k2 k3 k4
  have hl := hX.out.lt
  have hl2 := hY.out.lt
  cases i with
  | false =>
    go_wp2_with fail
    refine bodyPost_ret (results_one Tryd.results11 _ _ _ _ _ _ rfl (e_set5 hY.out false c a n t) Tryd.underlying32 rfl (by kernel_rfl)) rfl ⟨rfl, ?_⟩
    rw [← hx.out]
    exact e_below5' (by omega) hB.out false c a n t
  | true =>
    go_wp2_with fail
    refine bodyPost_ret (results_one Tryd.results11 _ _ _ _ _ _ rfl (e_set5 (hY.out.far (p := ⟨x0, 4, none⟩) (by simp) (.string S)) true c a n S) Tryd.underlying32 rfl (by kernel_rfl)) rfl ⟨rfl, ?_⟩
    rw [← hx.out]
    exact e_below5' (by omega) (hB.out.setCell (p := ⟨x0, 4, none⟩) (Nat.le_refl _) (.string S)) true c a n S

theorem rinput_any (i : Bool) (c a n : Int) (t : ByteArray) (m : Int) (w : World) : Calls Tryd.prog 13 #[eV i c a n t, .int .i64 m] w fun e w' => e = .returned (eV i c a (if i then m else n) t) ∧ Below w.heap.size w w' := by
  obtain ⟨w1, hw1⟩ : ∃ w1, Hid ((w.alloc (.cells (eA i c a n t) 32)).alloc (.cells (eA false 0 0 0 ⟨#[]⟩) 32) = w1) := ⟨_, Lib.hid rfl⟩
  have hB : Hid (Below w.heap.size w w1) := Lib.hid (by rw [← hw1.out]; exact ((Below.refl _ _).alloc (Nat.le_refl _) _).alloc (by simp) _)
  have hX : Hid (Blk w1 w.heap.size 32 (eA i c a n t)) := Lib.hid (by rw [← hw1.out]; exact (Blk.new w _ _).alloc _)
  have hY : Hid (Blk w1 (w.heap.size + 1) 32 (eA false 0 0 0 ⟨#[]⟩)) := Lib.hid (by
    rw [← hw1.out]
    have := Blk.new (w.alloc (.cells (eA i c a n t) 32)) 32 (eA false 0 0 0 ⟨#[]⟩)
    simpa using this)
  unfold eA at hw1
  unfold eV
  go_enter Tryd.func13, Tryd.ntmps13
  go_upto_region 1 with fail
  rw [hw1.out]
  clear hw1
  obtain ⟨x0, hx⟩ : ∃ x0, Hid (x0 = w.heap.size) := ⟨_, Lib.hid rfl⟩
  rw [← hx.out] at hX hB hY ⊢
  have g0 := hX.out.cell 0
  have g1 := hX.out.cell 1
  have g2 := hX.out.cell 2
  have g3 := hX.out.cell 3
  have g4 := hX.out.cell 4
  have f3 := hX.out.frozen 3
  have k0 := hY.out.cell 0
  have k1 := hY.out.cell 1
  have k2 := hY.out.cell 2
  have k3 := hY.out.cell 3
  have k4 := hY.out.cell 4
  have y0 := hY.out.frozen 0
  have y1 := hY.out.frozen 1
  have y2 := hY.out.frozen 2
  have y3 := hY.out.frozen 3
  have y4 := hY.out.frozen 4
  simp only [eA, List.getElem?_toArray, List.getElem?_cons_zero, List.getElem?_cons_succ] at g0 g1 g2 g3 g4 k0 k1 k2 k3 k4
  have hl := hX.out.lt
  have hl2 := hY.out.lt
  cases i with
  | false =>
    go_wp2_with fail
    refine bodyPost_ret (results_one Tryd.results13 _ _ _ _ _ _ rfl (e_set5 hY.out false c a n t) Tryd.underlying32 rfl (by kernel_rfl)) rfl ⟨rfl, ?_⟩
    rw [← hx.out]
    exact e_below5' (by omega) hB.out false c a n t
  | true =>
    go_wp2_with fail
    refine bodyPost_ret (results_one Tryd.results13 _ _ _ _ _ _ rfl (e_set5 (hY.out.far (p := ⟨x0, 3, none⟩) (by simp) (.int .i64 m)) true c a m t) Tryd.underlying32 rfl (by kernel_rfl)) rfl ⟨rfl, ?_⟩
    rw [← hx.out]
    exact e_below5' (by omega) (hB.out.setCell (p := ⟨x0, 3, none⟩) (Nat.le_refl _) (.int .i64 m)) true c a m t

/-! when two faults are one -/
theorem eq_ft (c a n d b m : Int) (w : World) : (binOp .eql 30 (.agg #[.int .i64 c, .int .i64 a, .int .i64 n]) (.agg #[.int .i64 d, .int .i64 b, .int .i64 m])).run Tryd.prog w = .ok (.bool (c == d && (a == b && n == m))) w := by
  have hS : Tryd.prog.underlying 30 = some (.struct (Tryd.prog.fieldsOf 30)) := by kernel_rfl
  have hp : Tryd.prog.stoodInHeld 30 = false := by kernel_rfl
  rw [run_eql_struct, show (10000 : Nat) = 9999 + 1 from rfl, run_equalIn_agg w 9999 30 _ _ hS hp]
  simp only [Program.fieldsOf, Tryd.underlying30]
  go_simp
  by_cases h1 : c = d <;> by_cases h2 : a = b <;> by_cases h3 : n = m <;> simp [h1, h2, h3]
theorem neq_ft (c a n d b m : Int) (w : World) : (binOp .neq 30 (.agg #[.int .i64 c, .int .i64 a, .int .i64 n]) (.agg #[.int .i64 d, .int .i64 b, .int .i64 m])).run Tryd.prog w = .ok (.bool (!(c == d && (a == b && n == m)))) w := by
  have h := eq_ft c a n d b m w
  rw [run_eql_struct] at h
  rw [run_neq_struct]
  cases hh : (Op.equalIn 10000 30 (.agg #[.int .i64 c, .int .i64 a, .int .i64 n]) (.agg #[.int .i64 d, .int .i64 b, .int .i64 m])).run Tryd.prog w with
  | ok b w' =>
    rw [hh] at h
    simp only [Result.andThen] at h ⊢
    injection h with h1 h2
    injection h1 with h1
    rw [h1, h2]
  | halt x w' => rw [hh] at h; cases h
theorem ft_self (c a n : Int) : (c == c && (a == a && n == n)) = true := by simp
end Go.Proofs.YtakbbhhhdcnlnaaDoor
