/- Printed by gen_p11with.py. The program's takeDigit (0) and with by their contracts. -/
import Derived.Test.YtiibfejgiilakaaDoorP11Take
import Derived.Test.YtiibfejgiilakaaDoorG11Rg
import Derived.Deep.CutRange
namespace Go.Proofs.YtiibfejgiilakaaDoor
set_option maxRecDepth 100000
open Go.ChangeShapes Go.WideShapes Go.ChangeAt Go.RowKit
set_option linter.unusedVariables false
set_option linter.unusedSimpArgs false

def rgV (r : Rg) : Value := .agg #[.int .i64 (r.p : Int), .bool r.n, .string (bs r.d), .int .i64 (r.z : Int), .int .i64 (r.b : Int), .bool r.m, .int .i64 (r.w : Int)]
abbrev RgB (w : World) (g : Nat) (r : Rg) : Prop := RgBlk w g r.p r.n (bs r.d) r.z r.b r.m r.w
theorem nil_s (s : ByteArray) : (L8 s = [] ∧ (s.toList == []) = true ∧ s.toList.isEmpty = true) ∨ (L8 s ≠ [] ∧ (s.toList == []) = false ∧ s.toList.isEmpty = false) := by
  rw [L8_toList]
  cases h : L8 s with
  | nil => exact .inl ⟨rfl, rfl, rfl⟩
  | cons c l => exact .inr ⟨by simp, rfl, rfl⟩
set_option maxHeartbeats 4000000 in
theorem takeDigit_nought (g : Nat) (p : Nat) (n : Bool) (s : ByteArray) (z b : Nat) (m : Bool) (k : Nat) (w : World) (hz : z ≤ 1000000) (hg : RgBlk w g p n s z b m k) :
    Calls Tryd.prog 36 #[.pointer (some ⟨g, 0, none⟩), .int .u8 48] w fun e w' => e = .returned (.tuple #[]) ∧ RgBlk w' g p n s (if L8 s = [] then z else z + 1) b m k ∧ But g w w' := by
  have HG := Lib.hid hg
  have c2 : w.cell? ⟨g, 2, none⟩ = some (.string s) := hg.cell 2
  have c3 : w.cell? ⟨g, 3, none⟩ = some (.int .i64 (z : Int)) := hg.cell 3
  have f3 : w.frozen? ⟨g, 3, none⟩ = false := hg.frozen 3
  have hgl := hg.lt
  clear hg
  rcases nil_s s with ⟨h0, h1, h2⟩ | ⟨h0, h1, h2⟩
  · rw [if_pos h0]
    clear h0
    go_enter Tryd.func36, Tryd.ntmps36
    go_wp2
    go_end0
    exact ⟨rfl, HG.out, But.refl g w⟩
  · rw [if_neg h0]
    clear h0
    go_enter Tryd.func36, Tryd.ntmps36
    go_wp2
    go_end0
    exact ⟨rfl, HG.out.set' 3 _ rfl, (But.refl g w).set 3 _⟩
/-- takeDigit as its mirror has it -/
theorem takeDigit_any (g : Nat) (c : UInt8) (r : Rg) (w : World) (hd : isD c = true) (hs : r.d.length ≤ 1000000) (hz : r.z ≤ 1000000) (hg : RgB w g r) :
    Calls Tryd.prog 36 #[.pointer (some ⟨g, 0, none⟩), .int .u8 (c.toNat : Int)] w fun e w' => e = .returned (.tuple #[]) ∧ RgB w' g (takeR r c) ∧ But g w w' := by
  by_cases hc : c = 48
  · subst hc
    have h := takeDigit_nought g r.p r.n (bs r.d) r.z r.b r.m r.w w hz hg
    refine h.mono fun e w' ⟨h1, h2, h3⟩ => ⟨h1, ?_, h3⟩
    unfold takeR
    rw [if_pos rfl]
    rw [L8_bs] at h2
    by_cases h0 : r.d = []
    · rw [if_pos h0] at h2 ⊢; exact h2
    · rw [if_neg h0] at h2 ⊢; exact h2
  · have h := takeDigit_one g c r.p r.n (bs r.d) r.z r.b r.m r.w w hd hc (by rw [bs_size]; exact hs) hz hg
    refine h.mono fun e w' ⟨h1, h2, h3⟩ => ⟨h1, ?_, h3⟩
    unfold takeR
    rw [if_neg hc]
    have e1 : bs r.d ++ (zerosS (min r.z 16) ++ bs [c]) = bs (r.d ++ (List.replicate (min r.z 16) 48 ++ [c])) := L8_inj (by unfold zerosS; rw [L8_app, L8_app]; rfl)
    rw [e1] at h2
    exact h2
set_option maxHeartbeats 4000000 in
theorem with_1 (r : Rg) (c : UInt8) (w : World) : Calls Tryd.prog 19 #[rgV r, .int .u8 (c.toNat : Int), .int .i64 1] w fun e w' => e = .returned (rgV (withR r c 1)) ∧ Below w.heap.size w w' := by
  obtain ⟨p, n, d, z, b, m, k⟩ := r
  unfold rgV
  dsimp only at *
  have hww : withR ⟨p, n, d, z, b, m, k⟩ c 1 = ⟨1, true, d, z, b, m, k⟩ := rfl
  rw [hww]
  clear hww
  dsimp only
  generalize bs d = s at *
  have HX0 : Hid (RgBlk ((w.alloc (.cells #[.int .i64 (p : Int), .bool n, .string s, .int .i64 (z : Int), .int .i64 (b : Int), .bool m, .int .i64 (k : Int)] 44)).alloc (.cells #[.int .i64 0, .bool false, .string ⟨#[]⟩, .int .i64 0, .int .i64 0, .bool false, .int .i64 0] 44)) w.heap.size p n s z b m k) := Lib.hid ((Blk.new w 44 _).alloc _)
  have HZ0 : Hid (Blk ((w.alloc (.cells #[.int .i64 (p : Int), .bool n, .string s, .int .i64 (z : Int), .int .i64 (b : Int), .bool m, .int .i64 (k : Int)] 44)).alloc (.cells #[.int .i64 0, .bool false, .string ⟨#[]⟩, .int .i64 0, .int .i64 0, .bool false, .int .i64 0] 44)) (w.heap.size + 1) 44 #[.int .i64 0, .bool false, .string ⟨#[]⟩, .int .i64 0, .int .i64 0, .bool false, .int .i64 0]) := Lib.hid (by have h := Blk.new (w.alloc (.cells #[.int .i64 (p : Int), .bool n, .string s, .int .i64 (z : Int), .int .i64 (b : Int), .bool m, .int .i64 (k : Int)] 44)) 44 #[.int .i64 0, .bool false, .string ⟨#[]⟩, .int .i64 0, .int .i64 0, .bool false, .int .i64 0]; rwa [World.size_alloc] at h)
  have HB0 : Hid (Below w.heap.size w ((w.alloc (.cells #[.int .i64 (p : Int), .bool n, .string s, .int .i64 (z : Int), .int .i64 (b : Int), .bool m, .int .i64 (k : Int)] 44)).alloc (.cells #[.int .i64 0, .bool false, .string ⟨#[]⟩, .int .i64 0, .int .i64 0, .bool false, .int .i64 0] 44))) := Lib.hid (((Below.refl _ _).alloc (Nat.le_refl _) _).alloc (by rw [World.size_alloc]; omega) _)
  go_enter Tryd.func19, Tryd.ntmps19
  go_upto_region 1 with fail
  generalize (w.alloc (.cells #[.int .i64 (p : Int), .bool n, .string s, .int .i64 (z : Int), .int .i64 (b : Int), .bool m, .int .i64 (k : Int)] 44)).alloc (.cells #[.int .i64 0, .bool false, .string ⟨#[]⟩, .int .i64 0, .int .i64 0, .bool false, .int .i64 0] 44) = w1 at *
  have x0 : w1.cell? ⟨w.heap.size, 0, none⟩ = some (.int .i64 (p : Int)) := HX0.out.cell 0
  have xf0 : w1.frozen? ⟨w.heap.size, 0, none⟩ = false := HX0.out.frozen 0
  have x1 : w1.cell? ⟨w.heap.size, 1, none⟩ = some (.bool n) := HX0.out.cell 1
  have xf1 : w1.frozen? ⟨w.heap.size, 1, none⟩ = false := HX0.out.frozen 1
  have x2 : w1.cell? ⟨w.heap.size, 2, none⟩ = some (.string s) := HX0.out.cell 2
  have xf2 : w1.frozen? ⟨w.heap.size, 2, none⟩ = false := HX0.out.frozen 2
  have x3 : w1.cell? ⟨w.heap.size, 3, none⟩ = some (.int .i64 (z : Int)) := HX0.out.cell 3
  have xf3 : w1.frozen? ⟨w.heap.size, 3, none⟩ = false := HX0.out.frozen 3
  have x4 : w1.cell? ⟨w.heap.size, 4, none⟩ = some (.int .i64 (b : Int)) := HX0.out.cell 4
  have xf4 : w1.frozen? ⟨w.heap.size, 4, none⟩ = false := HX0.out.frozen 4
  have x5 : w1.cell? ⟨w.heap.size, 5, none⟩ = some (.bool m) := HX0.out.cell 5
  have xf5 : w1.frozen? ⟨w.heap.size, 5, none⟩ = false := HX0.out.frozen 5
  have x6 : w1.cell? ⟨w.heap.size, 6, none⟩ = some (.int .i64 (k : Int)) := HX0.out.cell 6
  have xf6 : w1.frozen? ⟨w.heap.size, 6, none⟩ = false := HX0.out.frozen 6
  have z0 : w1.cell? ⟨w.heap.size + 1, 0, none⟩ = some (.int .i64 0) := HZ0.out.cell 0
  have zf0 : w1.frozen? ⟨w.heap.size + 1, 0, none⟩ = false := HZ0.out.frozen 0
  have z1 : w1.cell? ⟨w.heap.size + 1, 1, none⟩ = some (.bool false) := HZ0.out.cell 1
  have zf1 : w1.frozen? ⟨w.heap.size + 1, 1, none⟩ = false := HZ0.out.frozen 1
  have z2 : w1.cell? ⟨w.heap.size + 1, 2, none⟩ = some (.string ⟨#[]⟩) := HZ0.out.cell 2
  have zf2 : w1.frozen? ⟨w.heap.size + 1, 2, none⟩ = false := HZ0.out.frozen 2
  have z3 : w1.cell? ⟨w.heap.size + 1, 3, none⟩ = some (.int .i64 0) := HZ0.out.cell 3
  have zf3 : w1.frozen? ⟨w.heap.size + 1, 3, none⟩ = false := HZ0.out.frozen 3
  have z4 : w1.cell? ⟨w.heap.size + 1, 4, none⟩ = some (.int .i64 0) := HZ0.out.cell 4
  have zf4 : w1.frozen? ⟨w.heap.size + 1, 4, none⟩ = false := HZ0.out.frozen 4
  have z5 : w1.cell? ⟨w.heap.size + 1, 5, none⟩ = some (.bool false) := HZ0.out.cell 5
  have zf5 : w1.frozen? ⟨w.heap.size + 1, 5, none⟩ = false := HZ0.out.frozen 5
  have z6 : w1.cell? ⟨w.heap.size + 1, 6, none⟩ = some (.int .i64 0) := HZ0.out.cell 6
  have zf6 : w1.frozen? ⟨w.heap.size + 1, 6, none⟩ = false := HZ0.out.frozen 6
  have hl1 : w.heap.size + 1 < w1.heap.size := HZ0.out.lt
  have hl0 : w.heap.size < w1.heap.size := HX0.out.lt
  go_wp2
  refine bodyPost_ret (results_one Tryd.results19 _ _ (w.heap.size + 1) _ _ _ rfl (((((((((HZ0.out.far (by simp) _).far (by simp) _).set' 0 (.int .i64 1) rfl).set' 1 (.bool true) rfl).set' 2 (.string s) rfl).set' 3 (.int .i64 (z : Int)) rfl).set' 4 (.int .i64 (b : Int)) rfl).set' 5 (.bool m) rfl).set' 6 (.int .i64 (k : Int)) rfl) Tryd.underlying44 rfl (by kernel_rfl)) rfl ?_
  exact ⟨rfl, (((((((((HB0.out.setCell (by simp) _).setCell (by simp) _).setCell (by simp) _).setCell (by simp) _).setCell (by simp) _).setCell (by simp) _).setCell (by simp) _).setCell (by simp) _).setCell (by simp) _)⟩
set_option maxHeartbeats 4000000 in
theorem with_2 (r : Rg) (c : UInt8) (w : World) : Calls Tryd.prog 19 #[rgV r, .int .u8 (c.toNat : Int), .int .i64 2] w fun e w' => e = .returned (rgV (withR r c 2)) ∧ Below w.heap.size w w' := by
  obtain ⟨p, n, d, z, b, m, k⟩ := r
  unfold rgV
  dsimp only at *
  have hww : withR ⟨p, n, d, z, b, m, k⟩ c 2 = ⟨2, n, d, z, b, m, k⟩ := rfl
  rw [hww]
  clear hww
  dsimp only
  generalize bs d = s at *
  have HX0 : Hid (RgBlk ((w.alloc (.cells #[.int .i64 (p : Int), .bool n, .string s, .int .i64 (z : Int), .int .i64 (b : Int), .bool m, .int .i64 (k : Int)] 44)).alloc (.cells #[.int .i64 0, .bool false, .string ⟨#[]⟩, .int .i64 0, .int .i64 0, .bool false, .int .i64 0] 44)) w.heap.size p n s z b m k) := Lib.hid ((Blk.new w 44 _).alloc _)
  have HZ0 : Hid (Blk ((w.alloc (.cells #[.int .i64 (p : Int), .bool n, .string s, .int .i64 (z : Int), .int .i64 (b : Int), .bool m, .int .i64 (k : Int)] 44)).alloc (.cells #[.int .i64 0, .bool false, .string ⟨#[]⟩, .int .i64 0, .int .i64 0, .bool false, .int .i64 0] 44)) (w.heap.size + 1) 44 #[.int .i64 0, .bool false, .string ⟨#[]⟩, .int .i64 0, .int .i64 0, .bool false, .int .i64 0]) := Lib.hid (by have h := Blk.new (w.alloc (.cells #[.int .i64 (p : Int), .bool n, .string s, .int .i64 (z : Int), .int .i64 (b : Int), .bool m, .int .i64 (k : Int)] 44)) 44 #[.int .i64 0, .bool false, .string ⟨#[]⟩, .int .i64 0, .int .i64 0, .bool false, .int .i64 0]; rwa [World.size_alloc] at h)
  have HB0 : Hid (Below w.heap.size w ((w.alloc (.cells #[.int .i64 (p : Int), .bool n, .string s, .int .i64 (z : Int), .int .i64 (b : Int), .bool m, .int .i64 (k : Int)] 44)).alloc (.cells #[.int .i64 0, .bool false, .string ⟨#[]⟩, .int .i64 0, .int .i64 0, .bool false, .int .i64 0] 44))) := Lib.hid (((Below.refl _ _).alloc (Nat.le_refl _) _).alloc (by rw [World.size_alloc]; omega) _)
  go_enter Tryd.func19, Tryd.ntmps19
  go_upto_region 1 with fail
  generalize (w.alloc (.cells #[.int .i64 (p : Int), .bool n, .string s, .int .i64 (z : Int), .int .i64 (b : Int), .bool m, .int .i64 (k : Int)] 44)).alloc (.cells #[.int .i64 0, .bool false, .string ⟨#[]⟩, .int .i64 0, .int .i64 0, .bool false, .int .i64 0] 44) = w1 at *
  have x0 : w1.cell? ⟨w.heap.size, 0, none⟩ = some (.int .i64 (p : Int)) := HX0.out.cell 0
  have xf0 : w1.frozen? ⟨w.heap.size, 0, none⟩ = false := HX0.out.frozen 0
  have x1 : w1.cell? ⟨w.heap.size, 1, none⟩ = some (.bool n) := HX0.out.cell 1
  have xf1 : w1.frozen? ⟨w.heap.size, 1, none⟩ = false := HX0.out.frozen 1
  have x2 : w1.cell? ⟨w.heap.size, 2, none⟩ = some (.string s) := HX0.out.cell 2
  have xf2 : w1.frozen? ⟨w.heap.size, 2, none⟩ = false := HX0.out.frozen 2
  have x3 : w1.cell? ⟨w.heap.size, 3, none⟩ = some (.int .i64 (z : Int)) := HX0.out.cell 3
  have xf3 : w1.frozen? ⟨w.heap.size, 3, none⟩ = false := HX0.out.frozen 3
  have x4 : w1.cell? ⟨w.heap.size, 4, none⟩ = some (.int .i64 (b : Int)) := HX0.out.cell 4
  have xf4 : w1.frozen? ⟨w.heap.size, 4, none⟩ = false := HX0.out.frozen 4
  have x5 : w1.cell? ⟨w.heap.size, 5, none⟩ = some (.bool m) := HX0.out.cell 5
  have xf5 : w1.frozen? ⟨w.heap.size, 5, none⟩ = false := HX0.out.frozen 5
  have x6 : w1.cell? ⟨w.heap.size, 6, none⟩ = some (.int .i64 (k : Int)) := HX0.out.cell 6
  have xf6 : w1.frozen? ⟨w.heap.size, 6, none⟩ = false := HX0.out.frozen 6
  have z0 : w1.cell? ⟨w.heap.size + 1, 0, none⟩ = some (.int .i64 0) := HZ0.out.cell 0
  have zf0 : w1.frozen? ⟨w.heap.size + 1, 0, none⟩ = false := HZ0.out.frozen 0
  have z1 : w1.cell? ⟨w.heap.size + 1, 1, none⟩ = some (.bool false) := HZ0.out.cell 1
  have zf1 : w1.frozen? ⟨w.heap.size + 1, 1, none⟩ = false := HZ0.out.frozen 1
  have z2 : w1.cell? ⟨w.heap.size + 1, 2, none⟩ = some (.string ⟨#[]⟩) := HZ0.out.cell 2
  have zf2 : w1.frozen? ⟨w.heap.size + 1, 2, none⟩ = false := HZ0.out.frozen 2
  have z3 : w1.cell? ⟨w.heap.size + 1, 3, none⟩ = some (.int .i64 0) := HZ0.out.cell 3
  have zf3 : w1.frozen? ⟨w.heap.size + 1, 3, none⟩ = false := HZ0.out.frozen 3
  have z4 : w1.cell? ⟨w.heap.size + 1, 4, none⟩ = some (.int .i64 0) := HZ0.out.cell 4
  have zf4 : w1.frozen? ⟨w.heap.size + 1, 4, none⟩ = false := HZ0.out.frozen 4
  have z5 : w1.cell? ⟨w.heap.size + 1, 5, none⟩ = some (.bool false) := HZ0.out.cell 5
  have zf5 : w1.frozen? ⟨w.heap.size + 1, 5, none⟩ = false := HZ0.out.frozen 5
  have z6 : w1.cell? ⟨w.heap.size + 1, 6, none⟩ = some (.int .i64 0) := HZ0.out.cell 6
  have zf6 : w1.frozen? ⟨w.heap.size + 1, 6, none⟩ = false := HZ0.out.frozen 6
  have hl1 : w.heap.size + 1 < w1.heap.size := HZ0.out.lt
  have hl0 : w.heap.size < w1.heap.size := HX0.out.lt
  go_wp2
  refine bodyPost_ret (results_one Tryd.results19 _ _ (w.heap.size + 1) _ _ _ rfl ((((((((HZ0.out.far (by simp) _).set' 0 (.int .i64 2) rfl).set' 1 (.bool n) rfl).set' 2 (.string s) rfl).set' 3 (.int .i64 (z : Int)) rfl).set' 4 (.int .i64 (b : Int)) rfl).set' 5 (.bool m) rfl).set' 6 (.int .i64 (k : Int)) rfl) Tryd.underlying44 rfl (by kernel_rfl)) rfl ?_
  exact ⟨rfl, ((((((((HB0.out.setCell (by simp) _).setCell (by simp) _).setCell (by simp) _).setCell (by simp) _).setCell (by simp) _).setCell (by simp) _).setCell (by simp) _).setCell (by simp) _)⟩
set_option maxHeartbeats 4000000 in
theorem with_3 (r : Rg) (c : UInt8) (w : World) (hd : isD c = true) (hs : r.d.length ≤ 1000000) (hz : r.z ≤ 1000000) (hb : r.b ≤ 1000000) : Calls Tryd.prog 19 #[rgV r, .int .u8 (c.toNat : Int), .int .i64 3] w fun e w' => e = .returned (rgV (withR r c 3)) ∧ Below w.heap.size w w' := by
  have HT := Lib.hid (fun (W : World) (r' : Rg) h1 h2 (h3 : RgB W w.heap.size r') => takeDigit_any w.heap.size c r' W hd h1 h2 h3)
  obtain ⟨p, n, d, z, b, m, k⟩ := r
  unfold rgV
  dsimp only at *
  have HT2 := Lib.hid (fun W h => HT.out W ⟨3, n, d, z, b, m, k⟩ hs hz h)
  clear HT
  have hww : withR ⟨p, n, d, z, b, m, k⟩ c 3 = takeR ⟨3, n, d, z, b, m, k⟩ c := rfl
  rw [hww]
  clear hww
  generalize takeR ⟨3, n, d, z, b, m, k⟩ c = t at *
  obtain ⟨tp, tn, td, tz, tb, tm, tk⟩ := t
  dsimp only [RgB] at *
  generalize bs td = ts at *
  generalize bs d = s at *
  have HX0 : Hid (RgBlk ((w.alloc (.cells #[.int .i64 (p : Int), .bool n, .string s, .int .i64 (z : Int), .int .i64 (b : Int), .bool m, .int .i64 (k : Int)] 44)).alloc (.cells #[.int .i64 0, .bool false, .string ⟨#[]⟩, .int .i64 0, .int .i64 0, .bool false, .int .i64 0] 44)) w.heap.size p n s z b m k) := Lib.hid ((Blk.new w 44 _).alloc _)
  have HZ0 : Hid (Blk ((w.alloc (.cells #[.int .i64 (p : Int), .bool n, .string s, .int .i64 (z : Int), .int .i64 (b : Int), .bool m, .int .i64 (k : Int)] 44)).alloc (.cells #[.int .i64 0, .bool false, .string ⟨#[]⟩, .int .i64 0, .int .i64 0, .bool false, .int .i64 0] 44)) (w.heap.size + 1) 44 #[.int .i64 0, .bool false, .string ⟨#[]⟩, .int .i64 0, .int .i64 0, .bool false, .int .i64 0]) := Lib.hid (by have h := Blk.new (w.alloc (.cells #[.int .i64 (p : Int), .bool n, .string s, .int .i64 (z : Int), .int .i64 (b : Int), .bool m, .int .i64 (k : Int)] 44)) 44 #[.int .i64 0, .bool false, .string ⟨#[]⟩, .int .i64 0, .int .i64 0, .bool false, .int .i64 0]; rwa [World.size_alloc] at h)
  have HB0 : Hid (Below w.heap.size w ((w.alloc (.cells #[.int .i64 (p : Int), .bool n, .string s, .int .i64 (z : Int), .int .i64 (b : Int), .bool m, .int .i64 (k : Int)] 44)).alloc (.cells #[.int .i64 0, .bool false, .string ⟨#[]⟩, .int .i64 0, .int .i64 0, .bool false, .int .i64 0] 44))) := Lib.hid (((Below.refl _ _).alloc (Nat.le_refl _) _).alloc (by rw [World.size_alloc]; omega) _)
  go_enter Tryd.func19, Tryd.ntmps19
  go_upto_region 1 with fail
  generalize (w.alloc (.cells #[.int .i64 (p : Int), .bool n, .string s, .int .i64 (z : Int), .int .i64 (b : Int), .bool m, .int .i64 (k : Int)] 44)).alloc (.cells #[.int .i64 0, .bool false, .string ⟨#[]⟩, .int .i64 0, .int .i64 0, .bool false, .int .i64 0] 44) = w1 at *
  have x0 : w1.cell? ⟨w.heap.size, 0, none⟩ = some (.int .i64 (p : Int)) := HX0.out.cell 0
  have xf0 : w1.frozen? ⟨w.heap.size, 0, none⟩ = false := HX0.out.frozen 0
  have x1 : w1.cell? ⟨w.heap.size, 1, none⟩ = some (.bool n) := HX0.out.cell 1
  have xf1 : w1.frozen? ⟨w.heap.size, 1, none⟩ = false := HX0.out.frozen 1
  have x2 : w1.cell? ⟨w.heap.size, 2, none⟩ = some (.string s) := HX0.out.cell 2
  have xf2 : w1.frozen? ⟨w.heap.size, 2, none⟩ = false := HX0.out.frozen 2
  have x3 : w1.cell? ⟨w.heap.size, 3, none⟩ = some (.int .i64 (z : Int)) := HX0.out.cell 3
  have xf3 : w1.frozen? ⟨w.heap.size, 3, none⟩ = false := HX0.out.frozen 3
  have x4 : w1.cell? ⟨w.heap.size, 4, none⟩ = some (.int .i64 (b : Int)) := HX0.out.cell 4
  have xf4 : w1.frozen? ⟨w.heap.size, 4, none⟩ = false := HX0.out.frozen 4
  have x5 : w1.cell? ⟨w.heap.size, 5, none⟩ = some (.bool m) := HX0.out.cell 5
  have xf5 : w1.frozen? ⟨w.heap.size, 5, none⟩ = false := HX0.out.frozen 5
  have x6 : w1.cell? ⟨w.heap.size, 6, none⟩ = some (.int .i64 (k : Int)) := HX0.out.cell 6
  have xf6 : w1.frozen? ⟨w.heap.size, 6, none⟩ = false := HX0.out.frozen 6
  have z0 : w1.cell? ⟨w.heap.size + 1, 0, none⟩ = some (.int .i64 0) := HZ0.out.cell 0
  have zf0 : w1.frozen? ⟨w.heap.size + 1, 0, none⟩ = false := HZ0.out.frozen 0
  have z1 : w1.cell? ⟨w.heap.size + 1, 1, none⟩ = some (.bool false) := HZ0.out.cell 1
  have zf1 : w1.frozen? ⟨w.heap.size + 1, 1, none⟩ = false := HZ0.out.frozen 1
  have z2 : w1.cell? ⟨w.heap.size + 1, 2, none⟩ = some (.string ⟨#[]⟩) := HZ0.out.cell 2
  have zf2 : w1.frozen? ⟨w.heap.size + 1, 2, none⟩ = false := HZ0.out.frozen 2
  have z3 : w1.cell? ⟨w.heap.size + 1, 3, none⟩ = some (.int .i64 0) := HZ0.out.cell 3
  have zf3 : w1.frozen? ⟨w.heap.size + 1, 3, none⟩ = false := HZ0.out.frozen 3
  have z4 : w1.cell? ⟨w.heap.size + 1, 4, none⟩ = some (.int .i64 0) := HZ0.out.cell 4
  have zf4 : w1.frozen? ⟨w.heap.size + 1, 4, none⟩ = false := HZ0.out.frozen 4
  have z5 : w1.cell? ⟨w.heap.size + 1, 5, none⟩ = some (.bool false) := HZ0.out.cell 5
  have zf5 : w1.frozen? ⟨w.heap.size + 1, 5, none⟩ = false := HZ0.out.frozen 5
  have z6 : w1.cell? ⟨w.heap.size + 1, 6, none⟩ = some (.int .i64 0) := HZ0.out.cell 6
  have zf6 : w1.frozen? ⟨w.heap.size + 1, 6, none⟩ = false := HZ0.out.frozen 6
  have hl1 : w.heap.size + 1 < w1.heap.size := HZ0.out.lt
  have hl0 : w.heap.size < w1.heap.size := HX0.out.lt
  have HX1 : Hid (Blk (w1.setCell ⟨w.heap.size, 0, none⟩ (.int .i64 3)) w.heap.size 44 #[.int .i64 3, .bool n, .string s, .int .i64 (z : Int), .int .i64 ((b : Int)), .bool m, .int .i64 (k : Int)]) := Lib.hid (HX0.out.set' 0 (.int .i64 3) rfl)
  have HZ1 : Hid (Blk (w1.setCell ⟨w.heap.size, 0, none⟩ (.int .i64 3)) (w.heap.size + 1) 44 #[.int .i64 0, .bool false, .string ⟨#[]⟩, .int .i64 0, .int .i64 0, .bool false, .int .i64 0]) := Lib.hid (HZ0.out.far (by simp) _)
  have HB1 : Hid (Below w.heap.size w (w1.setCell ⟨w.heap.size, 0, none⟩ (.int .i64 3))) := Lib.hid (HB0.out.setCell (by simp) _)
  go_wp2_with fail
  refine Calls.mono (HT2.out _ HX1.out) ?_
  rintro e w2 ⟨rfl, hx2, hbt⟩
  have HX2 := Lib.hid hx2
  have HZ2 := Lib.hid (hbt.blk HZ1.out (by omega))
  have HB2 := Lib.hid (HB1.out.trans (hbt.below (Nat.le_refl _) HB1.out.size))
  clear hx2 hbt HX0 HZ0 HB0 HX1 HZ1 HB1 HT2 x0 xf0 z0 zf0 x1 xf1 z1 zf1 x2 xf2 z2 zf2 x3 xf3 z3 zf3 x4 xf4 z4 zf4 x5 xf5 z5 zf5 x6 xf6 z6 zf6 hl1 hl0
  have x0 : w2.cell? ⟨w.heap.size, 0, none⟩ = some (.int .i64 (tp : Int)) := HX2.out.cell 0
  have xf0 : w2.frozen? ⟨w.heap.size, 0, none⟩ = false := HX2.out.frozen 0
  have x1 : w2.cell? ⟨w.heap.size, 1, none⟩ = some (.bool tn) := HX2.out.cell 1
  have xf1 : w2.frozen? ⟨w.heap.size, 1, none⟩ = false := HX2.out.frozen 1
  have x2 : w2.cell? ⟨w.heap.size, 2, none⟩ = some (.string ts) := HX2.out.cell 2
  have xf2 : w2.frozen? ⟨w.heap.size, 2, none⟩ = false := HX2.out.frozen 2
  have x3 : w2.cell? ⟨w.heap.size, 3, none⟩ = some (.int .i64 (tz : Int)) := HX2.out.cell 3
  have xf3 : w2.frozen? ⟨w.heap.size, 3, none⟩ = false := HX2.out.frozen 3
  have x4 : w2.cell? ⟨w.heap.size, 4, none⟩ = some (.int .i64 (tb : Int)) := HX2.out.cell 4
  have xf4 : w2.frozen? ⟨w.heap.size, 4, none⟩ = false := HX2.out.frozen 4
  have x5 : w2.cell? ⟨w.heap.size, 5, none⟩ = some (.bool tm) := HX2.out.cell 5
  have xf5 : w2.frozen? ⟨w.heap.size, 5, none⟩ = false := HX2.out.frozen 5
  have x6 : w2.cell? ⟨w.heap.size, 6, none⟩ = some (.int .i64 (tk : Int)) := HX2.out.cell 6
  have xf6 : w2.frozen? ⟨w.heap.size, 6, none⟩ = false := HX2.out.frozen 6
  have z0 : w2.cell? ⟨w.heap.size + 1, 0, none⟩ = some (.int .i64 0) := HZ2.out.cell 0
  have zf0 : w2.frozen? ⟨w.heap.size + 1, 0, none⟩ = false := HZ2.out.frozen 0
  have z1 : w2.cell? ⟨w.heap.size + 1, 1, none⟩ = some (.bool false) := HZ2.out.cell 1
  have zf1 : w2.frozen? ⟨w.heap.size + 1, 1, none⟩ = false := HZ2.out.frozen 1
  have z2 : w2.cell? ⟨w.heap.size + 1, 2, none⟩ = some (.string ⟨#[]⟩) := HZ2.out.cell 2
  have zf2 : w2.frozen? ⟨w.heap.size + 1, 2, none⟩ = false := HZ2.out.frozen 2
  have z3 : w2.cell? ⟨w.heap.size + 1, 3, none⟩ = some (.int .i64 0) := HZ2.out.cell 3
  have zf3 : w2.frozen? ⟨w.heap.size + 1, 3, none⟩ = false := HZ2.out.frozen 3
  have z4 : w2.cell? ⟨w.heap.size + 1, 4, none⟩ = some (.int .i64 0) := HZ2.out.cell 4
  have zf4 : w2.frozen? ⟨w.heap.size + 1, 4, none⟩ = false := HZ2.out.frozen 4
  have z5 : w2.cell? ⟨w.heap.size + 1, 5, none⟩ = some (.bool false) := HZ2.out.cell 5
  have zf5 : w2.frozen? ⟨w.heap.size + 1, 5, none⟩ = false := HZ2.out.frozen 5
  have z6 : w2.cell? ⟨w.heap.size + 1, 6, none⟩ = some (.int .i64 0) := HZ2.out.cell 6
  have zf6 : w2.frozen? ⟨w.heap.size + 1, 6, none⟩ = false := HZ2.out.frozen 6
  have hl1 : w.heap.size + 1 < w2.heap.size := HZ2.out.lt
  have hl0 : w.heap.size < w2.heap.size := HX2.out.lt
  go_wp2
  refine bodyPost_ret (results_one Tryd.results19 _ _ (w.heap.size + 1) _ _ _ rfl (((((((HZ2.out.set' 0 (.int .i64 (tp : Int)) rfl).set' 1 (.bool tn) rfl).set' 2 (.string ts) rfl).set' 3 (.int .i64 (tz : Int)) rfl).set' 4 (.int .i64 (tb : Int)) rfl).set' 5 (.bool tm) rfl).set' 6 (.int .i64 (tk : Int)) rfl) Tryd.underlying44 rfl (by kernel_rfl)) rfl ?_
  exact ⟨rfl, (((((((HB2.out.setCell (by simp) _).setCell (by simp) _).setCell (by simp) _).setCell (by simp) _).setCell (by simp) _).setCell (by simp) _).setCell (by simp) _)⟩
set_option maxHeartbeats 4000000 in
theorem with_4 (r : Rg) (c : UInt8) (w : World) : Calls Tryd.prog 19 #[rgV r, .int .u8 (c.toNat : Int), .int .i64 4] w fun e w' => e = .returned (rgV (withR r c 4)) ∧ Below w.heap.size w w' := by
  obtain ⟨p, n, d, z, b, m, k⟩ := r
  unfold rgV
  dsimp only at *
  have hww : withR ⟨p, n, d, z, b, m, k⟩ c 4 = ⟨4, n, d, z, b, m, k⟩ := rfl
  rw [hww]
  clear hww
  dsimp only
  generalize bs d = s at *
  have HX0 : Hid (RgBlk ((w.alloc (.cells #[.int .i64 (p : Int), .bool n, .string s, .int .i64 (z : Int), .int .i64 (b : Int), .bool m, .int .i64 (k : Int)] 44)).alloc (.cells #[.int .i64 0, .bool false, .string ⟨#[]⟩, .int .i64 0, .int .i64 0, .bool false, .int .i64 0] 44)) w.heap.size p n s z b m k) := Lib.hid ((Blk.new w 44 _).alloc _)
  have HZ0 : Hid (Blk ((w.alloc (.cells #[.int .i64 (p : Int), .bool n, .string s, .int .i64 (z : Int), .int .i64 (b : Int), .bool m, .int .i64 (k : Int)] 44)).alloc (.cells #[.int .i64 0, .bool false, .string ⟨#[]⟩, .int .i64 0, .int .i64 0, .bool false, .int .i64 0] 44)) (w.heap.size + 1) 44 #[.int .i64 0, .bool false, .string ⟨#[]⟩, .int .i64 0, .int .i64 0, .bool false, .int .i64 0]) := Lib.hid (by have h := Blk.new (w.alloc (.cells #[.int .i64 (p : Int), .bool n, .string s, .int .i64 (z : Int), .int .i64 (b : Int), .bool m, .int .i64 (k : Int)] 44)) 44 #[.int .i64 0, .bool false, .string ⟨#[]⟩, .int .i64 0, .int .i64 0, .bool false, .int .i64 0]; rwa [World.size_alloc] at h)
  have HB0 : Hid (Below w.heap.size w ((w.alloc (.cells #[.int .i64 (p : Int), .bool n, .string s, .int .i64 (z : Int), .int .i64 (b : Int), .bool m, .int .i64 (k : Int)] 44)).alloc (.cells #[.int .i64 0, .bool false, .string ⟨#[]⟩, .int .i64 0, .int .i64 0, .bool false, .int .i64 0] 44))) := Lib.hid (((Below.refl _ _).alloc (Nat.le_refl _) _).alloc (by rw [World.size_alloc]; omega) _)
  go_enter Tryd.func19, Tryd.ntmps19
  go_upto_region 1 with fail
  generalize (w.alloc (.cells #[.int .i64 (p : Int), .bool n, .string s, .int .i64 (z : Int), .int .i64 (b : Int), .bool m, .int .i64 (k : Int)] 44)).alloc (.cells #[.int .i64 0, .bool false, .string ⟨#[]⟩, .int .i64 0, .int .i64 0, .bool false, .int .i64 0] 44) = w1 at *
  have x0 : w1.cell? ⟨w.heap.size, 0, none⟩ = some (.int .i64 (p : Int)) := HX0.out.cell 0
  have xf0 : w1.frozen? ⟨w.heap.size, 0, none⟩ = false := HX0.out.frozen 0
  have x1 : w1.cell? ⟨w.heap.size, 1, none⟩ = some (.bool n) := HX0.out.cell 1
  have xf1 : w1.frozen? ⟨w.heap.size, 1, none⟩ = false := HX0.out.frozen 1
  have x2 : w1.cell? ⟨w.heap.size, 2, none⟩ = some (.string s) := HX0.out.cell 2
  have xf2 : w1.frozen? ⟨w.heap.size, 2, none⟩ = false := HX0.out.frozen 2
  have x3 : w1.cell? ⟨w.heap.size, 3, none⟩ = some (.int .i64 (z : Int)) := HX0.out.cell 3
  have xf3 : w1.frozen? ⟨w.heap.size, 3, none⟩ = false := HX0.out.frozen 3
  have x4 : w1.cell? ⟨w.heap.size, 4, none⟩ = some (.int .i64 (b : Int)) := HX0.out.cell 4
  have xf4 : w1.frozen? ⟨w.heap.size, 4, none⟩ = false := HX0.out.frozen 4
  have x5 : w1.cell? ⟨w.heap.size, 5, none⟩ = some (.bool m) := HX0.out.cell 5
  have xf5 : w1.frozen? ⟨w.heap.size, 5, none⟩ = false := HX0.out.frozen 5
  have x6 : w1.cell? ⟨w.heap.size, 6, none⟩ = some (.int .i64 (k : Int)) := HX0.out.cell 6
  have xf6 : w1.frozen? ⟨w.heap.size, 6, none⟩ = false := HX0.out.frozen 6
  have z0 : w1.cell? ⟨w.heap.size + 1, 0, none⟩ = some (.int .i64 0) := HZ0.out.cell 0
  have zf0 : w1.frozen? ⟨w.heap.size + 1, 0, none⟩ = false := HZ0.out.frozen 0
  have z1 : w1.cell? ⟨w.heap.size + 1, 1, none⟩ = some (.bool false) := HZ0.out.cell 1
  have zf1 : w1.frozen? ⟨w.heap.size + 1, 1, none⟩ = false := HZ0.out.frozen 1
  have z2 : w1.cell? ⟨w.heap.size + 1, 2, none⟩ = some (.string ⟨#[]⟩) := HZ0.out.cell 2
  have zf2 : w1.frozen? ⟨w.heap.size + 1, 2, none⟩ = false := HZ0.out.frozen 2
  have z3 : w1.cell? ⟨w.heap.size + 1, 3, none⟩ = some (.int .i64 0) := HZ0.out.cell 3
  have zf3 : w1.frozen? ⟨w.heap.size + 1, 3, none⟩ = false := HZ0.out.frozen 3
  have z4 : w1.cell? ⟨w.heap.size + 1, 4, none⟩ = some (.int .i64 0) := HZ0.out.cell 4
  have zf4 : w1.frozen? ⟨w.heap.size + 1, 4, none⟩ = false := HZ0.out.frozen 4
  have z5 : w1.cell? ⟨w.heap.size + 1, 5, none⟩ = some (.bool false) := HZ0.out.cell 5
  have zf5 : w1.frozen? ⟨w.heap.size + 1, 5, none⟩ = false := HZ0.out.frozen 5
  have z6 : w1.cell? ⟨w.heap.size + 1, 6, none⟩ = some (.int .i64 0) := HZ0.out.cell 6
  have zf6 : w1.frozen? ⟨w.heap.size + 1, 6, none⟩ = false := HZ0.out.frozen 6
  have hl1 : w.heap.size + 1 < w1.heap.size := HZ0.out.lt
  have hl0 : w.heap.size < w1.heap.size := HX0.out.lt
  go_wp2
  refine bodyPost_ret (results_one Tryd.results19 _ _ (w.heap.size + 1) _ _ _ rfl ((((((((HZ0.out.far (by simp) _).set' 0 (.int .i64 4) rfl).set' 1 (.bool n) rfl).set' 2 (.string s) rfl).set' 3 (.int .i64 (z : Int)) rfl).set' 4 (.int .i64 (b : Int)) rfl).set' 5 (.bool m) rfl).set' 6 (.int .i64 (k : Int)) rfl) Tryd.underlying44 rfl (by kernel_rfl)) rfl ?_
  exact ⟨rfl, ((((((((HB0.out.setCell (by simp) _).setCell (by simp) _).setCell (by simp) _).setCell (by simp) _).setCell (by simp) _).setCell (by simp) _).setCell (by simp) _).setCell (by simp) _)⟩
set_option maxHeartbeats 4000000 in
theorem with_5 (r : Rg) (c : UInt8) (w : World) (hd : isD c = true) (hs : r.d.length ≤ 1000000) (hz : r.z ≤ 1000000) (hb : r.b ≤ 1000000) : Calls Tryd.prog 19 #[rgV r, .int .u8 (c.toNat : Int), .int .i64 5] w fun e w' => e = .returned (rgV (withR r c 5)) ∧ Below w.heap.size w w' := by
  have HT := Lib.hid (fun (W : World) (r' : Rg) h1 h2 (h3 : RgB W w.heap.size r') => takeDigit_any w.heap.size c r' W hd h1 h2 h3)
  obtain ⟨p, n, d, z, b, m, k⟩ := r
  unfold rgV
  dsimp only at *
  have HT2 := Lib.hid (fun W h => HT.out W ⟨5, n, d, z, (b + 1), m, k⟩ hs hz h)
  clear HT
  have hww : withR ⟨p, n, d, z, b, m, k⟩ c 5 = takeR ⟨5, n, d, z, (b + 1), m, k⟩ c := rfl
  rw [hww]
  clear hww
  generalize takeR ⟨5, n, d, z, (b + 1), m, k⟩ c = t at *
  obtain ⟨tp, tn, td, tz, tb, tm, tk⟩ := t
  dsimp only [RgB] at *
  generalize bs td = ts at *
  generalize bs d = s at *
  have HX0 : Hid (RgBlk ((w.alloc (.cells #[.int .i64 (p : Int), .bool n, .string s, .int .i64 (z : Int), .int .i64 (b : Int), .bool m, .int .i64 (k : Int)] 44)).alloc (.cells #[.int .i64 0, .bool false, .string ⟨#[]⟩, .int .i64 0, .int .i64 0, .bool false, .int .i64 0] 44)) w.heap.size p n s z b m k) := Lib.hid ((Blk.new w 44 _).alloc _)
  have HZ0 : Hid (Blk ((w.alloc (.cells #[.int .i64 (p : Int), .bool n, .string s, .int .i64 (z : Int), .int .i64 (b : Int), .bool m, .int .i64 (k : Int)] 44)).alloc (.cells #[.int .i64 0, .bool false, .string ⟨#[]⟩, .int .i64 0, .int .i64 0, .bool false, .int .i64 0] 44)) (w.heap.size + 1) 44 #[.int .i64 0, .bool false, .string ⟨#[]⟩, .int .i64 0, .int .i64 0, .bool false, .int .i64 0]) := Lib.hid (by have h := Blk.new (w.alloc (.cells #[.int .i64 (p : Int), .bool n, .string s, .int .i64 (z : Int), .int .i64 (b : Int), .bool m, .int .i64 (k : Int)] 44)) 44 #[.int .i64 0, .bool false, .string ⟨#[]⟩, .int .i64 0, .int .i64 0, .bool false, .int .i64 0]; rwa [World.size_alloc] at h)
  have HB0 : Hid (Below w.heap.size w ((w.alloc (.cells #[.int .i64 (p : Int), .bool n, .string s, .int .i64 (z : Int), .int .i64 (b : Int), .bool m, .int .i64 (k : Int)] 44)).alloc (.cells #[.int .i64 0, .bool false, .string ⟨#[]⟩, .int .i64 0, .int .i64 0, .bool false, .int .i64 0] 44))) := Lib.hid (((Below.refl _ _).alloc (Nat.le_refl _) _).alloc (by rw [World.size_alloc]; omega) _)
  go_enter Tryd.func19, Tryd.ntmps19
  go_upto_region 1 with fail
  generalize (w.alloc (.cells #[.int .i64 (p : Int), .bool n, .string s, .int .i64 (z : Int), .int .i64 (b : Int), .bool m, .int .i64 (k : Int)] 44)).alloc (.cells #[.int .i64 0, .bool false, .string ⟨#[]⟩, .int .i64 0, .int .i64 0, .bool false, .int .i64 0] 44) = w1 at *
  have x0 : w1.cell? ⟨w.heap.size, 0, none⟩ = some (.int .i64 (p : Int)) := HX0.out.cell 0
  have xf0 : w1.frozen? ⟨w.heap.size, 0, none⟩ = false := HX0.out.frozen 0
  have x1 : w1.cell? ⟨w.heap.size, 1, none⟩ = some (.bool n) := HX0.out.cell 1
  have xf1 : w1.frozen? ⟨w.heap.size, 1, none⟩ = false := HX0.out.frozen 1
  have x2 : w1.cell? ⟨w.heap.size, 2, none⟩ = some (.string s) := HX0.out.cell 2
  have xf2 : w1.frozen? ⟨w.heap.size, 2, none⟩ = false := HX0.out.frozen 2
  have x3 : w1.cell? ⟨w.heap.size, 3, none⟩ = some (.int .i64 (z : Int)) := HX0.out.cell 3
  have xf3 : w1.frozen? ⟨w.heap.size, 3, none⟩ = false := HX0.out.frozen 3
  have x4 : w1.cell? ⟨w.heap.size, 4, none⟩ = some (.int .i64 (b : Int)) := HX0.out.cell 4
  have xf4 : w1.frozen? ⟨w.heap.size, 4, none⟩ = false := HX0.out.frozen 4
  have x5 : w1.cell? ⟨w.heap.size, 5, none⟩ = some (.bool m) := HX0.out.cell 5
  have xf5 : w1.frozen? ⟨w.heap.size, 5, none⟩ = false := HX0.out.frozen 5
  have x6 : w1.cell? ⟨w.heap.size, 6, none⟩ = some (.int .i64 (k : Int)) := HX0.out.cell 6
  have xf6 : w1.frozen? ⟨w.heap.size, 6, none⟩ = false := HX0.out.frozen 6
  have z0 : w1.cell? ⟨w.heap.size + 1, 0, none⟩ = some (.int .i64 0) := HZ0.out.cell 0
  have zf0 : w1.frozen? ⟨w.heap.size + 1, 0, none⟩ = false := HZ0.out.frozen 0
  have z1 : w1.cell? ⟨w.heap.size + 1, 1, none⟩ = some (.bool false) := HZ0.out.cell 1
  have zf1 : w1.frozen? ⟨w.heap.size + 1, 1, none⟩ = false := HZ0.out.frozen 1
  have z2 : w1.cell? ⟨w.heap.size + 1, 2, none⟩ = some (.string ⟨#[]⟩) := HZ0.out.cell 2
  have zf2 : w1.frozen? ⟨w.heap.size + 1, 2, none⟩ = false := HZ0.out.frozen 2
  have z3 : w1.cell? ⟨w.heap.size + 1, 3, none⟩ = some (.int .i64 0) := HZ0.out.cell 3
  have zf3 : w1.frozen? ⟨w.heap.size + 1, 3, none⟩ = false := HZ0.out.frozen 3
  have z4 : w1.cell? ⟨w.heap.size + 1, 4, none⟩ = some (.int .i64 0) := HZ0.out.cell 4
  have zf4 : w1.frozen? ⟨w.heap.size + 1, 4, none⟩ = false := HZ0.out.frozen 4
  have z5 : w1.cell? ⟨w.heap.size + 1, 5, none⟩ = some (.bool false) := HZ0.out.cell 5
  have zf5 : w1.frozen? ⟨w.heap.size + 1, 5, none⟩ = false := HZ0.out.frozen 5
  have z6 : w1.cell? ⟨w.heap.size + 1, 6, none⟩ = some (.int .i64 0) := HZ0.out.cell 6
  have zf6 : w1.frozen? ⟨w.heap.size + 1, 6, none⟩ = false := HZ0.out.frozen 6
  have hl1 : w.heap.size + 1 < w1.heap.size := HZ0.out.lt
  have hl0 : w.heap.size < w1.heap.size := HX0.out.lt
  have HX1 : Hid (Blk ((w1.setCell ⟨w.heap.size, 0, none⟩ (.int .i64 5)).setCell ⟨w.heap.size, 4, none⟩ (.int .i64 ((b : Int) + 1))) w.heap.size 44 #[.int .i64 5, .bool n, .string s, .int .i64 (z : Int), .int .i64 ((b : Int) + 1), .bool m, .int .i64 (k : Int)]) := Lib.hid ((HX0.out.set' 0 (.int .i64 5) rfl).set' 4 (.int .i64 ((b : Int) + 1)) rfl)
  have HZ1 : Hid (Blk ((w1.setCell ⟨w.heap.size, 0, none⟩ (.int .i64 5)).setCell ⟨w.heap.size, 4, none⟩ (.int .i64 ((b : Int) + 1))) (w.heap.size + 1) 44 #[.int .i64 0, .bool false, .string ⟨#[]⟩, .int .i64 0, .int .i64 0, .bool false, .int .i64 0]) := Lib.hid ((HZ0.out.far (by simp) _).far (by simp) _)
  have HB1 : Hid (Below w.heap.size w ((w1.setCell ⟨w.heap.size, 0, none⟩ (.int .i64 5)).setCell ⟨w.heap.size, 4, none⟩ (.int .i64 ((b : Int) + 1)))) := Lib.hid ((HB0.out.setCell (by simp) _).setCell (by simp) _)
  go_wp2_with fail
  refine Calls.mono (HT2.out _ HX1.out) ?_
  rintro e w2 ⟨rfl, hx2, hbt⟩
  have HX2 := Lib.hid hx2
  have HZ2 := Lib.hid (hbt.blk HZ1.out (by omega))
  have HB2 := Lib.hid (HB1.out.trans (hbt.below (Nat.le_refl _) HB1.out.size))
  clear hx2 hbt HX0 HZ0 HB0 HX1 HZ1 HB1 HT2 x0 xf0 z0 zf0 x1 xf1 z1 zf1 x2 xf2 z2 zf2 x3 xf3 z3 zf3 x4 xf4 z4 zf4 x5 xf5 z5 zf5 x6 xf6 z6 zf6 hl1 hl0
  have x0 : w2.cell? ⟨w.heap.size, 0, none⟩ = some (.int .i64 (tp : Int)) := HX2.out.cell 0
  have xf0 : w2.frozen? ⟨w.heap.size, 0, none⟩ = false := HX2.out.frozen 0
  have x1 : w2.cell? ⟨w.heap.size, 1, none⟩ = some (.bool tn) := HX2.out.cell 1
  have xf1 : w2.frozen? ⟨w.heap.size, 1, none⟩ = false := HX2.out.frozen 1
  have x2 : w2.cell? ⟨w.heap.size, 2, none⟩ = some (.string ts) := HX2.out.cell 2
  have xf2 : w2.frozen? ⟨w.heap.size, 2, none⟩ = false := HX2.out.frozen 2
  have x3 : w2.cell? ⟨w.heap.size, 3, none⟩ = some (.int .i64 (tz : Int)) := HX2.out.cell 3
  have xf3 : w2.frozen? ⟨w.heap.size, 3, none⟩ = false := HX2.out.frozen 3
  have x4 : w2.cell? ⟨w.heap.size, 4, none⟩ = some (.int .i64 (tb : Int)) := HX2.out.cell 4
  have xf4 : w2.frozen? ⟨w.heap.size, 4, none⟩ = false := HX2.out.frozen 4
  have x5 : w2.cell? ⟨w.heap.size, 5, none⟩ = some (.bool tm) := HX2.out.cell 5
  have xf5 : w2.frozen? ⟨w.heap.size, 5, none⟩ = false := HX2.out.frozen 5
  have x6 : w2.cell? ⟨w.heap.size, 6, none⟩ = some (.int .i64 (tk : Int)) := HX2.out.cell 6
  have xf6 : w2.frozen? ⟨w.heap.size, 6, none⟩ = false := HX2.out.frozen 6
  have z0 : w2.cell? ⟨w.heap.size + 1, 0, none⟩ = some (.int .i64 0) := HZ2.out.cell 0
  have zf0 : w2.frozen? ⟨w.heap.size + 1, 0, none⟩ = false := HZ2.out.frozen 0
  have z1 : w2.cell? ⟨w.heap.size + 1, 1, none⟩ = some (.bool false) := HZ2.out.cell 1
  have zf1 : w2.frozen? ⟨w.heap.size + 1, 1, none⟩ = false := HZ2.out.frozen 1
  have z2 : w2.cell? ⟨w.heap.size + 1, 2, none⟩ = some (.string ⟨#[]⟩) := HZ2.out.cell 2
  have zf2 : w2.frozen? ⟨w.heap.size + 1, 2, none⟩ = false := HZ2.out.frozen 2
  have z3 : w2.cell? ⟨w.heap.size + 1, 3, none⟩ = some (.int .i64 0) := HZ2.out.cell 3
  have zf3 : w2.frozen? ⟨w.heap.size + 1, 3, none⟩ = false := HZ2.out.frozen 3
  have z4 : w2.cell? ⟨w.heap.size + 1, 4, none⟩ = some (.int .i64 0) := HZ2.out.cell 4
  have zf4 : w2.frozen? ⟨w.heap.size + 1, 4, none⟩ = false := HZ2.out.frozen 4
  have z5 : w2.cell? ⟨w.heap.size + 1, 5, none⟩ = some (.bool false) := HZ2.out.cell 5
  have zf5 : w2.frozen? ⟨w.heap.size + 1, 5, none⟩ = false := HZ2.out.frozen 5
  have z6 : w2.cell? ⟨w.heap.size + 1, 6, none⟩ = some (.int .i64 0) := HZ2.out.cell 6
  have zf6 : w2.frozen? ⟨w.heap.size + 1, 6, none⟩ = false := HZ2.out.frozen 6
  have hl1 : w.heap.size + 1 < w2.heap.size := HZ2.out.lt
  have hl0 : w.heap.size < w2.heap.size := HX2.out.lt
  go_wp2
  refine bodyPost_ret (results_one Tryd.results19 _ _ (w.heap.size + 1) _ _ _ rfl (((((((HZ2.out.set' 0 (.int .i64 (tp : Int)) rfl).set' 1 (.bool tn) rfl).set' 2 (.string ts) rfl).set' 3 (.int .i64 (tz : Int)) rfl).set' 4 (.int .i64 (tb : Int)) rfl).set' 5 (.bool tm) rfl).set' 6 (.int .i64 (tk : Int)) rfl) Tryd.underlying44 rfl (by kernel_rfl)) rfl ?_
  exact ⟨rfl, (((((((HB2.out.setCell (by simp) _).setCell (by simp) _).setCell (by simp) _).setCell (by simp) _).setCell (by simp) _).setCell (by simp) _).setCell (by simp) _)⟩
set_option maxHeartbeats 4000000 in
theorem with_6 (r : Rg) (c : UInt8) (w : World) : Calls Tryd.prog 19 #[rgV r, .int .u8 (c.toNat : Int), .int .i64 6] w fun e w' => e = .returned (rgV (withR r c 6)) ∧ Below w.heap.size w w' := by
  obtain ⟨p, n, d, z, b, m, k⟩ := r
  unfold rgV
  dsimp only at *
  have hww : withR ⟨p, n, d, z, b, m, k⟩ c 6 = ⟨6, n, d, z, b, m, k⟩ := rfl
  rw [hww]
  clear hww
  dsimp only
  generalize bs d = s at *
  have HX0 : Hid (RgBlk ((w.alloc (.cells #[.int .i64 (p : Int), .bool n, .string s, .int .i64 (z : Int), .int .i64 (b : Int), .bool m, .int .i64 (k : Int)] 44)).alloc (.cells #[.int .i64 0, .bool false, .string ⟨#[]⟩, .int .i64 0, .int .i64 0, .bool false, .int .i64 0] 44)) w.heap.size p n s z b m k) := Lib.hid ((Blk.new w 44 _).alloc _)
  have HZ0 : Hid (Blk ((w.alloc (.cells #[.int .i64 (p : Int), .bool n, .string s, .int .i64 (z : Int), .int .i64 (b : Int), .bool m, .int .i64 (k : Int)] 44)).alloc (.cells #[.int .i64 0, .bool false, .string ⟨#[]⟩, .int .i64 0, .int .i64 0, .bool false, .int .i64 0] 44)) (w.heap.size + 1) 44 #[.int .i64 0, .bool false, .string ⟨#[]⟩, .int .i64 0, .int .i64 0, .bool false, .int .i64 0]) := Lib.hid (by have h := Blk.new (w.alloc (.cells #[.int .i64 (p : Int), .bool n, .string s, .int .i64 (z : Int), .int .i64 (b : Int), .bool m, .int .i64 (k : Int)] 44)) 44 #[.int .i64 0, .bool false, .string ⟨#[]⟩, .int .i64 0, .int .i64 0, .bool false, .int .i64 0]; rwa [World.size_alloc] at h)
  have HB0 : Hid (Below w.heap.size w ((w.alloc (.cells #[.int .i64 (p : Int), .bool n, .string s, .int .i64 (z : Int), .int .i64 (b : Int), .bool m, .int .i64 (k : Int)] 44)).alloc (.cells #[.int .i64 0, .bool false, .string ⟨#[]⟩, .int .i64 0, .int .i64 0, .bool false, .int .i64 0] 44))) := Lib.hid (((Below.refl _ _).alloc (Nat.le_refl _) _).alloc (by rw [World.size_alloc]; omega) _)
  go_enter Tryd.func19, Tryd.ntmps19
  go_upto_region 1 with fail
  generalize (w.alloc (.cells #[.int .i64 (p : Int), .bool n, .string s, .int .i64 (z : Int), .int .i64 (b : Int), .bool m, .int .i64 (k : Int)] 44)).alloc (.cells #[.int .i64 0, .bool false, .string ⟨#[]⟩, .int .i64 0, .int .i64 0, .bool false, .int .i64 0] 44) = w1 at *
  have x0 : w1.cell? ⟨w.heap.size, 0, none⟩ = some (.int .i64 (p : Int)) := HX0.out.cell 0
  have xf0 : w1.frozen? ⟨w.heap.size, 0, none⟩ = false := HX0.out.frozen 0
  have x1 : w1.cell? ⟨w.heap.size, 1, none⟩ = some (.bool n) := HX0.out.cell 1
  have xf1 : w1.frozen? ⟨w.heap.size, 1, none⟩ = false := HX0.out.frozen 1
  have x2 : w1.cell? ⟨w.heap.size, 2, none⟩ = some (.string s) := HX0.out.cell 2
  have xf2 : w1.frozen? ⟨w.heap.size, 2, none⟩ = false := HX0.out.frozen 2
  have x3 : w1.cell? ⟨w.heap.size, 3, none⟩ = some (.int .i64 (z : Int)) := HX0.out.cell 3
  have xf3 : w1.frozen? ⟨w.heap.size, 3, none⟩ = false := HX0.out.frozen 3
  have x4 : w1.cell? ⟨w.heap.size, 4, none⟩ = some (.int .i64 (b : Int)) := HX0.out.cell 4
  have xf4 : w1.frozen? ⟨w.heap.size, 4, none⟩ = false := HX0.out.frozen 4
  have x5 : w1.cell? ⟨w.heap.size, 5, none⟩ = some (.bool m) := HX0.out.cell 5
  have xf5 : w1.frozen? ⟨w.heap.size, 5, none⟩ = false := HX0.out.frozen 5
  have x6 : w1.cell? ⟨w.heap.size, 6, none⟩ = some (.int .i64 (k : Int)) := HX0.out.cell 6
  have xf6 : w1.frozen? ⟨w.heap.size, 6, none⟩ = false := HX0.out.frozen 6
  have z0 : w1.cell? ⟨w.heap.size + 1, 0, none⟩ = some (.int .i64 0) := HZ0.out.cell 0
  have zf0 : w1.frozen? ⟨w.heap.size + 1, 0, none⟩ = false := HZ0.out.frozen 0
  have z1 : w1.cell? ⟨w.heap.size + 1, 1, none⟩ = some (.bool false) := HZ0.out.cell 1
  have zf1 : w1.frozen? ⟨w.heap.size + 1, 1, none⟩ = false := HZ0.out.frozen 1
  have z2 : w1.cell? ⟨w.heap.size + 1, 2, none⟩ = some (.string ⟨#[]⟩) := HZ0.out.cell 2
  have zf2 : w1.frozen? ⟨w.heap.size + 1, 2, none⟩ = false := HZ0.out.frozen 2
  have z3 : w1.cell? ⟨w.heap.size + 1, 3, none⟩ = some (.int .i64 0) := HZ0.out.cell 3
  have zf3 : w1.frozen? ⟨w.heap.size + 1, 3, none⟩ = false := HZ0.out.frozen 3
  have z4 : w1.cell? ⟨w.heap.size + 1, 4, none⟩ = some (.int .i64 0) := HZ0.out.cell 4
  have zf4 : w1.frozen? ⟨w.heap.size + 1, 4, none⟩ = false := HZ0.out.frozen 4
  have z5 : w1.cell? ⟨w.heap.size + 1, 5, none⟩ = some (.bool false) := HZ0.out.cell 5
  have zf5 : w1.frozen? ⟨w.heap.size + 1, 5, none⟩ = false := HZ0.out.frozen 5
  have z6 : w1.cell? ⟨w.heap.size + 1, 6, none⟩ = some (.int .i64 0) := HZ0.out.cell 6
  have zf6 : w1.frozen? ⟨w.heap.size + 1, 6, none⟩ = false := HZ0.out.frozen 6
  have hl1 : w.heap.size + 1 < w1.heap.size := HZ0.out.lt
  have hl0 : w.heap.size < w1.heap.size := HX0.out.lt
  go_wp2
  refine bodyPost_ret (results_one Tryd.results19 _ _ (w.heap.size + 1) _ _ _ rfl ((((((((HZ0.out.far (by simp) _).set' 0 (.int .i64 6) rfl).set' 1 (.bool n) rfl).set' 2 (.string s) rfl).set' 3 (.int .i64 (z : Int)) rfl).set' 4 (.int .i64 (b : Int)) rfl).set' 5 (.bool m) rfl).set' 6 (.int .i64 (k : Int)) rfl) Tryd.underlying44 rfl (by kernel_rfl)) rfl ?_
  exact ⟨rfl, ((((((((HB0.out.setCell (by simp) _).setCell (by simp) _).setCell (by simp) _).setCell (by simp) _).setCell (by simp) _).setCell (by simp) _).setCell (by simp) _).setCell (by simp) _)⟩
set_option maxHeartbeats 4000000 in
theorem with_7 (r : Rg) (c : UInt8) (w : World) : Calls Tryd.prog 19 #[rgV r, .int .u8 (c.toNat : Int), .int .i64 7] w fun e w' => e = .returned (rgV (withR r c 7)) ∧ Below w.heap.size w w' := by
  obtain ⟨p, n, d, z, b, m, k⟩ := r
  unfold rgV
  dsimp only at *
  have hww : withR ⟨p, n, d, z, b, m, k⟩ c 7 = ⟨7, n, d, z, b, c == 45, k⟩ := rfl
  rw [hww]
  clear hww
  dsimp only
  have hcc : ((c.toNat : Int) == 45) = (c == 45) := by
    rcases byte_is c 45 45 rfl with ⟨h1, h2⟩ | ⟨h1, h2⟩
    · rw [h2, h1]; rfl
    · rw [h2]; simp [h1]
  generalize (c == 45) = cb at *
  generalize bs d = s at *
  have HX0 : Hid (RgBlk ((w.alloc (.cells #[.int .i64 (p : Int), .bool n, .string s, .int .i64 (z : Int), .int .i64 (b : Int), .bool m, .int .i64 (k : Int)] 44)).alloc (.cells #[.int .i64 0, .bool false, .string ⟨#[]⟩, .int .i64 0, .int .i64 0, .bool false, .int .i64 0] 44)) w.heap.size p n s z b m k) := Lib.hid ((Blk.new w 44 _).alloc _)
  have HZ0 : Hid (Blk ((w.alloc (.cells #[.int .i64 (p : Int), .bool n, .string s, .int .i64 (z : Int), .int .i64 (b : Int), .bool m, .int .i64 (k : Int)] 44)).alloc (.cells #[.int .i64 0, .bool false, .string ⟨#[]⟩, .int .i64 0, .int .i64 0, .bool false, .int .i64 0] 44)) (w.heap.size + 1) 44 #[.int .i64 0, .bool false, .string ⟨#[]⟩, .int .i64 0, .int .i64 0, .bool false, .int .i64 0]) := Lib.hid (by have h := Blk.new (w.alloc (.cells #[.int .i64 (p : Int), .bool n, .string s, .int .i64 (z : Int), .int .i64 (b : Int), .bool m, .int .i64 (k : Int)] 44)) 44 #[.int .i64 0, .bool false, .string ⟨#[]⟩, .int .i64 0, .int .i64 0, .bool false, .int .i64 0]; rwa [World.size_alloc] at h)
  have HB0 : Hid (Below w.heap.size w ((w.alloc (.cells #[.int .i64 (p : Int), .bool n, .string s, .int .i64 (z : Int), .int .i64 (b : Int), .bool m, .int .i64 (k : Int)] 44)).alloc (.cells #[.int .i64 0, .bool false, .string ⟨#[]⟩, .int .i64 0, .int .i64 0, .bool false, .int .i64 0] 44))) := Lib.hid (((Below.refl _ _).alloc (Nat.le_refl _) _).alloc (by rw [World.size_alloc]; omega) _)
  go_enter Tryd.func19, Tryd.ntmps19
  go_upto_region 1 with fail
  generalize (w.alloc (.cells #[.int .i64 (p : Int), .bool n, .string s, .int .i64 (z : Int), .int .i64 (b : Int), .bool m, .int .i64 (k : Int)] 44)).alloc (.cells #[.int .i64 0, .bool false, .string ⟨#[]⟩, .int .i64 0, .int .i64 0, .bool false, .int .i64 0] 44) = w1 at *
  have x0 : w1.cell? ⟨w.heap.size, 0, none⟩ = some (.int .i64 (p : Int)) := HX0.out.cell 0
  have xf0 : w1.frozen? ⟨w.heap.size, 0, none⟩ = false := HX0.out.frozen 0
  have x1 : w1.cell? ⟨w.heap.size, 1, none⟩ = some (.bool n) := HX0.out.cell 1
  have xf1 : w1.frozen? ⟨w.heap.size, 1, none⟩ = false := HX0.out.frozen 1
  have x2 : w1.cell? ⟨w.heap.size, 2, none⟩ = some (.string s) := HX0.out.cell 2
  have xf2 : w1.frozen? ⟨w.heap.size, 2, none⟩ = false := HX0.out.frozen 2
  have x3 : w1.cell? ⟨w.heap.size, 3, none⟩ = some (.int .i64 (z : Int)) := HX0.out.cell 3
  have xf3 : w1.frozen? ⟨w.heap.size, 3, none⟩ = false := HX0.out.frozen 3
  have x4 : w1.cell? ⟨w.heap.size, 4, none⟩ = some (.int .i64 (b : Int)) := HX0.out.cell 4
  have xf4 : w1.frozen? ⟨w.heap.size, 4, none⟩ = false := HX0.out.frozen 4
  have x5 : w1.cell? ⟨w.heap.size, 5, none⟩ = some (.bool m) := HX0.out.cell 5
  have xf5 : w1.frozen? ⟨w.heap.size, 5, none⟩ = false := HX0.out.frozen 5
  have x6 : w1.cell? ⟨w.heap.size, 6, none⟩ = some (.int .i64 (k : Int)) := HX0.out.cell 6
  have xf6 : w1.frozen? ⟨w.heap.size, 6, none⟩ = false := HX0.out.frozen 6
  have z0 : w1.cell? ⟨w.heap.size + 1, 0, none⟩ = some (.int .i64 0) := HZ0.out.cell 0
  have zf0 : w1.frozen? ⟨w.heap.size + 1, 0, none⟩ = false := HZ0.out.frozen 0
  have z1 : w1.cell? ⟨w.heap.size + 1, 1, none⟩ = some (.bool false) := HZ0.out.cell 1
  have zf1 : w1.frozen? ⟨w.heap.size + 1, 1, none⟩ = false := HZ0.out.frozen 1
  have z2 : w1.cell? ⟨w.heap.size + 1, 2, none⟩ = some (.string ⟨#[]⟩) := HZ0.out.cell 2
  have zf2 : w1.frozen? ⟨w.heap.size + 1, 2, none⟩ = false := HZ0.out.frozen 2
  have z3 : w1.cell? ⟨w.heap.size + 1, 3, none⟩ = some (.int .i64 0) := HZ0.out.cell 3
  have zf3 : w1.frozen? ⟨w.heap.size + 1, 3, none⟩ = false := HZ0.out.frozen 3
  have z4 : w1.cell? ⟨w.heap.size + 1, 4, none⟩ = some (.int .i64 0) := HZ0.out.cell 4
  have zf4 : w1.frozen? ⟨w.heap.size + 1, 4, none⟩ = false := HZ0.out.frozen 4
  have z5 : w1.cell? ⟨w.heap.size + 1, 5, none⟩ = some (.bool false) := HZ0.out.cell 5
  have zf5 : w1.frozen? ⟨w.heap.size + 1, 5, none⟩ = false := HZ0.out.frozen 5
  have z6 : w1.cell? ⟨w.heap.size + 1, 6, none⟩ = some (.int .i64 0) := HZ0.out.cell 6
  have zf6 : w1.frozen? ⟨w.heap.size + 1, 6, none⟩ = false := HZ0.out.frozen 6
  have hl1 : w.heap.size + 1 < w1.heap.size := HZ0.out.lt
  have hl0 : w.heap.size < w1.heap.size := HX0.out.lt
  go_wp2
  refine bodyPost_ret (results_one Tryd.results19 _ _ (w.heap.size + 1) _ _ _ rfl (((((((((HZ0.out.far (by simp) _).far (by simp) _).set' 0 (.int .i64 7) rfl).set' 1 (.bool n) rfl).set' 2 (.string s) rfl).set' 3 (.int .i64 (z : Int)) rfl).set' 4 (.int .i64 (b : Int)) rfl).set' 5 (.bool cb) rfl).set' 6 (.int .i64 (k : Int)) rfl) Tryd.underlying44 rfl (by kernel_rfl)) rfl ?_
  exact ⟨rfl, (((((((((HB0.out.setCell (by simp) _).setCell (by simp) _).setCell (by simp) _).setCell (by simp) _).setCell (by simp) _).setCell (by simp) _).setCell (by simp) _).setCell (by simp) _).setCell (by simp) _)⟩
set_option maxHeartbeats 4000000 in
theorem with_8 (r : Rg) (c : UInt8) (w : World) (hd : isD c = true) (hw : r.w ≤ 1000000000) : Calls Tryd.prog 19 #[rgV r, .int .u8 (c.toNat : Int), .int .i64 8] w fun e w' => e = .returned (rgV (withR r c 8)) ∧ Below w.heap.size w w' := by
  obtain ⟨p, n, d, z, b, m, k⟩ := r
  unfold rgV
  dsimp only at *
  have hww : withR ⟨p, n, d, z, b, m, k⟩ c 8 = ⟨8, n, d, z, b, m, min (10 * k + dv c) 1000000000⟩ := rfl
  rw [hww]
  clear hww
  dsimp only
  obtain ⟨hd1, hd2⟩ := isD_lo.1 hd
  clear hd
  have hmm : (((1000000000 : Int) < (k : Int) * 10 + ((c.toNat : Int) - 48)) ∧ ((min (10 * k + dv c) 1000000000 : Nat) : Int) = 1000000000) ∨ (¬ ((1000000000 : Int) < (k : Int) * 10 + ((c.toNat : Int) - 48)) ∧ ((min (10 * k + dv c) 1000000000 : Nat) : Int) = (k : Int) * 10 + ((c.toNat : Int) - 48)) := by unfold dv; omega
  generalize ((min (10 * k + dv c) 1000000000 : Nat) : Int) = mk at *
  generalize hx : (c.toNat : Int) = x at *
  have hx0 : 48 ≤ x := by omega
  have hx1 : x ≤ 57 := by omega
  clear hx hd1 hd2
  have hu8 : IntKind.u8.wrap (x - 48) = x - 48 := IntWalk.u8_in _ (by omega)
  have hw1 : IntKind.i64.wrap ((k : Int) * 10) = (k : Int) * 10 := IntWalk.i64_in _ (by omega)
  have hw2 : IntKind.i64.wrap ((k : Int) * 10 + (x - 48)) = (k : Int) * 10 + (x - 48) := IntWalk.i64_in _ (by omega)
  generalize bs d = s at *
  have HX0 : Hid (RgBlk ((w.alloc (.cells #[.int .i64 (p : Int), .bool n, .string s, .int .i64 (z : Int), .int .i64 (b : Int), .bool m, .int .i64 (k : Int)] 44)).alloc (.cells #[.int .i64 0, .bool false, .string ⟨#[]⟩, .int .i64 0, .int .i64 0, .bool false, .int .i64 0] 44)) w.heap.size p n s z b m k) := Lib.hid ((Blk.new w 44 _).alloc _)
  have HZ0 : Hid (Blk ((w.alloc (.cells #[.int .i64 (p : Int), .bool n, .string s, .int .i64 (z : Int), .int .i64 (b : Int), .bool m, .int .i64 (k : Int)] 44)).alloc (.cells #[.int .i64 0, .bool false, .string ⟨#[]⟩, .int .i64 0, .int .i64 0, .bool false, .int .i64 0] 44)) (w.heap.size + 1) 44 #[.int .i64 0, .bool false, .string ⟨#[]⟩, .int .i64 0, .int .i64 0, .bool false, .int .i64 0]) := Lib.hid (by have h := Blk.new (w.alloc (.cells #[.int .i64 (p : Int), .bool n, .string s, .int .i64 (z : Int), .int .i64 (b : Int), .bool m, .int .i64 (k : Int)] 44)) 44 #[.int .i64 0, .bool false, .string ⟨#[]⟩, .int .i64 0, .int .i64 0, .bool false, .int .i64 0]; rwa [World.size_alloc] at h)
  have HB0 : Hid (Below w.heap.size w ((w.alloc (.cells #[.int .i64 (p : Int), .bool n, .string s, .int .i64 (z : Int), .int .i64 (b : Int), .bool m, .int .i64 (k : Int)] 44)).alloc (.cells #[.int .i64 0, .bool false, .string ⟨#[]⟩, .int .i64 0, .int .i64 0, .bool false, .int .i64 0] 44))) := Lib.hid (((Below.refl _ _).alloc (Nat.le_refl _) _).alloc (by rw [World.size_alloc]; omega) _)
  go_enter Tryd.func19, Tryd.ntmps19
  go_upto_region 1 with fail
  generalize (w.alloc (.cells #[.int .i64 (p : Int), .bool n, .string s, .int .i64 (z : Int), .int .i64 (b : Int), .bool m, .int .i64 (k : Int)] 44)).alloc (.cells #[.int .i64 0, .bool false, .string ⟨#[]⟩, .int .i64 0, .int .i64 0, .bool false, .int .i64 0] 44) = w1 at *
  have x0 : w1.cell? ⟨w.heap.size, 0, none⟩ = some (.int .i64 (p : Int)) := HX0.out.cell 0
  have xf0 : w1.frozen? ⟨w.heap.size, 0, none⟩ = false := HX0.out.frozen 0
  have x1 : w1.cell? ⟨w.heap.size, 1, none⟩ = some (.bool n) := HX0.out.cell 1
  have xf1 : w1.frozen? ⟨w.heap.size, 1, none⟩ = false := HX0.out.frozen 1
  have x2 : w1.cell? ⟨w.heap.size, 2, none⟩ = some (.string s) := HX0.out.cell 2
  have xf2 : w1.frozen? ⟨w.heap.size, 2, none⟩ = false := HX0.out.frozen 2
  have x3 : w1.cell? ⟨w.heap.size, 3, none⟩ = some (.int .i64 (z : Int)) := HX0.out.cell 3
  have xf3 : w1.frozen? ⟨w.heap.size, 3, none⟩ = false := HX0.out.frozen 3
  have x4 : w1.cell? ⟨w.heap.size, 4, none⟩ = some (.int .i64 (b : Int)) := HX0.out.cell 4
  have xf4 : w1.frozen? ⟨w.heap.size, 4, none⟩ = false := HX0.out.frozen 4
  have x5 : w1.cell? ⟨w.heap.size, 5, none⟩ = some (.bool m) := HX0.out.cell 5
  have xf5 : w1.frozen? ⟨w.heap.size, 5, none⟩ = false := HX0.out.frozen 5
  have x6 : w1.cell? ⟨w.heap.size, 6, none⟩ = some (.int .i64 (k : Int)) := HX0.out.cell 6
  have xf6 : w1.frozen? ⟨w.heap.size, 6, none⟩ = false := HX0.out.frozen 6
  have z0 : w1.cell? ⟨w.heap.size + 1, 0, none⟩ = some (.int .i64 0) := HZ0.out.cell 0
  have zf0 : w1.frozen? ⟨w.heap.size + 1, 0, none⟩ = false := HZ0.out.frozen 0
  have z1 : w1.cell? ⟨w.heap.size + 1, 1, none⟩ = some (.bool false) := HZ0.out.cell 1
  have zf1 : w1.frozen? ⟨w.heap.size + 1, 1, none⟩ = false := HZ0.out.frozen 1
  have z2 : w1.cell? ⟨w.heap.size + 1, 2, none⟩ = some (.string ⟨#[]⟩) := HZ0.out.cell 2
  have zf2 : w1.frozen? ⟨w.heap.size + 1, 2, none⟩ = false := HZ0.out.frozen 2
  have z3 : w1.cell? ⟨w.heap.size + 1, 3, none⟩ = some (.int .i64 0) := HZ0.out.cell 3
  have zf3 : w1.frozen? ⟨w.heap.size + 1, 3, none⟩ = false := HZ0.out.frozen 3
  have z4 : w1.cell? ⟨w.heap.size + 1, 4, none⟩ = some (.int .i64 0) := HZ0.out.cell 4
  have zf4 : w1.frozen? ⟨w.heap.size + 1, 4, none⟩ = false := HZ0.out.frozen 4
  have z5 : w1.cell? ⟨w.heap.size + 1, 5, none⟩ = some (.bool false) := HZ0.out.cell 5
  have zf5 : w1.frozen? ⟨w.heap.size + 1, 5, none⟩ = false := HZ0.out.frozen 5
  have z6 : w1.cell? ⟨w.heap.size + 1, 6, none⟩ = some (.int .i64 0) := HZ0.out.cell 6
  have zf6 : w1.frozen? ⟨w.heap.size + 1, 6, none⟩ = false := HZ0.out.frozen 6
  have hl1 : w.heap.size + 1 < w1.heap.size := HZ0.out.lt
  have hl0 : w.heap.size < w1.heap.size := HX0.out.lt
  rcases hmm with ⟨hbig, hmk⟩ | ⟨hbig, hmk⟩
  all_goals subst hmk
  all_goals
    go_wp2
    refine bodyPost_ret (results_one Tryd.results19 _ _ (w.heap.size + 1) _ _ _ rfl (((((((((HZ0.out.far (by simp) _).far (by simp) _).set' 0 (.int .i64 8) rfl).set' 1 (.bool n) rfl).set' 2 (.string s) rfl).set' 3 (.int .i64 (z : Int)) rfl).set' 4 (.int .i64 (b : Int)) rfl).set' 5 (.bool m) rfl).set' 6 (_) rfl) Tryd.underlying44 rfl (by kernel_rfl)) rfl ?_
    exact ⟨rfl, (((((((((HB0.out.setCell (by simp) _).setCell (by simp) _).setCell (by simp) _).setCell (by simp) _).setCell (by simp) _).setCell (by simp) _).setCell (by simp) _).setCell (by simp) _).setCell (by simp) _)⟩
theorem with_any (r : Rg) (c : UInt8) (q : Nat) (w : World) (h1 : 1 ≤ q) (h2 : q ≤ 8) (hd : q = 3 ∨ q = 5 ∨ q = 8 → isD c = true) (hs : r.d.length ≤ 1000000) (hz : r.z ≤ 1000000) (hb : r.b ≤ 1000000) (hw : r.w ≤ 1000000000) :
    Calls Tryd.prog 19 #[rgV r, .int .u8 (c.toNat : Int), .int .i64 (q : Int)] w fun e w' => e = .returned (rgV (withR r c q)) ∧ Below w.heap.size w w' := by
  have h : q = 1 ∨ q = 2 ∨ q = 3 ∨ q = 4 ∨ q = 5 ∨ q = 6 ∨ q = 7 ∨ q = 8 := by omega
  rcases h with rfl | rfl | rfl | rfl | rfl | rfl | rfl | rfl
  · exact with_1 r c w
  · exact with_2 r c w
  · exact with_3 r c w (hd (.inl rfl)) hs hz hb
  · exact with_4 r c w
  · exact with_5 r c w (hd (.inr (.inl rfl))) hs hz hb
  · exact with_6 r c w
  · exact with_7 r c w
  · exact with_8 r c w (hd (.inr (.inr rfl))) hw
end Go.Proofs.YtiibfejgiilakaaDoor
