/- The program's takeDigit by its contract. -/
import Derived.Test.YtiibfejgiilakaaDoorP11Rep
import Derived.StillTailTactics
import Derived.Laws.Runes
namespace Go.Proofs.YtiibfejgiilakaaDoor
set_option maxRecDepth 100000
open Go.ChangeShapes Go.WideShapes Go.ChangeAt Go.RowKit
set_option linter.unusedVariables false
set_option linter.unusedSimpArgs false

/-- a reading as it lies in a block of its own -/
abbrev RgBlk (w : World) (g : Nat) (p : Nat) (n : Bool) (s : ByteArray) (z b : Nat) (m : Bool) (k : Nat) : Prop := Blk w g 44 #[.int .i64 (p : Int), .bool n, .string s, .int .i64 (z : Int), .int .i64 (b : Int), .bool m, .int .i64 (k : Int)]
theorem enc48 : Utf8.encode 48 = bs [48] := by kernel_rfl
theorem enc49 : Utf8.encode 49 = bs [49] := by kernel_rfl
theorem enc50 : Utf8.encode 50 = bs [50] := by kernel_rfl
theorem enc51 : Utf8.encode 51 = bs [51] := by kernel_rfl
theorem enc52 : Utf8.encode 52 = bs [52] := by kernel_rfl
theorem enc53 : Utf8.encode 53 = bs [53] := by kernel_rfl
theorem enc54 : Utf8.encode 54 = bs [54] := by kernel_rfl
theorem enc55 : Utf8.encode 55 = bs [55] := by kernel_rfl
theorem enc56 : Utf8.encode 56 = bs [56] := by kernel_rfl
theorem enc57 : Utf8.encode 57 = bs [57] := by kernel_rfl
theorem enc_dig {c : UInt8} (h : isD c = true) : Utf8.encode (c.toNat : Int) = bs [c] := by
  have h1 := isD_lo.1 h
  have h2 : c.toNat = 48 ∨ c.toNat = 49 ∨ c.toNat = 50 ∨ c.toNat = 51 ∨ c.toNat = 52 ∨ c.toNat = 53 ∨ c.toNat = 54 ∨ c.toNat = 55 ∨ c.toNat = 56 ∨ c.toNat = 57 := by omega
  have h3 : c = UInt8.ofNat c.toNat := by simp
  rcases h2 with e | e | e | e | e | e | e | e | e | e
  · rw [e] at h3 ⊢; rw [h3]; exact enc48
  · rw [e] at h3 ⊢; rw [h3]; exact enc49
  · rw [e] at h3 ⊢; rw [h3]; exact enc50
  · rw [e] at h3 ⊢; rw [h3]; exact enc51
  · rw [e] at h3 ⊢; rw [h3]; exact enc52
  · rw [e] at h3 ⊢; rw [h3]; exact enc53
  · rw [e] at h3 ⊢; rw [h3]; exact enc54
  · rw [e] at h3 ⊢; rw [h3]; exact enc55
  · rw [e] at h3 ⊢; rw [h3]; exact enc56
  · rw [e] at h3 ⊢; rw [h3]; exact enc57
theorem But.drew {g : Nat} {a b : World} (h : But g a b) : But g a b.drew := ⟨h.os, h.tape, h.output, h.size, h.block⟩
set_option maxHeartbeats 4000000 in
/-- another digit than 0 -/
theorem takeDigit_one (g : Nat) (c : UInt8) (p : Nat) (n : Bool) (s : ByteArray) (z b : Nat) (m : Bool) (k : Nat) (w : World) (hd : isD c = true) (hc : c ≠ 48) (hs : s.size ≤ 1000000) (hz : z ≤ 1000000) (hg : RgBlk w g p n s z b m k) :
    Calls Tryd.prog 36 #[.pointer (some ⟨g, 0, none⟩), .int .u8 (c.toNat : Int)] w fun e w' => e = .returned (.tuple #[]) ∧ RgBlk w' g p n (s ++ (zerosS (min z 16) ++ bs [c])) 0 b m k ∧ But g w w' := by
  have hq : ((16 : Int) < (z : Int) ∧ min z 16 = 16) ∨ (¬ (16 : Int) < (z : Int) ∧ z = min z 16) := by omega
  have hq2 : min z 16 ≤ 16 := by omega
  generalize min z 16 = q at *
  have henc := enc_dig hd
  have hb := isD_lo.1 hd
  have hcb := ne_ask hc 48 rfl
  have hzs := zerosS_size q
  have hxs : (bs [c]).size = 1 := rfl
  have HG := Lib.hid hg
  have hgl := hg.lt
  have c2 : w.cell? ⟨g, 2, none⟩ = some (.string s) := hg.cell 2
  have c3 : w.cell? ⟨g, 3, none⟩ = some (.int .i64 (z : Int)) := hg.cell 3
  clear hg hd hc
  generalize bs [c] = cs at *
  generalize hzz : zerosS q = zs at *
  have hzs' : zs.size ≤ 16 := by omega
  clear hzs
  have hsum : ¬ zs.size + cs.size > 9223372036854775807 := by omega
  obtain ⟨Y, hY⟩ : ∃ Y, zs ++ cs = Y := ⟨_, rfl⟩
  have hYs : Y.size ≤ 17 := by rw [← hY, ByteArray.size_append]; omega
  have hsum2 : ¬ s.size + Y.size > 9223372036854775807 := by omega
  clear hxs
  generalize hx : (c.toNat : Int) = x at *
  have hx0 : 48 ≤ x := by omega
  have hx1 : x ≤ 57 := by omega
  clear hx hb
  have HR : Hid (∀ W, Calls Tryd.prog 44 #[.string ⟨#[48]⟩, .int .i64 (q : Int)] W fun e w' => e = .returned (.string zs) ∧ W = w') := Lib.hid (fun W => by rw [← hzz]; exact repeat_any q hq2 W)
  clear hzz
  have hwx : IntKind.i32.wrap x = x := IntWalk.i32_in _ (by omega)
  rcases hq with ⟨h16, hq⟩ | ⟨h16, hq⟩
  all_goals subst hq
  all_goals
    go_enter Tryd.func36, Tryd.ntmps36
    go_wp2_with fail
    refine wp_region_still_tail 17 (by kernel_rfl) (by kernel_rfl) ?_
    simp only [List.take_succ_cons, List.take_zero, List.drop_succ_cons, List.drop_zero]
    generalize hW1 : ({ w with drawn := w.drawn + 1 } : World) = W1
    have HG1 : Hid (RgBlk W1 g p n s z b m k) := Lib.hid (by rw [← hW1]; exact HG.out.drew)
    have HB1 : Hid (But g w W1) := Lib.hid (by rw [← hW1]; exact But.drew (But.refl g w))
    clear hW1 c2 c3 hgl
    have c2 : W1.cell? ⟨g, 2, none⟩ = some (.string s) := HG1.out.cell 2
    have c3 : W1.cell? ⟨g, 3, none⟩ = some (.int .i64 (z : Int)) := HG1.out.cell 3
    have f2 : W1.frozen? ⟨g, 2, none⟩ = false := HG1.out.frozen 2
    have f3 : W1.frozen? ⟨g, 3, none⟩ = false := HG1.out.frozen 3
    have hgl := HG1.out.lt
    repeat still_step
    refine wpStill_step (fun K hK => ?_)
    go_simp
    try rw [if_neg (Int.not_lt.2 h16)]
    with_reducible refine ⟨_, (HR.out W1).mono (fun e w2 h => ⟨h.1, h.2.symm⟩), hK _ ?_⟩
    clear hK K
    repeat still_step
    refine wpStill_nil ?_
    go_wp2
    go_end0
    trace_state
    rw [hY]
    exact ⟨rfl, (HG1.out.set' 2 _ rfl).set' 3 _ rfl, (HB1.out.set 2 _).set 3 _⟩
end Go.Proofs.YtiibfejgiilakaaDoor
