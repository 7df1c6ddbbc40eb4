/- Contract of utf8.begin. -/
import Derived.Test.YtbmeinicjfmjlaaDoorU8Tab
namespace Go.Proofs.YtbmeinicjfmjlaaDoor
open Go.ChangeShapes Go.WideShapes Go.ChangeAt Go.RowKit
set_option linter.unusedVariables false

def lead1 (x : Int) : Bool := decide (lng x ≠ 0)
def NoRow (x : Int) (k : Nat) : Prop := ∀ j, j < k → ¬ (ldF j ≤ x ∧ x ≤ ldL j)
theorem lng_some (x : Int) (h : x ≤ 127 ∨ 194 ≤ x ∧ x ≤ 244) : lng x ≠ 0 := by unfold lng; ((repeat' split) <;> omega)
theorem lng_none (x : Int) (h : ¬ (x ≤ 127 ∨ 194 ≤ x ∧ x ≤ 244)) : lng x = 0 := by unfold lng; ((repeat' split) <;> omega)
set_option maxHeartbeats 2000000 in
theorem row_hit (x : Int) (k : Nat) (h0 : 0 ≤ x) (h1 : x ≤ 255) (hk : k < 9) (a : ldF k ≤ x) (b : x ≤ ldL k) : lng x ≠ 0 ∧ rowOf x = k ∧ ldM k = mkT x ∧ 0 ≤ x - mkT x := by
  have hm : rowOf x = k → mkT x = ldM k → 0 ≤ x - ldM k → lng x ≠ 0 → lng x ≠ 0 ∧ rowOf x = k ∧ ldM k = mkT x ∧ 0 ≤ x - mkT x := fun p q r t => ⟨t, p, q.symm, by omega⟩
  match k, hk with
  | 0, _ => exact hm (by unfold rowOf; have a' : (0 : Int) ≤ x := a; have b' : x ≤ 127 := b; ((repeat' split) <;> omega)) (by have a' : (0 : Int) ≤ x := a; have b' : x ≤ 127 := b; show mkT x = 0; unfold mkT; ((repeat' split) <;> omega)) (by have a' : (0 : Int) ≤ x := a; show 0 ≤ x - 0; omega) (lng_some x (by have a' : (0 : Int) ≤ x := a; have b' : x ≤ 127 := b; omega))
  | 1, _ => exact hm (by unfold rowOf; have a' : (194 : Int) ≤ x := a; have b' : x ≤ 223 := b; ((repeat' split) <;> omega)) (by have a' : (194 : Int) ≤ x := a; have b' : x ≤ 223 := b; show mkT x = 192; unfold mkT; ((repeat' split) <;> omega)) (by have a' : (194 : Int) ≤ x := a; show 0 ≤ x - 192; omega) (lng_some x (by have a' : (194 : Int) ≤ x := a; have b' : x ≤ 223 := b; omega))
  | 2, _ => exact hm (by unfold rowOf; have a' : (224 : Int) ≤ x := a; have b' : x ≤ 224 := b; ((repeat' split) <;> omega)) (by have a' : (224 : Int) ≤ x := a; have b' : x ≤ 224 := b; show mkT x = 224; unfold mkT; ((repeat' split) <;> omega)) (by have a' : (224 : Int) ≤ x := a; show 0 ≤ x - 224; omega) (lng_some x (by have a' : (224 : Int) ≤ x := a; have b' : x ≤ 224 := b; omega))
  | 3, _ => exact hm (by unfold rowOf; have a' : (225 : Int) ≤ x := a; have b' : x ≤ 236 := b; ((repeat' split) <;> omega)) (by have a' : (225 : Int) ≤ x := a; have b' : x ≤ 236 := b; show mkT x = 224; unfold mkT; ((repeat' split) <;> omega)) (by have a' : (225 : Int) ≤ x := a; show 0 ≤ x - 224; omega) (lng_some x (by have a' : (225 : Int) ≤ x := a; have b' : x ≤ 236 := b; omega))
  | 4, _ => exact hm (by unfold rowOf; have a' : (237 : Int) ≤ x := a; have b' : x ≤ 237 := b; ((repeat' split) <;> omega)) (by have a' : (237 : Int) ≤ x := a; have b' : x ≤ 237 := b; show mkT x = 224; unfold mkT; ((repeat' split) <;> omega)) (by have a' : (237 : Int) ≤ x := a; show 0 ≤ x - 224; omega) (lng_some x (by have a' : (237 : Int) ≤ x := a; have b' : x ≤ 237 := b; omega))
  | 5, _ => exact hm (by unfold rowOf; have a' : (238 : Int) ≤ x := a; have b' : x ≤ 239 := b; ((repeat' split) <;> omega)) (by have a' : (238 : Int) ≤ x := a; have b' : x ≤ 239 := b; show mkT x = 224; unfold mkT; ((repeat' split) <;> omega)) (by have a' : (238 : Int) ≤ x := a; show 0 ≤ x - 224; omega) (lng_some x (by have a' : (238 : Int) ≤ x := a; have b' : x ≤ 239 := b; omega))
  | 6, _ => exact hm (by unfold rowOf; have a' : (240 : Int) ≤ x := a; have b' : x ≤ 240 := b; ((repeat' split) <;> omega)) (by have a' : (240 : Int) ≤ x := a; have b' : x ≤ 240 := b; show mkT x = 240; unfold mkT; ((repeat' split) <;> omega)) (by have a' : (240 : Int) ≤ x := a; show 0 ≤ x - 240; omega) (lng_some x (by have a' : (240 : Int) ≤ x := a; have b' : x ≤ 240 := b; omega))
  | 7, _ => exact hm (by unfold rowOf; have a' : (241 : Int) ≤ x := a; have b' : x ≤ 243 := b; ((repeat' split) <;> omega)) (by have a' : (241 : Int) ≤ x := a; have b' : x ≤ 243 := b; show mkT x = 240; unfold mkT; ((repeat' split) <;> omega)) (by have a' : (241 : Int) ≤ x := a; show 0 ≤ x - 240; omega) (lng_some x (by have a' : (241 : Int) ≤ x := a; have b' : x ≤ 243 := b; omega))
  | 8, _ => exact hm (by unfold rowOf; have a' : (244 : Int) ≤ x := a; have b' : x ≤ 244 := b; ((repeat' split) <;> omega)) (by have a' : (244 : Int) ≤ x := a; have b' : x ≤ 244 := b; show mkT x = 240; unfold mkT; ((repeat' split) <;> omega)) (by have a' : (244 : Int) ≤ x := a; show 0 ≤ x - 240; omega) (lng_some x (by have a' : (244 : Int) ≤ x := a; have b' : x ≤ 244 := b; omega))
theorem row_none (x : Int) (h0 : 0 ≤ x) (h1 : x ≤ 255) (h : NoRow x 9) : lng x = 0 := by
  have k0 : ¬ ((0 : Int) ≤ x ∧ x ≤ 127) := h 0 (by omega)
  have k1 : ¬ ((194 : Int) ≤ x ∧ x ≤ 223) := h 1 (by omega)
  have k2 : ¬ ((224 : Int) ≤ x ∧ x ≤ 224) := h 2 (by omega)
  have k3 : ¬ ((225 : Int) ≤ x ∧ x ≤ 236) := h 3 (by omega)
  have k4 : ¬ ((237 : Int) ≤ x ∧ x ≤ 237) := h 4 (by omega)
  have k5 : ¬ ((238 : Int) ≤ x ∧ x ≤ 239) := h 5 (by omega)
  have k6 : ¬ ((240 : Int) ≤ x ∧ x ≤ 240) := h 6 (by omega)
  have k7 : ¬ ((241 : Int) ≤ x ∧ x ≤ 243) := h 7 (by omega)
  have k8 : ¬ ((244 : Int) ≤ x ∧ x ≤ 244) := h 8 (by omega)
  exact lng_none x (by omega)
theorem ld_bd (k : Nat) (hk : k < 9) : (0 ≤ ldF k ∧ ldF k ≤ 255) ∧ (0 ≤ ldL k ∧ ldL k ≤ 255) ∧ (0 ≤ ldM k ∧ ldM k ≤ 255) := by
  match k, hk with
  | 0, _ => decide
  | 1, _ => decide
  | 2, _ => decide
  | 3, _ => decide
  | 4, _ => decide
  | 5, _ => decide
  | 6, _ => decide
  | 7, _ => decide
  | 8, _ => decide
def bgL (x : Int) : Int := if lng x = 0 then 0 else 1
def bgR (x : Int) : Int := if lng x = 0 then 0 else rowOf x
def bgB (x : Int) : Int := if lng x = 0 then 0 else x - mkT x

set_option maxHeartbeats 1000000 in
theorem begin_any (x : Int) (w : World) (h0 : 0 ≤ x) (h1 : x ≤ 255) (hT : Tab w) :
    Calls Tryd.prog 35 #[.int .u8 x] w fun e w' => e = .returned (.tuple #[.agg #[.int .i64 (bgL x), .int .i64 (bgR x), .int .i32 (bgB x)], .bool (lead1 x)]) ∧ Below w.heap.size w w' := by
  have hT' := hT
  obtain ⟨tt, fr, hg⟩ := hT'
  have HG := Lib.hid hg
  clear hg
  go_enter Tryd.func35, Tryd.ntmps35
  go_wp2_with (refine wpList_load_row rfl 58 _ rfl 0 rfl tt leadsArr fr _ (by rw [Below.heap_alloc _ _ _ hT.lt]; exact HG.out) Tryd.underlying58 rfl (by kernel_rfl) ?_)
  generalize hW0 : w.alloc (Obj.cells #[Value.int IntKind.i64 0, Value.int IntKind.i64 0, Value.int IntKind.i32 0] 53) = W0
  have b0 : Below w.heap.size w W0 := by rw [← hW0]; exact (Below.refl _ _).alloc (Nat.le_refl _) _
  have k0 : Blk W0 w.heap.size 53 #[Value.int IntKind.i64 0, Value.int IntKind.i64 0, Value.int IntKind.i32 0] := by rw [← hW0]; exact Blk.new w _ _
  have z0 : w.heap.size < W0.heap.size := by rw [← hW0]; simp
  clear hW0
  go_loopw [7] (fun i w1 => ∃ k : Nat, k ≤ 9 ∧ i = .int .i64 k ∧ Below W0.heap.size W0 w1 ∧ NoRow x k) (fun i _ => 9 - (intOf i).toNat)
  case atStart => exact ⟨0, by omega, rfl, Below.refl _ _, fun j hj => by omega⟩
  case round =>
    obtain ⟨k, hk, rfl, hb, hn⟩ := hrel
    by_cases hlt : k < 9
    · have hi := index_lead k hlt
      have hbd := ld_bd k hlt
      have kr := k0.below hb z0
      have KR := Lib.hid kr
      have c0 : wr.cell? ⟨w.heap.size, 0, none⟩ = some (.int .i64 0) := kr.cell 0
      have c1 : wr.cell? ⟨w.heap.size, 1, none⟩ = some (.int .i64 0) := kr.cell 1
      have c2 : wr.cell? ⟨w.heap.size, 2, none⟩ = some (.int .i32 0) := kr.cell 2
      have f0 : wr.frozen? ⟨w.heap.size, 0, none⟩ = false := kr.frozen 0
      have f1 : wr.frozen? ⟨w.heap.size, 1, none⟩ = false := kr.frozen 1
      have f2 : wr.frozen? ⟨w.heap.size, 2, none⟩ = false := kr.frozen 2
      have hz : w.heap.size < wr.heap.size := by have := hb.size; omega
      have hlt' : (k : Int) < 9 := by omega
      clear kr
      by_cases ha : ldF k ≤ x
      · by_cases hc : x ≤ ldL k
        · obtain ⟨r1, r2, r3, r4⟩ := row_hit x k h0 h1 hlt ha hc
          have r5 : ldM k ≤ x := by omega
          have HP : Hid (bgL x = 1 ∧ bgR x = k ∧ bgB x = x - ldM k ∧ lead1 x = true) := ⟨by simp [bgL, r1], by simp [bgR, r1, r2], by simp [bgB, r1, r3], by simp [lead1, r1]⟩
          have HB := Lib.hid hb
          clear r1 r2 r3 r4 hb
          go_wp2
          refine bodyPost_ret (results_blk Tryd.results35 _ _ _ _ _ _ rfl ((((KR.out.set 0 _).set 1 _).set 2 _).alloc _) Tryd.underlying53 rfl (by kernel_rfl)) rfl ?_
          obtain ⟨p1, p2, p3, p4⟩ := HP.out
          refine ⟨by rw [p1, p2, p3, p4]; rfl, ?_⟩
          have hbb := b0.trans (HB.out.mono (Nat.le_of_lt z0))
          exact (((hbb.setCell (p := ⟨w.heap.size, 0, none⟩) (Nat.le_refl _) _).setCell (p := ⟨w.heap.size, 1, none⟩) (Nat.le_refl _) _).setCell (p := ⟨w.heap.size, 2, none⟩) (Nat.le_refl _) _).alloc (by simp [World.setCell]; omega) _
        · have hc' : ldL k < x := by omega
          go_wp2
          go_roundw
          case rel => exact ⟨k + 1, by omega, by go_num, hb.alloc hb.size _, fun j hj hh => by
            rcases Nat.lt_or_ge j k with h | h
            · exact hn j h hh
            · have : j = k := by omega
              subst this; exact hc hh.2⟩
          case measure => simp [intOf]; omega
      · have ha' : decide (ldF k ≤ x) = false := decide_eq_false ha
        go_wp2
        go_roundw
        case rel => exact ⟨k + 1, by omega, by go_num, hb.alloc hb.size _, fun j hj hh => by
            rcases Nat.lt_or_ge j k with h | h
            · exact hn j h hh
            · have : j = k := by omega
              subst this; exact ha hh.1⟩
        case measure => simp [intOf]; omega
    · have kr := k0.below hb z0
      have KR := Lib.hid kr
      have c0 : wr.cell? ⟨w.heap.size, 0, none⟩ = some (.int .i64 0) := kr.cell 0
      have c1 : wr.cell? ⟨w.heap.size, 1, none⟩ = some (.int .i64 0) := kr.cell 1
      have c2 : wr.cell? ⟨w.heap.size, 2, none⟩ = some (.int .i32 0) := kr.cell 2
      have f0 : wr.frozen? ⟨w.heap.size, 0, none⟩ = false := kr.frozen 0
      have f1 : wr.frozen? ⟨w.heap.size, 1, none⟩ = false := kr.frozen 1
      have f2 : wr.frozen? ⟨w.heap.size, 2, none⟩ = false := kr.frozen 2
      have hz : w.heap.size < wr.heap.size := by have := hb.size; omega
      have hk9 : k = 9 := by omega
      subst hk9
      have r1 := row_none x h0 h1 hn
      have HP : Hid (bgL x = 0 ∧ bgR x = 0 ∧ bgB x = 0 ∧ lead1 x = false) := ⟨by simp [bgL, r1], by simp [bgR, r1], by simp [bgB, r1], by simp [lead1, r1]⟩
      clear r1
      go_wp2
      refine bodyPost_ret (results_blk Tryd.results35 _ _ _ _ _ _ rfl (((KR.out.set 0 _).set 1 _).set 2 _) Tryd.underlying53 rfl (by kernel_rfl)) rfl ?_
      obtain ⟨p1, p2, p3, p4⟩ := HP.out
      refine ⟨by rw [p1, p2, p3, p4]; rfl, ?_⟩
      have hbb := b0.trans (hb.mono (Nat.le_of_lt z0))
      exact ((hbb.setCell (p := ⟨w.heap.size, 0, none⟩) (Nat.le_refl _) _).setCell (p := ⟨w.heap.size, 1, none⟩) (Nat.le_refl _) _).setCell (p := ⟨w.heap.size, 2, none⟩) (Nat.le_refl _) _
end Go.Proofs.YtbmeinicjfmjlaaDoor
