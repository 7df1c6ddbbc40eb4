/- Contracts of utf8.Reader's methods. -/
import Derived.Test.YtbmeinicjfmjlaaDoorU8Begin
import Derived.StillTailTactics
import Derived.Deep.QuietTactic
import Derived.BigQuiet
namespace Go.Proofs.YtbmeinicjfmjlaaDoor
open Go.ChangeShapes Go.WideShapes Go.ChangeAt Go.RowKit
set_option linter.unusedVariables false

theorem or_tail (b x : Int) (b0 : 0 ≤ b) (b1 : b < 32768) (h0 : 128 ≤ x) (h1 : x ≤ 191) : bits .or .i32 (b * 64) (wrap32 (x % 64)) = b * 64 + (x - 128) := by
  have e : wrap32 (x % 64) = x - 128 := by rw [IntWalk.wrap32_in _ (by omega)]; omega
  rw [e]; clear e
  have e1 : 0 ≤ x - 128 := by omega
  have e2 : x - 128 < 64 := by omega
  generalize x - 128 = y at *
  exact i32_or6 _ _ (by omega) (by omega) (by omega) e1 e2
theorem left_any (g : Nat) (l r b : Int) (w : World) (hk : Blk w g 53 #[.int .i64 l, .int .i64 r, .int .i32 b]) :
    Calls Tryd.prog 23 #[.pointer (some ⟨g, 0, none⟩)] w fun e w' => e = .returned (.int .i64 l) ∧ w = w' := by
  have c0 : w.cell? ⟨g, 0, none⟩ = some (.int .i64 l) := hk.cell 0
  clear hk
  go_enter Tryd.func23, Tryd.ntmps23
  go_wp2
  go_ret
  exact ⟨rfl, rfl⟩

theorem new_any (w : World) :
    Calls Tryd.prog 20 #[] w fun e w' => e = .returned (.pointer (some ⟨w.heap.size, 0, none⟩)) ∧ w.alloc (.cells #[.int .i64 0, .int .i64 0, .int .i32 0] 53) = w' := by
  go_enter Tryd.func20, Tryd.ntmps20
  go_wp2
  go_ret
  exact ⟨rfl, rfl⟩

def folB (l : Int) (r : Nat) (x : Int) : Bool := if l = 1 then decide (ldLo r ≤ x ∧ x ≤ ldHi r) else decide (128 ≤ x ∧ x ≤ 191)
theorem follows_one (g : Nat) (r : Nat) (b x : Int) (w : World) (hr : r < 9) (hk : Blk w g 53 #[.int .i64 1, .int .i64 r, .int .i32 b]) (hT : Tab w) :
    Calls Tryd.prog 36 #[.pointer (some ⟨g, 0, none⟩), .int .u8 x] w fun e w' => e = .returned (.bool (folB 1 r x)) ∧ w = w' := by
  have c0 : w.cell? ⟨g, 0, none⟩ = some (.int .i64 1) := hk.cell 0
  have c1 : w.cell? ⟨g, 1, none⟩ = some (.int .i64 r) := hk.cell 1
  have t0 := hT.lo r hr
  have t1 := hT.hi r hr
  clear hk hT
  by_cases ha : ldLo r ≤ x
  · have e : folB 1 r x = decide (x ≤ ldHi r) := by simp [folB, ha]
    rw [e]; clear e
    go_enter Tryd.func36, Tryd.ntmps36
    go_wp2
    go_ret
    exact ⟨rfl, rfl⟩
  · have e : folB 1 r x = false := by simp [folB, ha]
    rw [e]; clear e
    have ha' : decide (ldLo r ≤ x) = false := decide_eq_false ha
    go_enter Tryd.func36, Tryd.ntmps36
    go_wp2
    go_ret
    exact ⟨rfl, rfl⟩
theorem follows_more (g : Nat) (l r : Int) (b x : Int) (w : World) (hl : l ≠ 1) (hk : Blk w g 53 #[.int .i64 l, .int .i64 r, .int .i32 b]) :
    Calls Tryd.prog 36 #[.pointer (some ⟨g, 0, none⟩), .int .u8 x] w fun e w' => e = .returned (.bool (tlB x)) ∧ w = w' := by
  have c0 : w.cell? ⟨g, 0, none⟩ = some (.int .i64 l) := hk.cell 0
  have hl' : (l == 1) = false := beq_eq_false_iff_ne.2 hl
  clear hk hl
  by_cases ha : 128 ≤ x
  · have e : tlB x = decide (x ≤ 191) := by simp [tlB, ha]
    rw [e]; clear e
    go_enter Tryd.func36, Tryd.ntmps36
    go_wp2
    go_ret
    exact ⟨rfl, rfl⟩
  · have e : tlB x = false := by simp [tlB, ha]
    rw [e]; clear e
    have ha' : decide (128 ≤ x) = false := decide_eq_false ha
    go_enter Tryd.func36, Tryd.ntmps36
    go_wp2
    go_ret
    exact ⟨rfl, rfl⟩

theorem with_zero (g : Nat) (x : Int) (w : World) (h0 : 0 ≤ x) (h1 : x ≤ 255) (hk : Blk w g 53 #[.int .i64 0, .int .i64 0, .int .i32 0]) (hT : Tab w) :
    Calls Tryd.prog 29 #[.pointer (some ⟨g, 0, none⟩), .int .u8 x] w fun e w' => e = .returned (.tuple #[.agg #[.int .i64 (bgL x), .int .i64 (bgR x), .int .i32 (bgB x)], .bool (lead1 x)]) ∧ Below w.heap.size w w' := by
  have c0 : w.cell? ⟨g, 0, none⟩ = some (.int .i64 0) := hk.cell 0
  have hgl := hk.lt
  clear hk
  go_enter Tryd.func29, Tryd.ntmps29
  go_wp2_with fail
  generalize hW0 : w.alloc (Obj.cells #[Value.int IntKind.i64 0, Value.int IntKind.i64 0, Value.int IntKind.i32 0] 53) = W0
  have b0 : Below w.heap.size w W0 := by rw [← hW0]; exact (Below.refl _ _).alloc (Nat.le_refl _) _
  have k0 : Blk W0 w.heap.size 53 #[Value.int IntKind.i64 0, Value.int IntKind.i64 0, Value.int IntKind.i32 0] := by rw [← hW0]; exact Blk.new w _ _
  have z0 : w.heap.size < W0.heap.size := by rw [← hW0]; simp
  clear hW0
  with_reducible refine (begin_any _ _ h0 h1 (hT.below' b0)).mono ?_
  rintro e w1 ⟨rfl, hb⟩
  have kr := k0.below hb z0
  have KR := Lib.hid kr
  have HB := Lib.hid hb
  have e0 : w1.cell? ⟨w.heap.size, 0, none⟩ = some (.int .i64 0) := kr.cell 0
  have e1 : w1.cell? ⟨w.heap.size, 1, none⟩ = some (.int .i64 0) := kr.cell 1
  have e2 : w1.cell? ⟨w.heap.size, 2, none⟩ = some (.int .i32 0) := kr.cell 2
  have f0 : w1.frozen? ⟨w.heap.size, 0, none⟩ = false := kr.frozen 0
  have f1 : w1.frozen? ⟨w.heap.size, 1, none⟩ = false := kr.frozen 1
  have f2 : w1.frozen? ⟨w.heap.size, 2, none⟩ = false := kr.frozen 2
  clear kr hb k0
  go_wp2
  refine bodyPost_ret (results_blk Tryd.results29 _ _ _ _ _ _ rfl (((KR.out.set 0 _).set 1 _).set 2 _) Tryd.underlying53 rfl (by kernel_rfl)) rfl ?_
  refine ⟨rfl, ?_⟩
  have hbb := b0.trans (HB.out.mono (Nat.le_of_lt z0))
  exact ((hbb.setCell (p := ⟨w.heap.size, 0, none⟩) (Nat.le_refl _) _).setCell (p := ⟨w.heap.size, 1, none⟩) (Nat.le_refl _) _).setCell (p := ⟨w.heap.size, 2, none⟩) (Nat.le_refl _) _

set_option maxHeartbeats 1000000 in
theorem with_yes (g : Nat) (l r b x : Int) (F : Bool) (w : World) (h0 : 128 ≤ x) (h1 : x ≤ 191) (l1 : 1 ≤ l) (l2 : l ≤ 3) (b0 : 0 ≤ b) (b1 : b < 32768) (hk : Blk w g 53 #[.int .i64 l, .int .i64 r, .int .i32 b])
    (hf : ∀ w', Blk w' g 53 #[.int .i64 l, .int .i64 r, .int .i32 b] → Below w.heap.size w w' → Calls Tryd.prog 36 #[.pointer (some ⟨g, 0, none⟩), .int .u8 x] w' fun e w'' => e = .returned (.bool true) ∧ w' = w'') :
    Calls Tryd.prog 29 #[.pointer (some ⟨g, 0, none⟩), .int .u8 x] w fun e w' => e = .returned (.tuple #[.agg #[.int .i64 (l + 1), .int .i64 r, .int .i32 (b * 64 + (x - 128))], .bool true]) ∧ Below w.heap.size w w' := by
  have c0 : w.cell? ⟨g, 0, none⟩ = some (.int .i64 l) := hk.cell 0
  have c1 : w.cell? ⟨g, 1, none⟩ = some (.int .i64 r) := hk.cell 1
  have c2 : w.cell? ⟨g, 2, none⟩ = some (.int .i32 b) := hk.cell 2
  have hgl := hk.lt
  have hl0 : (l == 0) = false := beq_eq_false_iff_ne.2 (by omega)
  have HK := Lib.hid hk
  have HF := Lib.hid hf
  clear hk hf
  go_enter Tryd.func29, Tryd.ntmps29
  go_wp2_with fail
  with_reducible refine (HF.out _ (HK.out.alloc _) ((Below.refl _ _).alloc (Nat.le_refl _) _)).mono ?_
  rintro e w1 ⟨rfl, rfl⟩
  go_wp2
  have kz := Blk.new w 53 #[Value.int IntKind.i64 0, Value.int IntKind.i64 0, Value.int IntKind.i32 0]
  have kg := HK.out.alloc (Obj.cells #[Value.int IntKind.i64 0, Value.int IntKind.i64 0, Value.int IntKind.i32 0] 53)
  have hb := (Below.refl w.heap.size w).alloc (Nat.le_refl _) (Obj.cells #[Value.int IntKind.i64 0, Value.int IntKind.i64 0, Value.int IntKind.i32 0] 53)
  generalize w.alloc (Obj.cells #[Value.int IntKind.i64 0, Value.int IntKind.i64 0, Value.int IntKind.i32 0] 53) = W0 at kz kg hb ⊢
  refine wp_region_still_tail 19 (by kernel_rfl) (by kernel_rfl) ?_
  simp only [List.take_succ_cons, List.take_zero, List.drop_succ_cons, List.drop_zero]
  generalize hW1 : ({ W0 with drawn := W0.drawn + 1 } : World) = W1
  have kz1 : Blk W1 w.heap.size 53 #[Value.int IntKind.i64 0, Value.int IntKind.i64 0, Value.int IntKind.i32 0] := by rw [← hW1]; exact kz
  have kg1 : Blk W1 g 53 #[.int .i64 l, .int .i64 r, .int .i32 b] := by rw [← hW1]; exact kg
  have hb1 : Below w.heap.size w W1 := by rw [← hW1]; exact hb.drew
  clear hW1 kz kg hb c0 c1 c2
  have c0 : W1.cell? ⟨g, 0, none⟩ = some (.int .i64 l) := kg1.cell 0
  have c1 : W1.cell? ⟨g, 1, none⟩ = some (.int .i64 r) := kg1.cell 1
  have c2 : W1.cell? ⟨g, 2, none⟩ = some (.int .i32 b) := kg1.cell 2
  have e0 : W1.cell? ⟨w.heap.size, 0, none⟩ = some (.int .i64 0) := kz1.cell 0
  have e1 : W1.cell? ⟨w.heap.size, 1, none⟩ = some (.int .i64 0) := kz1.cell 1
  have e2 : W1.cell? ⟨w.heap.size, 2, none⟩ = some (.int .i32 0) := kz1.cell 2
  have f0 : W1.frozen? ⟨w.heap.size, 0, none⟩ = false := kz1.frozen 0
  have f1 : W1.frozen? ⟨w.heap.size, 1, none⟩ = false := kz1.frozen 1
  have f2 : W1.frozen? ⟨w.heap.size, 2, none⟩ = false := kz1.frozen 2
  have KZ := Lib.hid kz1
  have HB := Lib.hid hb1
  clear kz1 kg1 hb1
  repeat still_step
  refine wpStill_nil ?_
  go_wp2
  have eo := or_tail b x b0 b1 h0 h1
  refine bodyPost_ret (results_blk Tryd.results29 _ _ _ _ _ _ rfl (((KZ.out.set 0 _).set 1 _).set 2 _) Tryd.underlying53 rfl (by kernel_rfl)) rfl ?_
  refine ⟨by rw [← eo]; rfl, ?_⟩
  exact ((HB.out.setCell (p := ⟨w.heap.size, 0, none⟩) (Nat.le_refl _) _).setCell (p := ⟨w.heap.size, 1, none⟩) (Nat.le_refl _) _).setCell (p := ⟨w.heap.size, 2, none⟩) (Nat.le_refl _) _

theorem with_no (g : Nat) (l r b x : Int) (w : World) (l1 : 1 ≤ l) (l2 : l ≤ 3) (hk : Blk w g 53 #[.int .i64 l, .int .i64 r, .int .i32 b])
    (hf : ∀ w', Blk w' g 53 #[.int .i64 l, .int .i64 r, .int .i32 b] → Below w.heap.size w w' → Calls Tryd.prog 36 #[.pointer (some ⟨g, 0, none⟩), .int .u8 x] w' fun e w'' => e = .returned (.bool false) ∧ w' = w'') :
    Calls Tryd.prog 29 #[.pointer (some ⟨g, 0, none⟩), .int .u8 x] w fun e w' => e = .returned (.tuple #[.agg #[.int .i64 0, .int .i64 0, .int .i32 0], .bool false]) ∧ Below w.heap.size w w' := by
  have c0 : w.cell? ⟨g, 0, none⟩ = some (.int .i64 l) := hk.cell 0
  have hgl := hk.lt
  have hl0 : (l == 0) = false := beq_eq_false_iff_ne.2 (by omega)
  have HK := Lib.hid hk
  have HF := Lib.hid hf
  clear hk hf
  go_enter Tryd.func29, Tryd.ntmps29
  go_wp2_with fail
  with_reducible refine (HF.out _ (HK.out.alloc _) ((Below.refl _ _).alloc (Nat.le_refl _) _)).mono ?_
  rintro e w1 ⟨rfl, rfl⟩
  have kz := Blk.new w 53 #[Value.int IntKind.i64 0, Value.int IntKind.i64 0, Value.int IntKind.i32 0]
  have hb := (Below.refl w.heap.size w).alloc (Nat.le_refl _) (Obj.cells #[Value.int IntKind.i64 0, Value.int IntKind.i64 0, Value.int IntKind.i32 0] 53)
  generalize w.alloc (Obj.cells #[Value.int IntKind.i64 0, Value.int IntKind.i64 0, Value.int IntKind.i32 0] 53) = W1 at kz hb ⊢
  have e0 : W1.cell? ⟨w.heap.size, 0, none⟩ = some (.int .i64 0) := kz.cell 0
  have e1 : W1.cell? ⟨w.heap.size, 1, none⟩ = some (.int .i64 0) := kz.cell 1
  have e2 : W1.cell? ⟨w.heap.size, 2, none⟩ = some (.int .i32 0) := kz.cell 2
  have f0 : W1.frozen? ⟨w.heap.size, 0, none⟩ = false := kz.frozen 0
  have f1 : W1.frozen? ⟨w.heap.size, 1, none⟩ = false := kz.frozen 1
  have f2 : W1.frozen? ⟨w.heap.size, 2, none⟩ = false := kz.frozen 2
  have KZ := Lib.hid kz
  have HB := Lib.hid hb
  clear kz hb
  go_wp2
  refine bodyPost_ret (results_blk Tryd.results29 _ _ _ _ _ _ rfl (((KZ.out.set 0 _).set 1 _).set 2 _) Tryd.underlying53 rfl (by kernel_rfl)) rfl ?_
  refine ⟨rfl, ?_⟩
  exact ((HB.out.setCell (p := ⟨w.heap.size, 0, none⟩) (Nat.le_refl _) _).setCell (p := ⟨w.heap.size, 1, none⟩) (Nat.le_refl _) _).setCell (p := ⟨w.heap.size, 2, none⟩) (Nat.le_refl _) _

/-- what 'with' hands back, told of one call -/
def WithIs (g : Nat) (x l' r' b' : Int) (ok : Bool) (w : World) : Prop :=
  Calls Tryd.prog 29 #[.pointer (some ⟨g, 0, none⟩), .int .u8 x] w fun e w' => e = .returned (.tuple #[.agg #[.int .i64 l', .int .i64 r', .int .i32 b'], .bool ok]) ∧ Below w.heap.size w w'

theorem WithIs.calls {g : Nat} {x l' r' b' : Int} {ok : Bool} {w : World} (h : WithIs g x l' r' b' ok w) :
  Calls Tryd.prog 29 #[.pointer (some ⟨g, 0, none⟩), .int .u8 x] w fun e w' => e = .returned (.tuple #[.agg #[.int .i64 l', .int .i64 r', .int .i32 b'], .bool ok]) ∧ Below w.heap.size w w' := h

theorem push_refused (g : Nat) (x l r b l' r' b' : Int) (w : World) (hk : Blk w g 53 #[.int .i64 l, .int .i64 r, .int .i32 b]) (hw : WithIs g x l' r' b' false w) :
    Calls Tryd.prog 21 #[.pointer (some ⟨g, 0, none⟩), .int .u8 x] w fun e w' => e = .returned (.tuple #[.int .i32 0, .int .i64 3]) ∧ Blk w' g 53 #[.int .i64 l, .int .i64 r, .int .i32 b] ∧ But g w w' := by
  have HK := Lib.hid hk
  clear hk
  go_enter Tryd.func21, Tryd.ntmps21
  go_wp2_with fail
  with_reducible refine hw.calls.mono ?_
  rintro e w1 ⟨rfl, hb⟩
  have HB := Lib.hid hb
  clear hb hw
  go_wp2
  go_ret2
  have hb2 := HB.out.alloc HB.out.size (Obj.cells #[Value.int IntKind.i64 l', Value.int IntKind.i64 r', Value.int IntKind.i32 b'] 53)
  exact ⟨rfl, HK.out.below hb2 HK.out.lt, But.of_below hb2⟩
set_option maxHeartbeats 1000000 in
theorem push_begun (g : Nat) (x l r b l' b' : Int) (r' : Nat) (w : World) (hr : r' < 9) (hl : l' < ldS r') (hT : Tab w) (hk : Blk w g 53 #[.int .i64 l, .int .i64 r, .int .i32 b]) (hw : WithIs g x l' r' b' true w) :
    Calls Tryd.prog 21 #[.pointer (some ⟨g, 0, none⟩), .int .u8 x] w fun e w' => e = .returned (.tuple #[.int .i32 0, .int .i64 1]) ∧ Blk w' g 53 #[.int .i64 l', .int .i64 r', .int .i32 b'] ∧ But g w w' := by
  have HK := Lib.hid hk
  clear hk
  go_enter Tryd.func21, Tryd.ntmps21
  go_wp2_with fail
  with_reducible refine hw.calls.mono ?_
  rintro e w1 ⟨rfl, hb⟩
  have k1 := HK.out.below hb HK.out.lt
  have t1 := (hT.below' hb).sz r' hr
  have ht1 := (hT.below' hb).lt
  have hz := k1.lt
  have c0 : w1.cell? ⟨g, 0, none⟩ = some (.int .i64 l) := k1.cell 0
  have c1 : w1.cell? ⟨g, 1, none⟩ = some (.int .i64 r) := k1.cell 1
  have c2 : w1.cell? ⟨g, 2, none⟩ = some (.int .i32 b) := k1.cell 2
  have f0 : w1.frozen? ⟨g, 0, none⟩ = false := k1.frozen 0
  have f1 : w1.frozen? ⟨g, 1, none⟩ = false := k1.frozen 1
  have f2 : w1.frozen? ⟨g, 2, none⟩ = false := k1.frozen 2
  have hr9 : (r' : Int) < 9 := by omega
  have HB := Lib.hid hb
  have K1 := Lib.hid k1
  clear hb hw k1
  go_wp2
  go_quiet (fail)
  go_wp2
  go_ret2
  have ka := ((K1.out.alloc (Obj.cells #[Value.int IntKind.i64 l', Value.int IntKind.i64 r', Value.int IntKind.i32 b'] 53)).drewN nq)
  refine ⟨rfl, ((ka.set 0 _).set 1 _).set 2 _, ?_⟩
  have hb2 : But g w _ := But.of_below (below_drewN' (HB.out.alloc HB.out.size (Obj.cells #[Value.int IntKind.i64 l', Value.int IntKind.i64 r', Value.int IntKind.i32 b'] 53)) nq)
  exact ((hb2.set 0 _).set 1 _).set 2 _
set_option maxHeartbeats 1000000 in
theorem push_whole (g : Nat) (x l r b l' b' : Int) (r' : Nat) (w : World) (hr : r' < 9) (hl : ¬ l' < ldS r') (hT : Tab w) (hk : Blk w g 53 #[.int .i64 l, .int .i64 r, .int .i32 b]) (hw : WithIs g x l' r' b' true w) :
    Calls Tryd.prog 21 #[.pointer (some ⟨g, 0, none⟩), .int .u8 x] w fun e w' => e = .returned (.tuple #[.int .i32 b', .int .i64 2]) ∧ Blk w' g 53 #[.int .i64 0, .int .i64 0, .int .i32 0] ∧ But g w w' := by
  have HK := Lib.hid hk
  clear hk
  have hl' : decide (l' < ldS r') = false := decide_eq_false hl
  go_enter Tryd.func21, Tryd.ntmps21
  go_wp2_with fail
  with_reducible refine hw.calls.mono ?_
  rintro e w1 ⟨rfl, hb⟩
  have k1 := HK.out.below hb HK.out.lt
  have t1 := (hT.below' hb).sz r' hr
  have ht1 := (hT.below' hb).lt
  have hz := k1.lt
  have c0 : w1.cell? ⟨g, 0, none⟩ = some (.int .i64 l) := k1.cell 0
  have c1 : w1.cell? ⟨g, 1, none⟩ = some (.int .i64 r) := k1.cell 1
  have c2 : w1.cell? ⟨g, 2, none⟩ = some (.int .i32 b) := k1.cell 2
  have f0 : w1.frozen? ⟨g, 0, none⟩ = false := k1.frozen 0
  have f1 : w1.frozen? ⟨g, 1, none⟩ = false := k1.frozen 1
  have f2 : w1.frozen? ⟨g, 2, none⟩ = false := k1.frozen 2
  have hr9 : (r' : Int) < 9 := by omega
  have HB := Lib.hid hb
  have K1 := Lib.hid k1
  clear hb hw k1
  go_wp2
  go_quiet (fail)
  go_wp2
  go_ret2
  have ka := ((K1.out.alloc (Obj.cells #[Value.int IntKind.i64 l', Value.int IntKind.i64 r', Value.int IntKind.i32 b'] 53)).drewN nq)
  refine ⟨rfl, ((ka.set 0 _).set 1 _).set 2 _, ?_⟩
  have hb2 : But g w _ := But.of_below (below_drewN' (HB.out.alloc HB.out.size (Obj.cells #[Value.int IntKind.i64 l', Value.int IntKind.i64 r', Value.int IntKind.i32 b'] 53)) nq)
  exact ((hb2.set 0 _).set 1 _).set 2 _
end Go.Proofs.YtbmeinicjfmjlaaDoor
