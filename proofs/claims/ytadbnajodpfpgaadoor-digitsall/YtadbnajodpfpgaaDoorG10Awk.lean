/- Printed by gen_g10awk.py. law10's awake. -/
import Derived.Test.YtadbnajodpfpgaaDoorG10Ex
namespace Go.Proofs.YtadbnajodpfpgaaDoor
set_option maxRecDepth 100000
open Go.ChangeShapes Go.WideShapes Go.ChangeAt Go.RowKit
set_option linter.unusedVariables false
set_option linter.unusedSimpArgs false

set_option maxHeartbeats 8000000 in
theorem awake10 (HD : DigitsOk) (w : World) : Calls Tryd.prog 8 #[] w fun e w' => e = .returned (.bool true) ∧ Below w.heap.size w w' := by
  have HR1 : Hid (∀ W, Calls Tryd.prog 11 #[.string ⟨#[49, 48, 101, 45, 49]⟩] W fun e w' => e = .returned (.tuple #[.agg #[.bool false, .string ⟨#[49]⟩, .int .i64 0], .bool true]) ∧ Below W.heap.size W w') := Lib.hid fun W => by
    have h := HD.read ⟨#[49, 48, 101, 45, 49]⟩ W (by decide)
    rw [show L8 ⟨#[49, 48, 101, 45, 49]⟩ = [49, 48, 101, 45, 49] from rfl, gx_r1] at h
    exact h
  have HR2 : Hid (∀ W, Calls Tryd.prog 11 #[.string ⟨#[45, 48, 46, 48]⟩] W fun e w' => e = .returned (.tuple #[.agg #[.bool false, .string ⟨#[]⟩, .int .i64 0], .bool true]) ∧ Below W.heap.size W w') := Lib.hid fun W => by
    have h := HD.read ⟨#[45, 48, 46, 48]⟩ W (by decide)
    rw [show L8 ⟨#[45, 48, 46, 48]⟩ = [45, 48, 46, 48] from rfl, gx_r2] at h
    exact h
  have HR3 : Hid (∀ W, Calls Tryd.prog 11 #[.string ⟨#[57, 48, 48, 55, 49, 57, 57, 50, 53, 52, 55, 52, 48, 57, 57, 50]⟩] W fun e w' => e = .returned (.tuple #[.agg #[.bool false, .string ⟨#[57, 48, 48, 55, 49, 57, 57, 50, 53, 52, 55, 52, 48, 57, 57, 50]⟩, .int .i64 0], .bool true]) ∧ Below W.heap.size W w') := Lib.hid fun W => by
    have h := HD.read ⟨#[57, 48, 48, 55, 49, 57, 57, 50, 53, 52, 55, 52, 48, 57, 57, 50]⟩ W (by decide)
    rw [show L8 ⟨#[57, 48, 48, 55, 49, 57, 57, 50, 53, 52, 55, 52, 48, 57, 57, 50]⟩ = [57, 48, 48, 55, 49, 57, 57, 50, 53, 52, 55, 52, 48, 57, 57, 50] from rfl, gx_r3] at h
    exact h
  have HR4 : Hid (∀ W, Calls Tryd.prog 11 #[.string ⟨#[48, 49]⟩] W fun e w' => e = .returned (.tuple #[.agg #[.bool false, .string ⟨#[]⟩, .int .i64 0], .bool false]) ∧ Below W.heap.size W w') := Lib.hid fun W => by
    have h := HD.read ⟨#[48, 49]⟩ W (by decide)
    rw [show L8 ⟨#[48, 49]⟩ = [48, 49] from rfl, gx_r4] at h
    exact h
  have HI1 : Hid (∀ W, Calls Tryd.prog 16 #[.agg #[.bool false, .string ⟨#[57, 48, 48, 55, 49, 57, 57, 50, 53, 52, 55, 52, 48, 57, 57, 50]⟩, .int .i64 0]] W fun e w' => e = .returned (.tuple #[.int .i64 0, .int .i64 8]) ∧ Below W.heap.size W w') := Lib.hid fun W => by
    have h := HD.int ⟨false, [57, 48, 48, 55, 49, 57, 57, 50, 53, 52, 55, 52, 48, 57, 57, 50], 0⟩ W (by decide) gx_c3
    rw [gx_i1] at h
    exact h
  have HI2 : Hid (∀ W, Calls Tryd.prog 16 #[.agg #[.bool false, .string ⟨#[49, 53]⟩, .int .i64 (-1)]] W fun e w' => e = .returned (.tuple #[.int .i64 0, .int .i64 7]) ∧ Below W.heap.size W w') := Lib.hid fun W => by
    have h := HD.int ⟨false, [49, 53], -1⟩ W (by decide) gx_c4
    rw [gx_i2] at h
    exact h
  have HI3 : Hid (∀ W, Calls Tryd.prog 16 #[.agg #[.bool true, .string ⟨#[49, 50]⟩, .int .i64 1]] W fun e w' => e = .returned (.tuple #[.int .i64 (-120), .int .i64 0]) ∧ Below W.heap.size W w') := Lib.hid fun W => by
    have h := HD.int ⟨true, [49, 50], 1⟩ W (by decide) gx_c5
    rw [gx_i3] at h
    exact h
  have HP : Hid (∀ W, Calls Tryd.prog 13 #[.int .i64 (-907)] W fun e w' => e = .returned (.string ⟨#[45, 57, 48, 55]⟩) ∧ Below W.heap.size W w') := Lib.hid fun W => by
    have h := HD.print (-907) W (by unfold I64; omega)
    rw [gx_p] at h
    exact h
  have HC1 : Hid (∀ W, Calls Tryd.prog 9 #[.agg #[.bool false, .string ⟨#[49]⟩, .int .i64 0]] W fun e w' => e = .returned (.bool true) ∧ Below W.heap.size W w') := Lib.hid fun W => by
    have h := HD.check ⟨false, [49], 0⟩ W (by decide) (by unfold I64; decide)
    rw [gx_c1] at h
    exact h
  have HC2 : Hid (∀ W, Calls Tryd.prog 9 #[.agg #[.bool false, .string ⟨#[120]⟩, .int .i64 0]] W fun e w' => e = .returned (.bool false) ∧ Below W.heap.size W w') := Lib.hid fun W => by
    have h := HD.check ⟨false, [120], 0⟩ W (by decide) (by unfold I64; decide)
    rw [gx_c2] at h
    exact h
  have HM : Hid (∀ W, Calls Tryd.prog 20 #[.agg #[.bool false, .string ⟨#[49]⟩, .int .i64 0], .agg #[.bool false, .string ⟨#[]⟩, .int .i64 0]] W fun e w' => e = .returned (.int .i64 1) ∧ Below W.heap.size W w') := Lib.hid fun W => by
    have h := HD.cmp ⟨false, [49], 0⟩ ⟨false, [], 0⟩ W (by decide) (by decide) gx_c1 gx_c6
    rw [gx_m] at h
    exact h
  have HW : Hid (∀ W, Calls Tryd.prog 22 #[.agg #[.bool false, .string ⟨#[49]⟩, .int .i64 0]] W fun e w' => e = .returned (.bool true) ∧ Below W.heap.size W w') := Lib.hid fun W => by
    have h := HD.whole ⟨false, [49], 0⟩ W (by decide) gx_c1
    rw [gx_w] at h
    exact h
  have q1 : ∀ w, (binOp .eql 23 (.agg #[.bool false, .string ⟨#[49]⟩, .int .i64 0]) (.agg #[.bool false, .string ⟨#[49]⟩, .int .i64 0])).run Tryd.prog w = .ok (.bool true) w := fun w => by
    rw [eq_dc, dc_self]
  have q2 : ∀ w, (binOp .eql 23 (.agg #[.bool false, .string ⟨#[]⟩, .int .i64 0]) (.agg #[.bool false, .string ⟨#[]⟩, .int .i64 0])).run Tryd.prog w = .ok (.bool true) w := fun w => by
    rw [eq_dc, dc_self]
  clear HD
  go_enter Tryd.func8, Tryd.ntmps8
  go_wp2_with fail
  have HB0 : Hid (Below w.heap.size w w) := Lib.hid (Below.refl _ _)
  with_reducible refine (HR1.out _).mono ?_
  rintro e v1 ⟨rfl, hb⟩
  have HB1 := Lib.hid (HB0.out.trans (hb.mono HB0.out.size))
  clear hb HB0
  go_wp2_with fail
  have HB2 : Hid (Below w.heap.size w (v1.alloc (.cells #[.bool false, .string ⟨#[49]⟩, .int .i64 0] 23))) := Lib.hid (HB1.out.alloc HB1.out.size _)
  have KA_v2 : Hid (DcBlk (v1.alloc (.cells #[.bool false, .string ⟨#[49]⟩, .int .i64 0] 23)) v1.heap.size false ⟨#[49]⟩ 0) := Lib.hid (Blk.new v1 23 _)
  clear HB1
  generalize v1.alloc (.cells #[.bool false, .string ⟨#[49]⟩, .int .i64 0] 23) = v2 at *
  generalize v1.heap.size = pKA at *
  have KAl_v2 : pKA < v2.heap.size := KA_v2.out.lt
  have KA0_v2 : v2.cell? ⟨pKA, 0, none⟩ = some (.bool false) := KA_v2.out.cell 0
  have KA1_v2 : v2.cell? ⟨pKA, 1, none⟩ = some (.string ⟨#[49]⟩) := KA_v2.out.cell 1
  have KA2_v2 : v2.cell? ⟨pKA, 2, none⟩ = some (.int .i64 0) := KA_v2.out.cell 2
  with_reducible refine (HR2.out _).mono ?_
  rintro e v3 ⟨rfl, hb⟩
  have HB3 := Lib.hid (HB2.out.trans (hb.mono HB2.out.size))
  have KA_v3 := Lib.hid (KA_v2.out.below hb KA_v2.out.lt)
  clear KAl_v2 KA0_v2 KA1_v2 KA2_v2 KA_v2
  clear hb HB2
  have KAl_v3 : pKA < v3.heap.size := KA_v3.out.lt
  have KA0_v3 : v3.cell? ⟨pKA, 0, none⟩ = some (.bool false) := KA_v3.out.cell 0
  have KA1_v3 : v3.cell? ⟨pKA, 1, none⟩ = some (.string ⟨#[49]⟩) := KA_v3.out.cell 1
  have KA2_v3 : v3.cell? ⟨pKA, 2, none⟩ = some (.int .i64 0) := KA_v3.out.cell 2
  go_wp2_with fail
  have HB4 : Hid (Below w.heap.size w (v3.alloc (.cells #[.bool false, .string ⟨#[]⟩, .int .i64 0] 23))) := Lib.hid (HB3.out.alloc HB3.out.size _)
  have KA_v4 := Lib.hid (KA_v3.out.alloc (.cells #[.bool false, .string ⟨#[]⟩, .int .i64 0] 23))
  have KB_v4 : Hid (DcBlk (v3.alloc (.cells #[.bool false, .string ⟨#[]⟩, .int .i64 0] 23)) v3.heap.size false ⟨#[]⟩ 0) := Lib.hid (Blk.new v3 23 _)
  clear KAl_v3 KA0_v3 KA1_v3 KA2_v3 KA_v3
  clear HB3
  generalize v3.alloc (.cells #[.bool false, .string ⟨#[]⟩, .int .i64 0] 23) = v4 at *
  generalize v3.heap.size = pKB at *
  have KAl_v4 : pKA < v4.heap.size := KA_v4.out.lt
  have KA0_v4 : v4.cell? ⟨pKA, 0, none⟩ = some (.bool false) := KA_v4.out.cell 0
  have KA1_v4 : v4.cell? ⟨pKA, 1, none⟩ = some (.string ⟨#[49]⟩) := KA_v4.out.cell 1
  have KA2_v4 : v4.cell? ⟨pKA, 2, none⟩ = some (.int .i64 0) := KA_v4.out.cell 2
  have KBl_v4 : pKB < v4.heap.size := KB_v4.out.lt
  have KB0_v4 : v4.cell? ⟨pKB, 0, none⟩ = some (.bool false) := KB_v4.out.cell 0
  have KB1_v4 : v4.cell? ⟨pKB, 1, none⟩ = some (.string ⟨#[]⟩) := KB_v4.out.cell 1
  have KB2_v4 : v4.cell? ⟨pKB, 2, none⟩ = some (.int .i64 0) := KB_v4.out.cell 2
  with_reducible refine (HR3.out _).mono ?_
  rintro e v5 ⟨rfl, hb⟩
  have HB5 := Lib.hid (HB4.out.trans (hb.mono HB4.out.size))
  have KA_v5 := Lib.hid (KA_v4.out.below hb KA_v4.out.lt)
  have KB_v5 := Lib.hid (KB_v4.out.below hb KB_v4.out.lt)
  clear KAl_v4 KA0_v4 KA1_v4 KA2_v4 KA_v4
  clear KBl_v4 KB0_v4 KB1_v4 KB2_v4 KB_v4
  clear hb HB4
  have KAl_v5 : pKA < v5.heap.size := KA_v5.out.lt
  have KA0_v5 : v5.cell? ⟨pKA, 0, none⟩ = some (.bool false) := KA_v5.out.cell 0
  have KA1_v5 : v5.cell? ⟨pKA, 1, none⟩ = some (.string ⟨#[49]⟩) := KA_v5.out.cell 1
  have KA2_v5 : v5.cell? ⟨pKA, 2, none⟩ = some (.int .i64 0) := KA_v5.out.cell 2
  have KBl_v5 : pKB < v5.heap.size := KB_v5.out.lt
  have KB0_v5 : v5.cell? ⟨pKB, 0, none⟩ = some (.bool false) := KB_v5.out.cell 0
  have KB1_v5 : v5.cell? ⟨pKB, 1, none⟩ = some (.string ⟨#[]⟩) := KB_v5.out.cell 1
  have KB2_v5 : v5.cell? ⟨pKB, 2, none⟩ = some (.int .i64 0) := KB_v5.out.cell 2
  go_wp2_with fail
  have HB6 : Hid (Below w.heap.size w (v5.alloc (.cells #[.bool false, .string ⟨#[57, 48, 48, 55, 49, 57, 57, 50, 53, 52, 55, 52, 48, 57, 57, 50]⟩, .int .i64 0] 23))) := Lib.hid (HB5.out.alloc HB5.out.size _)
  have KA_v6 := Lib.hid (KA_v5.out.alloc (.cells #[.bool false, .string ⟨#[57, 48, 48, 55, 49, 57, 57, 50, 53, 52, 55, 52, 48, 57, 57, 50]⟩, .int .i64 0] 23))
  have KB_v6 := Lib.hid (KB_v5.out.alloc (.cells #[.bool false, .string ⟨#[57, 48, 48, 55, 49, 57, 57, 50, 53, 52, 55, 52, 48, 57, 57, 50]⟩, .int .i64 0] 23))
  have KC_v6 : Hid (DcBlk (v5.alloc (.cells #[.bool false, .string ⟨#[57, 48, 48, 55, 49, 57, 57, 50, 53, 52, 55, 52, 48, 57, 57, 50]⟩, .int .i64 0] 23)) v5.heap.size false ⟨#[57, 48, 48, 55, 49, 57, 57, 50, 53, 52, 55, 52, 48, 57, 57, 50]⟩ 0) := Lib.hid (Blk.new v5 23 _)
  clear KAl_v5 KA0_v5 KA1_v5 KA2_v5 KA_v5
  clear KBl_v5 KB0_v5 KB1_v5 KB2_v5 KB_v5
  clear HB5
  generalize v5.alloc (.cells #[.bool false, .string ⟨#[57, 48, 48, 55, 49, 57, 57, 50, 53, 52, 55, 52, 48, 57, 57, 50]⟩, .int .i64 0] 23) = v6 at *
  generalize v5.heap.size = pKC at *
  have KAl_v6 : pKA < v6.heap.size := KA_v6.out.lt
  have KA0_v6 : v6.cell? ⟨pKA, 0, none⟩ = some (.bool false) := KA_v6.out.cell 0
  have KA1_v6 : v6.cell? ⟨pKA, 1, none⟩ = some (.string ⟨#[49]⟩) := KA_v6.out.cell 1
  have KA2_v6 : v6.cell? ⟨pKA, 2, none⟩ = some (.int .i64 0) := KA_v6.out.cell 2
  have KBl_v6 : pKB < v6.heap.size := KB_v6.out.lt
  have KB0_v6 : v6.cell? ⟨pKB, 0, none⟩ = some (.bool false) := KB_v6.out.cell 0
  have KB1_v6 : v6.cell? ⟨pKB, 1, none⟩ = some (.string ⟨#[]⟩) := KB_v6.out.cell 1
  have KB2_v6 : v6.cell? ⟨pKB, 2, none⟩ = some (.int .i64 0) := KB_v6.out.cell 2
  have KCl_v6 : pKC < v6.heap.size := KC_v6.out.lt
  have KC0_v6 : v6.cell? ⟨pKC, 0, none⟩ = some (.bool false) := KC_v6.out.cell 0
  have KC1_v6 : v6.cell? ⟨pKC, 1, none⟩ = some (.string ⟨#[57, 48, 48, 55, 49, 57, 57, 50, 53, 52, 55, 52, 48, 57, 57, 50]⟩) := KC_v6.out.cell 1
  have KC2_v6 : v6.cell? ⟨pKC, 2, none⟩ = some (.int .i64 0) := KC_v6.out.cell 2
  with_reducible refine (HI1.out _).mono ?_
  rintro e v7 ⟨rfl, hb⟩
  have HB7 := Lib.hid (HB6.out.trans (hb.mono HB6.out.size))
  have KA_v7 := Lib.hid (KA_v6.out.below hb KA_v6.out.lt)
  have KB_v7 := Lib.hid (KB_v6.out.below hb KB_v6.out.lt)
  have KC_v7 := Lib.hid (KC_v6.out.below hb KC_v6.out.lt)
  clear KAl_v6 KA0_v6 KA1_v6 KA2_v6 KA_v6
  clear KBl_v6 KB0_v6 KB1_v6 KB2_v6 KB_v6
  clear KCl_v6 KC0_v6 KC1_v6 KC2_v6 KC_v6
  clear hb HB6
  have KAl_v7 : pKA < v7.heap.size := KA_v7.out.lt
  have KA0_v7 : v7.cell? ⟨pKA, 0, none⟩ = some (.bool false) := KA_v7.out.cell 0
  have KA1_v7 : v7.cell? ⟨pKA, 1, none⟩ = some (.string ⟨#[49]⟩) := KA_v7.out.cell 1
  have KA2_v7 : v7.cell? ⟨pKA, 2, none⟩ = some (.int .i64 0) := KA_v7.out.cell 2
  have KBl_v7 : pKB < v7.heap.size := KB_v7.out.lt
  have KB0_v7 : v7.cell? ⟨pKB, 0, none⟩ = some (.bool false) := KB_v7.out.cell 0
  have KB1_v7 : v7.cell? ⟨pKB, 1, none⟩ = some (.string ⟨#[]⟩) := KB_v7.out.cell 1
  have KB2_v7 : v7.cell? ⟨pKB, 2, none⟩ = some (.int .i64 0) := KB_v7.out.cell 2
  have KCl_v7 : pKC < v7.heap.size := KC_v7.out.lt
  have KC0_v7 : v7.cell? ⟨pKC, 0, none⟩ = some (.bool false) := KC_v7.out.cell 0
  have KC1_v7 : v7.cell? ⟨pKC, 1, none⟩ = some (.string ⟨#[57, 48, 48, 55, 49, 57, 57, 50, 53, 52, 55, 52, 48, 57, 57, 50]⟩) := KC_v7.out.cell 1
  have KC2_v7 : v7.cell? ⟨pKC, 2, none⟩ = some (.int .i64 0) := KC_v7.out.cell 2
  go_wp2_with fail
  with_reducible refine (HI2.out _).mono ?_
  rintro e v8 ⟨rfl, hb⟩
  have HB8 := Lib.hid (HB7.out.trans (hb.mono HB7.out.size))
  have KA_v8 := Lib.hid (KA_v7.out.below hb KA_v7.out.lt)
  have KB_v8 := Lib.hid (KB_v7.out.below hb KB_v7.out.lt)
  have KC_v8 := Lib.hid (KC_v7.out.below hb KC_v7.out.lt)
  clear KAl_v7 KA0_v7 KA1_v7 KA2_v7 KA_v7
  clear KBl_v7 KB0_v7 KB1_v7 KB2_v7 KB_v7
  clear KCl_v7 KC0_v7 KC1_v7 KC2_v7 KC_v7
  clear hb HB7
  have KAl_v8 : pKA < v8.heap.size := KA_v8.out.lt
  have KA0_v8 : v8.cell? ⟨pKA, 0, none⟩ = some (.bool false) := KA_v8.out.cell 0
  have KA1_v8 : v8.cell? ⟨pKA, 1, none⟩ = some (.string ⟨#[49]⟩) := KA_v8.out.cell 1
  have KA2_v8 : v8.cell? ⟨pKA, 2, none⟩ = some (.int .i64 0) := KA_v8.out.cell 2
  have KBl_v8 : pKB < v8.heap.size := KB_v8.out.lt
  have KB0_v8 : v8.cell? ⟨pKB, 0, none⟩ = some (.bool false) := KB_v8.out.cell 0
  have KB1_v8 : v8.cell? ⟨pKB, 1, none⟩ = some (.string ⟨#[]⟩) := KB_v8.out.cell 1
  have KB2_v8 : v8.cell? ⟨pKB, 2, none⟩ = some (.int .i64 0) := KB_v8.out.cell 2
  have KCl_v8 : pKC < v8.heap.size := KC_v8.out.lt
  have KC0_v8 : v8.cell? ⟨pKC, 0, none⟩ = some (.bool false) := KC_v8.out.cell 0
  have KC1_v8 : v8.cell? ⟨pKC, 1, none⟩ = some (.string ⟨#[57, 48, 48, 55, 49, 57, 57, 50, 53, 52, 55, 52, 48, 57, 57, 50]⟩) := KC_v8.out.cell 1
  have KC2_v8 : v8.cell? ⟨pKC, 2, none⟩ = some (.int .i64 0) := KC_v8.out.cell 2
  go_wp2_with fail
  with_reducible refine (HI3.out _).mono ?_
  rintro e v9 ⟨rfl, hb⟩
  have HB9 := Lib.hid (HB8.out.trans (hb.mono HB8.out.size))
  have KA_v9 := Lib.hid (KA_v8.out.below hb KA_v8.out.lt)
  have KB_v9 := Lib.hid (KB_v8.out.below hb KB_v8.out.lt)
  have KC_v9 := Lib.hid (KC_v8.out.below hb KC_v8.out.lt)
  clear KAl_v8 KA0_v8 KA1_v8 KA2_v8 KA_v8
  clear KBl_v8 KB0_v8 KB1_v8 KB2_v8 KB_v8
  clear KCl_v8 KC0_v8 KC1_v8 KC2_v8 KC_v8
  clear hb HB8
  have KAl_v9 : pKA < v9.heap.size := KA_v9.out.lt
  have KA0_v9 : v9.cell? ⟨pKA, 0, none⟩ = some (.bool false) := KA_v9.out.cell 0
  have KA1_v9 : v9.cell? ⟨pKA, 1, none⟩ = some (.string ⟨#[49]⟩) := KA_v9.out.cell 1
  have KA2_v9 : v9.cell? ⟨pKA, 2, none⟩ = some (.int .i64 0) := KA_v9.out.cell 2
  have KBl_v9 : pKB < v9.heap.size := KB_v9.out.lt
  have KB0_v9 : v9.cell? ⟨pKB, 0, none⟩ = some (.bool false) := KB_v9.out.cell 0
  have KB1_v9 : v9.cell? ⟨pKB, 1, none⟩ = some (.string ⟨#[]⟩) := KB_v9.out.cell 1
  have KB2_v9 : v9.cell? ⟨pKB, 2, none⟩ = some (.int .i64 0) := KB_v9.out.cell 2
  have KCl_v9 : pKC < v9.heap.size := KC_v9.out.lt
  have KC0_v9 : v9.cell? ⟨pKC, 0, none⟩ = some (.bool false) := KC_v9.out.cell 0
  have KC1_v9 : v9.cell? ⟨pKC, 1, none⟩ = some (.string ⟨#[57, 48, 48, 55, 49, 57, 57, 50, 53, 52, 55, 52, 48, 57, 57, 50]⟩) := KC_v9.out.cell 1
  have KC2_v9 : v9.cell? ⟨pKC, 2, none⟩ = some (.int .i64 0) := KC_v9.out.cell 2
  go_wp2_with fail
  with_reducible refine (HR4.out _).mono ?_
  rintro e v10 ⟨rfl, hb⟩
  have HB10 := Lib.hid (HB9.out.trans (hb.mono HB9.out.size))
  have KA_v10 := Lib.hid (KA_v9.out.below hb KA_v9.out.lt)
  have KB_v10 := Lib.hid (KB_v9.out.below hb KB_v9.out.lt)
  have KC_v10 := Lib.hid (KC_v9.out.below hb KC_v9.out.lt)
  clear KAl_v9 KA0_v9 KA1_v9 KA2_v9 KA_v9
  clear KBl_v9 KB0_v9 KB1_v9 KB2_v9 KB_v9
  clear KCl_v9 KC0_v9 KC1_v9 KC2_v9 KC_v9
  clear hb HB9
  have KAl_v10 : pKA < v10.heap.size := KA_v10.out.lt
  have KA0_v10 : v10.cell? ⟨pKA, 0, none⟩ = some (.bool false) := KA_v10.out.cell 0
  have KA1_v10 : v10.cell? ⟨pKA, 1, none⟩ = some (.string ⟨#[49]⟩) := KA_v10.out.cell 1
  have KA2_v10 : v10.cell? ⟨pKA, 2, none⟩ = some (.int .i64 0) := KA_v10.out.cell 2
  have KBl_v10 : pKB < v10.heap.size := KB_v10.out.lt
  have KB0_v10 : v10.cell? ⟨pKB, 0, none⟩ = some (.bool false) := KB_v10.out.cell 0
  have KB1_v10 : v10.cell? ⟨pKB, 1, none⟩ = some (.string ⟨#[]⟩) := KB_v10.out.cell 1
  have KB2_v10 : v10.cell? ⟨pKB, 2, none⟩ = some (.int .i64 0) := KB_v10.out.cell 2
  have KCl_v10 : pKC < v10.heap.size := KC_v10.out.lt
  have KC0_v10 : v10.cell? ⟨pKC, 0, none⟩ = some (.bool false) := KC_v10.out.cell 0
  have KC1_v10 : v10.cell? ⟨pKC, 1, none⟩ = some (.string ⟨#[57, 48, 48, 55, 49, 57, 57, 50, 53, 52, 55, 52, 48, 57, 57, 50]⟩) := KC_v10.out.cell 1
  have KC2_v10 : v10.cell? ⟨pKC, 2, none⟩ = some (.int .i64 0) := KC_v10.out.cell 2
  go_wp2_with fail
  have HB11 : Hid (Below w.heap.size w (v10.alloc (.cells #[.bool false, .string ⟨#[]⟩, .int .i64 0] 23))) := Lib.hid (HB10.out.alloc HB10.out.size _)
  have KA_v11 := Lib.hid (KA_v10.out.alloc (.cells #[.bool false, .string ⟨#[]⟩, .int .i64 0] 23))
  have KB_v11 := Lib.hid (KB_v10.out.alloc (.cells #[.bool false, .string ⟨#[]⟩, .int .i64 0] 23))
  have KC_v11 := Lib.hid (KC_v10.out.alloc (.cells #[.bool false, .string ⟨#[]⟩, .int .i64 0] 23))
  have KD_v11 : Hid (DcBlk (v10.alloc (.cells #[.bool false, .string ⟨#[]⟩, .int .i64 0] 23)) v10.heap.size false ⟨#[]⟩ 0) := Lib.hid (Blk.new v10 23 _)
  clear KAl_v10 KA0_v10 KA1_v10 KA2_v10 KA_v10
  clear KBl_v10 KB0_v10 KB1_v10 KB2_v10 KB_v10
  clear KCl_v10 KC0_v10 KC1_v10 KC2_v10 KC_v10
  clear HB10
  generalize v10.alloc (.cells #[.bool false, .string ⟨#[]⟩, .int .i64 0] 23) = v11 at *
  generalize v10.heap.size = pKD at *
  have KAl_v11 : pKA < v11.heap.size := KA_v11.out.lt
  have KA0_v11 : v11.cell? ⟨pKA, 0, none⟩ = some (.bool false) := KA_v11.out.cell 0
  have KA1_v11 : v11.cell? ⟨pKA, 1, none⟩ = some (.string ⟨#[49]⟩) := KA_v11.out.cell 1
  have KA2_v11 : v11.cell? ⟨pKA, 2, none⟩ = some (.int .i64 0) := KA_v11.out.cell 2
  have KBl_v11 : pKB < v11.heap.size := KB_v11.out.lt
  have KB0_v11 : v11.cell? ⟨pKB, 0, none⟩ = some (.bool false) := KB_v11.out.cell 0
  have KB1_v11 : v11.cell? ⟨pKB, 1, none⟩ = some (.string ⟨#[]⟩) := KB_v11.out.cell 1
  have KB2_v11 : v11.cell? ⟨pKB, 2, none⟩ = some (.int .i64 0) := KB_v11.out.cell 2
  have KCl_v11 : pKC < v11.heap.size := KC_v11.out.lt
  have KC0_v11 : v11.cell? ⟨pKC, 0, none⟩ = some (.bool false) := KC_v11.out.cell 0
  have KC1_v11 : v11.cell? ⟨pKC, 1, none⟩ = some (.string ⟨#[57, 48, 48, 55, 49, 57, 57, 50, 53, 52, 55, 52, 48, 57, 57, 50]⟩) := KC_v11.out.cell 1
  have KC2_v11 : v11.cell? ⟨pKC, 2, none⟩ = some (.int .i64 0) := KC_v11.out.cell 2
  have KDl_v11 : pKD < v11.heap.size := KD_v11.out.lt
  have KD0_v11 : v11.cell? ⟨pKD, 0, none⟩ = some (.bool false) := KD_v11.out.cell 0
  have KD1_v11 : v11.cell? ⟨pKD, 1, none⟩ = some (.string ⟨#[]⟩) := KD_v11.out.cell 1
  have KD2_v11 : v11.cell? ⟨pKD, 2, none⟩ = some (.int .i64 0) := KD_v11.out.cell 2
  with_reducible refine (HP.out _).mono ?_
  rintro e v12 ⟨rfl, hb⟩
  have HB12 := Lib.hid (HB11.out.trans (hb.mono HB11.out.size))
  have KA_v12 := Lib.hid (KA_v11.out.below hb KA_v11.out.lt)
  have KB_v12 := Lib.hid (KB_v11.out.below hb KB_v11.out.lt)
  have KC_v12 := Lib.hid (KC_v11.out.below hb KC_v11.out.lt)
  have KD_v12 := Lib.hid (KD_v11.out.below hb KD_v11.out.lt)
  clear KAl_v11 KA0_v11 KA1_v11 KA2_v11 KA_v11
  clear KBl_v11 KB0_v11 KB1_v11 KB2_v11 KB_v11
  clear KCl_v11 KC0_v11 KC1_v11 KC2_v11 KC_v11
  clear KDl_v11 KD0_v11 KD1_v11 KD2_v11 KD_v11
  clear hb HB11
  have KAl_v12 : pKA < v12.heap.size := KA_v12.out.lt
  have KA0_v12 : v12.cell? ⟨pKA, 0, none⟩ = some (.bool false) := KA_v12.out.cell 0
  have KA1_v12 : v12.cell? ⟨pKA, 1, none⟩ = some (.string ⟨#[49]⟩) := KA_v12.out.cell 1
  have KA2_v12 : v12.cell? ⟨pKA, 2, none⟩ = some (.int .i64 0) := KA_v12.out.cell 2
  have KBl_v12 : pKB < v12.heap.size := KB_v12.out.lt
  have KB0_v12 : v12.cell? ⟨pKB, 0, none⟩ = some (.bool false) := KB_v12.out.cell 0
  have KB1_v12 : v12.cell? ⟨pKB, 1, none⟩ = some (.string ⟨#[]⟩) := KB_v12.out.cell 1
  have KB2_v12 : v12.cell? ⟨pKB, 2, none⟩ = some (.int .i64 0) := KB_v12.out.cell 2
  have KCl_v12 : pKC < v12.heap.size := KC_v12.out.lt
  have KC0_v12 : v12.cell? ⟨pKC, 0, none⟩ = some (.bool false) := KC_v12.out.cell 0
  have KC1_v12 : v12.cell? ⟨pKC, 1, none⟩ = some (.string ⟨#[57, 48, 48, 55, 49, 57, 57, 50, 53, 52, 55, 52, 48, 57, 57, 50]⟩) := KC_v12.out.cell 1
  have KC2_v12 : v12.cell? ⟨pKC, 2, none⟩ = some (.int .i64 0) := KC_v12.out.cell 2
  have KDl_v12 : pKD < v12.heap.size := KD_v12.out.lt
  have KD0_v12 : v12.cell? ⟨pKD, 0, none⟩ = some (.bool false) := KD_v12.out.cell 0
  have KD1_v12 : v12.cell? ⟨pKD, 1, none⟩ = some (.string ⟨#[]⟩) := KD_v12.out.cell 1
  have KD2_v12 : v12.cell? ⟨pKD, 2, none⟩ = some (.int .i64 0) := KD_v12.out.cell 2
  go_wp2_with fail
  with_reducible refine (HC1.out _).mono ?_
  rintro e v13 ⟨rfl, hb⟩
  have HB13 := Lib.hid (HB12.out.trans (hb.mono HB12.out.size))
  have KA_v13 := Lib.hid (KA_v12.out.below hb KA_v12.out.lt)
  have KB_v13 := Lib.hid (KB_v12.out.below hb KB_v12.out.lt)
  have KC_v13 := Lib.hid (KC_v12.out.below hb KC_v12.out.lt)
  have KD_v13 := Lib.hid (KD_v12.out.below hb KD_v12.out.lt)
  clear KAl_v12 KA0_v12 KA1_v12 KA2_v12 KA_v12
  clear KBl_v12 KB0_v12 KB1_v12 KB2_v12 KB_v12
  clear KCl_v12 KC0_v12 KC1_v12 KC2_v12 KC_v12
  clear KDl_v12 KD0_v12 KD1_v12 KD2_v12 KD_v12
  clear hb HB12
  have KAl_v13 : pKA < v13.heap.size := KA_v13.out.lt
  have KA0_v13 : v13.cell? ⟨pKA, 0, none⟩ = some (.bool false) := KA_v13.out.cell 0
  have KA1_v13 : v13.cell? ⟨pKA, 1, none⟩ = some (.string ⟨#[49]⟩) := KA_v13.out.cell 1
  have KA2_v13 : v13.cell? ⟨pKA, 2, none⟩ = some (.int .i64 0) := KA_v13.out.cell 2
  have KBl_v13 : pKB < v13.heap.size := KB_v13.out.lt
  have KB0_v13 : v13.cell? ⟨pKB, 0, none⟩ = some (.bool false) := KB_v13.out.cell 0
  have KB1_v13 : v13.cell? ⟨pKB, 1, none⟩ = some (.string ⟨#[]⟩) := KB_v13.out.cell 1
  have KB2_v13 : v13.cell? ⟨pKB, 2, none⟩ = some (.int .i64 0) := KB_v13.out.cell 2
  have KCl_v13 : pKC < v13.heap.size := KC_v13.out.lt
  have KC0_v13 : v13.cell? ⟨pKC, 0, none⟩ = some (.bool false) := KC_v13.out.cell 0
  have KC1_v13 : v13.cell? ⟨pKC, 1, none⟩ = some (.string ⟨#[57, 48, 48, 55, 49, 57, 57, 50, 53, 52, 55, 52, 48, 57, 57, 50]⟩) := KC_v13.out.cell 1
  have KC2_v13 : v13.cell? ⟨pKC, 2, none⟩ = some (.int .i64 0) := KC_v13.out.cell 2
  have KDl_v13 : pKD < v13.heap.size := KD_v13.out.lt
  have KD0_v13 : v13.cell? ⟨pKD, 0, none⟩ = some (.bool false) := KD_v13.out.cell 0
  have KD1_v13 : v13.cell? ⟨pKD, 1, none⟩ = some (.string ⟨#[]⟩) := KD_v13.out.cell 1
  have KD2_v13 : v13.cell? ⟨pKD, 2, none⟩ = some (.int .i64 0) := KD_v13.out.cell 2
  go_wp2_with fail
  with_reducible refine (HC2.out _).mono ?_
  rintro e v14 ⟨rfl, hb⟩
  have HB14 := Lib.hid (HB13.out.trans (hb.mono HB13.out.size))
  have KA_v14 := Lib.hid (KA_v13.out.below hb KA_v13.out.lt)
  have KB_v14 := Lib.hid (KB_v13.out.below hb KB_v13.out.lt)
  have KC_v14 := Lib.hid (KC_v13.out.below hb KC_v13.out.lt)
  have KD_v14 := Lib.hid (KD_v13.out.below hb KD_v13.out.lt)
  clear KAl_v13 KA0_v13 KA1_v13 KA2_v13 KA_v13
  clear KBl_v13 KB0_v13 KB1_v13 KB2_v13 KB_v13
  clear KCl_v13 KC0_v13 KC1_v13 KC2_v13 KC_v13
  clear KDl_v13 KD0_v13 KD1_v13 KD2_v13 KD_v13
  clear hb HB13
  have KAl_v14 : pKA < v14.heap.size := KA_v14.out.lt
  have KA0_v14 : v14.cell? ⟨pKA, 0, none⟩ = some (.bool false) := KA_v14.out.cell 0
  have KA1_v14 : v14.cell? ⟨pKA, 1, none⟩ = some (.string ⟨#[49]⟩) := KA_v14.out.cell 1
  have KA2_v14 : v14.cell? ⟨pKA, 2, none⟩ = some (.int .i64 0) := KA_v14.out.cell 2
  have KBl_v14 : pKB < v14.heap.size := KB_v14.out.lt
  have KB0_v14 : v14.cell? ⟨pKB, 0, none⟩ = some (.bool false) := KB_v14.out.cell 0
  have KB1_v14 : v14.cell? ⟨pKB, 1, none⟩ = some (.string ⟨#[]⟩) := KB_v14.out.cell 1
  have KB2_v14 : v14.cell? ⟨pKB, 2, none⟩ = some (.int .i64 0) := KB_v14.out.cell 2
  have KCl_v14 : pKC < v14.heap.size := KC_v14.out.lt
  have KC0_v14 : v14.cell? ⟨pKC, 0, none⟩ = some (.bool false) := KC_v14.out.cell 0
  have KC1_v14 : v14.cell? ⟨pKC, 1, none⟩ = some (.string ⟨#[57, 48, 48, 55, 49, 57, 57, 50, 53, 52, 55, 52, 48, 57, 57, 50]⟩) := KC_v14.out.cell 1
  have KC2_v14 : v14.cell? ⟨pKC, 2, none⟩ = some (.int .i64 0) := KC_v14.out.cell 2
  have KDl_v14 : pKD < v14.heap.size := KD_v14.out.lt
  have KD0_v14 : v14.cell? ⟨pKD, 0, none⟩ = some (.bool false) := KD_v14.out.cell 0
  have KD1_v14 : v14.cell? ⟨pKD, 1, none⟩ = some (.string ⟨#[]⟩) := KD_v14.out.cell 1
  have KD2_v14 : v14.cell? ⟨pKD, 2, none⟩ = some (.int .i64 0) := KD_v14.out.cell 2
  go_wp2_with fail
  with_reducible refine (HM.out _).mono ?_
  rintro e v15 ⟨rfl, hb⟩
  have HB15 := Lib.hid (HB14.out.trans (hb.mono HB14.out.size))
  have KA_v15 := Lib.hid (KA_v14.out.below hb KA_v14.out.lt)
  have KB_v15 := Lib.hid (KB_v14.out.below hb KB_v14.out.lt)
  have KC_v15 := Lib.hid (KC_v14.out.below hb KC_v14.out.lt)
  have KD_v15 := Lib.hid (KD_v14.out.below hb KD_v14.out.lt)
  clear KAl_v14 KA0_v14 KA1_v14 KA2_v14 KA_v14
  clear KBl_v14 KB0_v14 KB1_v14 KB2_v14 KB_v14
  clear KCl_v14 KC0_v14 KC1_v14 KC2_v14 KC_v14
  clear KDl_v14 KD0_v14 KD1_v14 KD2_v14 KD_v14
  clear hb HB14
  have KAl_v15 : pKA < v15.heap.size := KA_v15.out.lt
  have KA0_v15 : v15.cell? ⟨pKA, 0, none⟩ = some (.bool false) := KA_v15.out.cell 0
  have KA1_v15 : v15.cell? ⟨pKA, 1, none⟩ = some (.string ⟨#[49]⟩) := KA_v15.out.cell 1
  have KA2_v15 : v15.cell? ⟨pKA, 2, none⟩ = some (.int .i64 0) := KA_v15.out.cell 2
  have KBl_v15 : pKB < v15.heap.size := KB_v15.out.lt
  have KB0_v15 : v15.cell? ⟨pKB, 0, none⟩ = some (.bool false) := KB_v15.out.cell 0
  have KB1_v15 : v15.cell? ⟨pKB, 1, none⟩ = some (.string ⟨#[]⟩) := KB_v15.out.cell 1
  have KB2_v15 : v15.cell? ⟨pKB, 2, none⟩ = some (.int .i64 0) := KB_v15.out.cell 2
  have KCl_v15 : pKC < v15.heap.size := KC_v15.out.lt
  have KC0_v15 : v15.cell? ⟨pKC, 0, none⟩ = some (.bool false) := KC_v15.out.cell 0
  have KC1_v15 : v15.cell? ⟨pKC, 1, none⟩ = some (.string ⟨#[57, 48, 48, 55, 49, 57, 57, 50, 53, 52, 55, 52, 48, 57, 57, 50]⟩) := KC_v15.out.cell 1
  have KC2_v15 : v15.cell? ⟨pKC, 2, none⟩ = some (.int .i64 0) := KC_v15.out.cell 2
  have KDl_v15 : pKD < v15.heap.size := KD_v15.out.lt
  have KD0_v15 : v15.cell? ⟨pKD, 0, none⟩ = some (.bool false) := KD_v15.out.cell 0
  have KD1_v15 : v15.cell? ⟨pKD, 1, none⟩ = some (.string ⟨#[]⟩) := KD_v15.out.cell 1
  have KD2_v15 : v15.cell? ⟨pKD, 2, none⟩ = some (.int .i64 0) := KD_v15.out.cell 2
  go_wp2_with fail
  with_reducible refine (HW.out _).mono ?_
  rintro e v16 ⟨rfl, hb⟩
  have HB16 := Lib.hid (HB15.out.trans (hb.mono HB15.out.size))
  have KA_v16 := Lib.hid (KA_v15.out.below hb KA_v15.out.lt)
  have KB_v16 := Lib.hid (KB_v15.out.below hb KB_v15.out.lt)
  have KC_v16 := Lib.hid (KC_v15.out.below hb KC_v15.out.lt)
  have KD_v16 := Lib.hid (KD_v15.out.below hb KD_v15.out.lt)
  clear KAl_v15 KA0_v15 KA1_v15 KA2_v15 KA_v15
  clear KBl_v15 KB0_v15 KB1_v15 KB2_v15 KB_v15
  clear KCl_v15 KC0_v15 KC1_v15 KC2_v15 KC_v15
  clear KDl_v15 KD0_v15 KD1_v15 KD2_v15 KD_v15
  clear hb HB15
  have KAl_v16 : pKA < v16.heap.size := KA_v16.out.lt
  have KA0_v16 : v16.cell? ⟨pKA, 0, none⟩ = some (.bool false) := KA_v16.out.cell 0
  have KA1_v16 : v16.cell? ⟨pKA, 1, none⟩ = some (.string ⟨#[49]⟩) := KA_v16.out.cell 1
  have KA2_v16 : v16.cell? ⟨pKA, 2, none⟩ = some (.int .i64 0) := KA_v16.out.cell 2
  have KBl_v16 : pKB < v16.heap.size := KB_v16.out.lt
  have KB0_v16 : v16.cell? ⟨pKB, 0, none⟩ = some (.bool false) := KB_v16.out.cell 0
  have KB1_v16 : v16.cell? ⟨pKB, 1, none⟩ = some (.string ⟨#[]⟩) := KB_v16.out.cell 1
  have KB2_v16 : v16.cell? ⟨pKB, 2, none⟩ = some (.int .i64 0) := KB_v16.out.cell 2
  have KCl_v16 : pKC < v16.heap.size := KC_v16.out.lt
  have KC0_v16 : v16.cell? ⟨pKC, 0, none⟩ = some (.bool false) := KC_v16.out.cell 0
  have KC1_v16 : v16.cell? ⟨pKC, 1, none⟩ = some (.string ⟨#[57, 48, 48, 55, 49, 57, 57, 50, 53, 52, 55, 52, 48, 57, 57, 50]⟩) := KC_v16.out.cell 1
  have KC2_v16 : v16.cell? ⟨pKC, 2, none⟩ = some (.int .i64 0) := KC_v16.out.cell 2
  have KDl_v16 : pKD < v16.heap.size := KD_v16.out.lt
  have KD0_v16 : v16.cell? ⟨pKD, 0, none⟩ = some (.bool false) := KD_v16.out.cell 0
  have KD1_v16 : v16.cell? ⟨pKD, 1, none⟩ = some (.string ⟨#[]⟩) := KD_v16.out.cell 1
  have KD2_v16 : v16.cell? ⟨pKD, 2, none⟩ = some (.int .i64 0) := KD_v16.out.cell 2
  go_wp2
  go_ret
  exact ⟨rfl, HB16.out⟩
end Go.Proofs.YtadbnajodpfpgaaDoor
