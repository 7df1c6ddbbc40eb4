/- The laws' awake: the chapter's examples. -/
import Derived.Test.YtdkfffncohipbaaP13C
import Derived.Test.YtdkfffncohipbaaP13First
namespace Go.Proofs.Ytdkfffncohipbaa
set_option maxRecDepth 100000
open Go.ChangeShapes Go.WideShapes Go.ChangeAt Go.RowKit
set_option linter.unusedVariables false
set_option linter.unusedSimpArgs false

theorem SFr.ofG {base g : Nat} {v : Value} {q : Gm} {w w' : World} (f : SFr g g v w w') (h : GIs w base g v q) (hb : base ≤ w.heap.size) : Below base w w' := f.low hb h.lg h.lg (rown_low h.own)
set_option maxHeartbeats 8000000 in
theorem awake_any (w : World) : Calls Try.prog 8 #[] w fun e w' => e = .returned (.bool true) ∧ Below w.heap.size w w' := by
  obtain ⟨base, hbs⟩ : ∃ b, w.heap.size = b := ⟨_, rfl⟩
  go_enter Try.func8, Try.ntmps8
  go_wp2_with fail
  with_reducible refine (new_any base w (by omega)).mono ?_
  rintro e w0 ⟨g, rfl, lg, hG0, hb0⟩
  have HG0 := Lib.hid hG0
  have HB0 : Hid (Below base w w0) := Lib.hid (by rw [← hbs]; exact hb0)
  have z0 := HB0.out.size
  clear hG0 hb0
  have HT1 : Hid (Calls Try.prog 13 #[.pointer (some ⟨g, 0, none⟩), .int .i64 8] w0 (TRes base g (.slice none 0 0) ⟨2, [9]⟩ true w0)) := Lib.hid (take_any base g (.slice none 0 0) ⟨0, []⟩ 8 w0 HG0.out (by decide) (by omega))
  go_wp2_with fail
  with_reducible refine HT1.out.mono ?_
  rintro e w1 ⟨rfl, v1, p1, p2, p3⟩
  have HG1 := Lib.hid p1
  have HB1 : Hid (Below base w w1) := Lib.hid (HB0.out.trans (p2.ofG HG0.out (by omega)))
  have z1 := HB1.out.size
  clear p1 p2 p3 HT1 HG0 HB0
  have HT2 : Hid (Calls Try.prog 10 #[.pointer (some ⟨g, 0, none⟩), .int .i64 4] w1 fun e w' => e = .returned (.bool false) ∧ Still w1 w') := Lib.hid (may_any base g v1 ⟨2, [9]⟩ 4 w1 HG1.out)
  go_wp2_with fail
  with_reducible refine HT2.out.mono ?_
  rintro e w2 ⟨rfl, p1⟩
  have HG2 := Lib.hid (HG1.out.still p1)
  have HB2 : Hid (Below base w w2) := Lib.hid (HB1.out.trans (p1.lower base))
  have z2 := HB2.out.size
  clear p1 HT2 HG1 HB1
  have HT3 : Hid (Calls Try.prog 10 #[.pointer (some ⟨g, 0, none⟩), .int .i64 5] w2 fun e w' => e = .returned (.bool true) ∧ Still w2 w') := Lib.hid (may_any base g v1 ⟨2, [9]⟩ 5 w2 HG2.out)
  go_wp2_with fail
  with_reducible refine HT3.out.mono ?_
  rintro e w3 ⟨rfl, p1⟩
  have HG3 := Lib.hid (HG2.out.still p1)
  have HB3 : Hid (Below base w w3) := Lib.hid (HB2.out.trans (p1.lower base))
  have z3 := HB3.out.size
  clear p1 HT3 HG2 HB2
  have HT4 : Hid (Calls Try.prog 10 #[.pointer (some ⟨g, 0, none⟩), .int .i64 9] w3 fun e w' => e = .returned (.bool true) ∧ Still w3 w') := Lib.hid (may_any base g v1 ⟨2, [9]⟩ 9 w3 HG3.out)
  go_wp2_with fail
  with_reducible refine HT4.out.mono ?_
  rintro e w4 ⟨rfl, p1⟩
  have HG4 := Lib.hid (HG3.out.still p1)
  have HB4 : Hid (Below base w w4) := Lib.hid (HB3.out.trans (p1.lower base))
  have z4 := HB4.out.size
  clear p1 HT4 HG3 HB3
  have HT5N : Hid (Calls Try.prog 16 #[.pointer (some ⟨g, 0, none⟩)] w4 fun e w' => e = .returned (.bool true) ∧ w4 = w') := Lib.hid (name_any base g v1 ⟨2, [9]⟩ w4 HG4.out)
  go_wp2_with fail
  with_reducible refine HT5N.out.mono ?_
  rintro e wx ⟨rfl, rfl⟩
  clear HT5N
  have HT5 : Hid (Calls Try.prog 13 #[.pointer (some ⟨g, 0, none⟩), .int .i64 5] w4 (TRes base g v1 ⟨4, [9]⟩ true w4)) := Lib.hid (take_any base g v1 ⟨2, [9]⟩ 5 w4 HG4.out (by decide) (by omega))
  go_wp2_with fail
  with_reducible refine HT5.out.mono ?_
  rintro e w5 ⟨rfl, v5, p1, p2, p3⟩
  have HG5 := Lib.hid p1
  have HB5 : Hid (Below base w w5) := Lib.hid (HB4.out.trans (p2.ofG HG4.out (by omega)))
  have z5 := HB5.out.size
  clear p1 p2 p3 HT5 HG4 HB4
  have HT6 : Hid (Calls Try.prog 13 #[.pointer (some ⟨g, 0, none⟩), .int .i64 10] w5 (TRes base g v5 ⟨0, [9]⟩ true w5)) := Lib.hid (take_any base g v5 ⟨4, [9]⟩ 10 w5 HG5.out (by decide) (by omega))
  go_wp2_with fail
  with_reducible refine HT6.out.mono ?_
  rintro e w6 ⟨rfl, v6, p1, p2, p3⟩
  have HG6 := Lib.hid p1
  have HB6 : Hid (Below base w w6) := Lib.hid (HB5.out.trans (p2.ofG HG5.out (by omega)))
  have z6 := HB6.out.size
  clear p1 p2 p3 HT6 HG5 HB5
  have HT7 : Hid (Calls Try.prog 13 #[.pointer (some ⟨g, 0, none⟩), .int .i64 4] w6 (TRes base g v6 ⟨5, [9]⟩ true w6)) := Lib.hid (take_any base g v6 ⟨0, [9]⟩ 4 w6 HG6.out (by decide) (by omega))
  go_wp2_with fail
  with_reducible refine HT7.out.mono ?_
  rintro e w7 ⟨rfl, v7, p1, p2, p3⟩
  have HG7 := Lib.hid p1
  have HB7 : Hid (Below base w w7) := Lib.hid (HB6.out.trans (p2.ofG HG6.out (by omega)))
  have z7 := HB7.out.size
  clear p1 p2 p3 HT7 HG6 HB6
  have HT8 : Hid (Calls Try.prog 13 #[.pointer (some ⟨g, 0, none⟩), .int .i64 11] w7 (TRes base g v7 ⟨3, [9]⟩ true w7)) := Lib.hid (take_any base g v7 ⟨5, [9]⟩ 11 w7 HG7.out (by decide) (by omega))
  go_wp2_with fail
  with_reducible refine HT8.out.mono ?_
  rintro e w8 ⟨rfl, v8, p1, p2, p3⟩
  have HG8 := Lib.hid p1
  have HB8 : Hid (Below base w w8) := Lib.hid (HB7.out.trans (p2.ofG HG7.out (by omega)))
  have z8 := HB8.out.size
  clear p1 p2 p3 HT8 HG7 HB7
  have HT9 : Hid (Calls Try.prog 10 #[.pointer (some ⟨g, 0, none⟩), .int .i64 5] w8 fun e w' => e = .returned (.bool true) ∧ Still w8 w') := Lib.hid (may_any base g v8 ⟨3, [9]⟩ 5 w8 HG8.out)
  go_wp2_with fail
  with_reducible refine HT9.out.mono ?_
  rintro e w9 ⟨rfl, p1⟩
  have HG9 := Lib.hid (HG8.out.still p1)
  have HB9 : Hid (Below base w w9) := Lib.hid (HB8.out.trans (p1.lower base))
  have z9 := HB9.out.size
  clear p1 HT9 HG8 HB8
  have HT10 : Hid (Calls Try.prog 10 #[.pointer (some ⟨g, 0, none⟩), .int .i64 9] w9 fun e w' => e = .returned (.bool false) ∧ Still w9 w') := Lib.hid (may_any base g v8 ⟨3, [9]⟩ 9 w9 HG9.out)
  go_wp2_with fail
  with_reducible refine HT10.out.mono ?_
  rintro e w10 ⟨rfl, p1⟩
  have HG10 := Lib.hid (HG9.out.still p1)
  have HB10 : Hid (Below base w w10) := Lib.hid (HB9.out.trans (p1.lower base))
  have z10 := HB10.out.size
  clear p1 HT10 HG9 HB9
  have HT11D : Hid (Calls Try.prog 15 #[.pointer (some ⟨g, 0, none⟩)] w10 fun e w' => e = .returned (.int .i64 1) ∧ w10 = w') := Lib.hid (depth_any base g v8 ⟨3, [9]⟩ w10 HG10.out)
  go_wp2_with fail
  with_reducible refine HT11D.out.mono ?_
  rintro e wx ⟨rfl, rfl⟩
  clear HT11D
  have HT11E : Hid (Calls Try.prog 18 #[.pointer (some ⟨g, 0, none⟩)] w10 fun e w' => e = .returned (.bool false) ∧ w10 = w') := Lib.hid (ended_any base g v8 ⟨3, [9]⟩ w10 HG10.out)
  go_wp2_with fail
  with_reducible refine HT11E.out.mono ?_
  rintro e wx ⟨rfl, rfl⟩
  clear HT11E
  have HT11F : Hid (Calls Try.prog 21 #[.int .u8 45] w10 fun e w' => e = .returned (.int .i64 4) ∧ w10 = w') := Lib.hid (first_any 45 w10 (by decide) (by decide))
  go_wp2_with fail
  with_reducible refine HT11F.out.mono ?_
  rintro e wx ⟨rfl, rfl⟩
  clear HT11F
  have HT11F : Hid (Calls Try.prog 21 #[.int .u8 120] w10 fun e w' => e = .returned (.int .i64 0) ∧ w10 = w') := Lib.hid (first_any 120 w10 (by decide) (by decide))
  go_wp2_with fail
  with_reducible refine HT11F.out.mono ?_
  rintro e wx ⟨rfl, rfl⟩
  clear HT11F
  have HT11F : Hid (Calls Try.prog 21 #[.int .u8 125] w10 fun e w' => e = .returned (.int .i64 9) ∧ w10 = w') := Lib.hid (first_any 125 w10 (by decide) (by decide))
  go_wp2_with fail
  with_reducible refine HT11F.out.mono ?_
  rintro e wx ⟨rfl, rfl⟩
  clear HT11F
  go_wp2
  go_ret
  exact ⟨rfl, by rw [hbs]; exact HB10.out⟩
end Go.Proofs.Ytdkfffncohipbaa
