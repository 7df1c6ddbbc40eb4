/- The walk of HangulCounts. -/
import Derived.Test.YtiejfgfpkkiinaaH6BackWalk
namespace Go.Proofs.Ytiejfgfpkkiinaa
open Go.ChangeShapes Go.WideShapes Go.ChangeAt Go.RowKit
set_option linter.unusedVariables false

set_option maxHeartbeats 1000000 in
theorem counts_walk (a b c : Int) (w : World) : Calls Try.prog 5 #[.int .i64 a, .int .i64 b, .int .i64 c] w fun e w' => e = .returned (.bool true) ∧ Below w.heap.size w w' := by
  have x0 := Int.emod_nonneg a (show (19 : Int) ≠ 0 by omega)
  have x1 := Int.emod_lt_of_pos a (show (0 : Int) < 19 by omega)
  have y0 := Int.emod_nonneg b (show (21 : Int) ≠ 0 by omega)
  have y1 := Int.emod_lt_of_pos b (show (0 : Int) < 21 by omega)
  have z0 := Int.emod_nonneg c (show (28 : Int) ≠ 0 by omega)
  have z1 := Int.emod_lt_of_pos c (show (0 : Int) < 28 by omega)
  have HPX := Lib.hid (fun W => place_any a 19 W (by omega) (by omega))
  have HPY := Lib.hid (fun W => place_any b 21 W (by omega) (by omega))
  have HPZ := Lib.hid (fun W => place_any c 28 W (by omega) (by omega))
  generalize a % 19 = x at *
  generalize b % 21 = y at *
  generalize c % 28 = z at *
  have k1 : kind6 (4352 + x) = 1 := k6_1 (by omega) (by omega)
  have k2 : kind6 (4449 + y) = 2 := k6_2 (by omega) (by omega)
  have j1 := j6_12 k1 k2
  have kd : kind6 (44032 + (x * 21 + y) * 28) = 4 := k6_4 (by omega) (by omega) (by omega)
  have HJ := Lib.hid (fun W => hjoin_is (x := 44032 + (x * 21 + y) * 28) (ok := true) (by rw [j1.1]; omega) j1.2 W)
  have HKD := Lib.hid (fun W => hkind_is kd W)
  have e1 : (44032 + (x * 21 + y) * 28 != 44032 + (x * 21 + y) * 28) = false := by simp
  by_cases hz : z = 0
  · subst hz
    have j2 := j6_no (a := 44032 + (x * 21 + y) * 28) (b := 4519) (by omega) (by intro h; exact absurd h.2 (by decide))
    have HJ2 := Lib.hid (fun W => hjoin_is j2.1 j2.2 W)
    clear k1 k2 j1 kd j2
    go_enter Try.func5, Try.ntmps5
    go_wp2_with fail
    with_reducible refine (HPX.out _).mono ?_
    rintro e w' ⟨rfl, rfl⟩
    go_wp2_with fail
    with_reducible refine (HPY.out _).mono ?_
    rintro e w' ⟨rfl, rfl⟩
    go_wp2_with fail
    with_reducible refine (HPZ.out _).mono ?_
    rintro e w' ⟨rfl, rfl⟩
    go_wp2_with fail
    with_reducible refine (HJ.out _).mono ?_
    rintro e w' ⟨rfl, rfl⟩
    go_wp2_with fail
    with_reducible refine (HKD.out _).mono ?_
    rintro e w' ⟨rfl, rfl⟩
    go_wp2_with fail
    with_reducible refine (HJ2.out _).mono ?_
    rintro e w' ⟨rfl, rfl⟩
    go_wp2_with fail
    with_reducible refine (awake_any _).mono ?_
    rintro e w5 ⟨rfl, hb5⟩
    go_wp2
    go_ret
    exact ⟨rfl, hb5⟩
  · have k3 : kind6 (4519 + z) = 3 := k6_3 (by omega) (by omega)
    have j2 := j6_43 kd k3
    have ke : kind6 (44032 + (x * 21 + y) * 28 + z) = 5 := k6_5 (by omega) (by omega) (by omega)
    have HJ2 := Lib.hid (fun W => hjoin_is (x := 44032 + (x * 21 + y) * 28 + z) (ok := true) (by rw [j2.1]; omega) j2.2 W)
    have HKE := Lib.hid (fun W => hkind_is ke W)
    have e2 : (44032 + (x * 21 + y) * 28 + z == 44032 + (x * 21 + y) * 28 + z) = true := by simp
    have ez : (z == 0) = false := beq_eq_false_iff_ne.2 hz
    clear k1 k2 j1 kd j2 k3 ke hz
    go_enter Try.func5, Try.ntmps5
    go_wp2_with fail
    with_reducible refine (HPX.out _).mono ?_
    rintro e w' ⟨rfl, rfl⟩
    go_wp2_with fail
    with_reducible refine (HPY.out _).mono ?_
    rintro e w' ⟨rfl, rfl⟩
    go_wp2_with fail
    with_reducible refine (HPZ.out _).mono ?_
    rintro e w' ⟨rfl, rfl⟩
    go_wp2_with fail
    with_reducible refine (HJ.out _).mono ?_
    rintro e w' ⟨rfl, rfl⟩
    go_wp2_with fail
    with_reducible refine (HKD.out _).mono ?_
    rintro e w' ⟨rfl, rfl⟩
    go_wp2_with fail
    with_reducible refine (HJ2.out _).mono ?_
    rintro e w' ⟨rfl, rfl⟩
    go_wp2_with fail
    with_reducible refine (HKE.out _).mono ?_
    rintro e w' ⟨rfl, rfl⟩
    go_wp2_with fail
    with_reducible refine (awake_any _).mono ?_
    rintro e w5 ⟨rfl, hb5⟩
    go_wp2
    go_ret
    exact ⟨rfl, hb5⟩
end Go.Proofs.Ytiejfgfpkkiinaa
