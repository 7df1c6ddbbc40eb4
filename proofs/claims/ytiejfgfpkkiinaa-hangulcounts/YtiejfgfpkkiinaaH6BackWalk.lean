/- The walk of HangulBack. -/
import Derived.Test.YtiejfgfpkkiinaaPlace4
import Derived.Test.YtiejfgfpkkiinaaH6Awake
import Derived.Test.YtiejfgfpkkiinaaStill
namespace Go.Proofs.Ytiejfgfpkkiinaa
open Go.ChangeShapes Go.WideShapes Go.ChangeAt Go.RowKit
set_option linter.unusedVariables false

theorem hkind_is {c k : Int} (h : kind6 c = k) (w : World) : Calls Try.prog 8 #[.int .i32 c] w fun e w' => e = .returned (.int .i64 k) ∧ w = w' := by subst h; exact hkind_any c w
theorem hjoin_is {a b x : Int} {ok : Bool} (h : joinC a b = x) (g : joinOk a b = ok) (w : World) : Calls Try.prog 6 #[.int .i32 a, .int .i32 b] w fun e w' => e = .returned (.tuple #[.int .i32 x, .bool ok]) ∧ w = w' := by subst h g; exact hjoin_any a b w
theorem k6_1 {c : Int} (h1 : 4352 ≤ c) (h2 : c ≤ 4370) : kind6 c = 1 := by unfold kind6; rw [if_pos ⟨h1, h2⟩]
theorem k6_2 {c : Int} (h1 : 4449 ≤ c) (h2 : c ≤ 4469) : kind6 c = 2 := by unfold kind6; rw [if_neg (by omega), if_pos ⟨h1, h2⟩]
theorem k6_3 {c : Int} (h1 : 4520 ≤ c) (h2 : c ≤ 4546) : kind6 c = 3 := by unfold kind6; rw [if_neg (by omega), if_neg (by omega), if_pos ⟨h1, h2⟩]
theorem k6_4 {c : Int} (h1 : 44032 ≤ c) (h2 : c ≤ 55203) (h : (c - 44032) % 28 = 0) : kind6 c = 4 := by unfold kind6; rw [if_neg (by omega), if_neg (by omega), if_neg (by omega), if_neg (by omega), if_pos h]
theorem k6_5 {c : Int} (h1 : 44032 ≤ c) (h2 : c ≤ 55203) (h : ¬ (c - 44032) % 28 = 0) : kind6 c = 5 := by unfold kind6; rw [if_neg (by omega), if_neg (by omega), if_neg (by omega), if_neg (by omega), if_neg h]
theorem j6_12 {a b : Int} (h1 : kind6 a = 1) (h2 : kind6 b = 2) : joinC a b = 44032 + (a - 4352) * 588 + (b - 4449) * 28 ∧ joinOk a b = true := by
  unfold joinC joinOk; rw [if_pos ⟨h1, h2⟩, decide_eq_true ⟨h1, h2⟩]; exact ⟨rfl, rfl⟩
theorem j6_43 {a b : Int} (h1 : kind6 a = 4) (h2 : kind6 b = 3) : joinC a b = a + b - 4519 ∧ joinOk a b = true := by
  unfold joinC joinOk; rw [if_neg (by omega), if_pos ⟨h1, h2⟩, decide_eq_true (show kind6 a = 4 ∧ kind6 b = 3 from ⟨h1, h2⟩)]; exact ⟨rfl, by simp⟩
theorem j6_no {a b : Int} (h1 : ¬ (kind6 a = 1 ∧ kind6 b = 2)) (h2 : ¬ (kind6 a = 4 ∧ kind6 b = 3)) : joinC a b = 0 ∧ joinOk a b = false := by
  unfold joinC joinOk; rw [if_neg h1, if_neg h2, decide_eq_false h1, decide_eq_false h2]; exact ⟨rfl, rfl⟩
/-- a row of two, told by its cells -/
def Row2 (w : World) (x y : Int) (e : Ending) (w' : World) : Prop :=
  ∃ b o c, e = .returned (.slice (some ⟨b, o, none⟩) 2 c) ∧ (w'.cell? ⟨b, o, none⟩ = some (.int .i32 x) ∧ w'.cell? ⟨b, o + 1, none⟩ = some (.int .i32 y)) ∧ Below w.heap.size w w'
theorem row2_of {w w' : World} {e : Ending} {x y : Int} (h : RowSl .i32 w [x, y] e w') : Row2 w x y e w' := by
  obtain ⟨A, c, rfl, hI, _, hb⟩ := h
  obtain ⟨b, o, rfl, _, hc⟩ := hI.at (by simp)
  exact ⟨b, o, c, rfl, ⟨hc 0 (by simp), hc 1 (by simp)⟩, hb⟩
set_option maxHeartbeats 1000000 in
theorem back_walk (n : Int) (w : World) : Calls Try.prog 4 #[.int .i64 n] w fun e w' => e = .returned (.bool true) ∧ Below w.heap.size w w' := by
  have s0 := Int.emod_nonneg n (show (11172 : Int) ≠ 0 by omega)
  have s1 := Int.emod_lt_of_pos n (show (0 : Int) < 11172 by omega)
  have HP := Lib.hid (fun W => place_any n 11172 W (by omega) (by omega))
  generalize n % 11172 = s at *
  have k1 : kind6 (4352 + s / 588) = 1 := k6_1 (by omega) (by omega)
  have k2 : kind6 (4449 + s % 588 / 28) = 2 := k6_2 (by omega) (by omega)
  have j1 := j6_12 k1 k2
  by_cases h4 : s % 28 = 0
  · have kc : kind6 (44032 + s) = 4 := k6_4 (by omega) (by omega) (by omega)
    have HS := Lib.hid (fun W => (hsplit_any (44032 + s) W (by omega) (by omega)).mono fun e w' h => row2_of (x := 4352 + s / 588) (y := 4449 + s % 588 / 28) (by have := RowRes.sl h; rwa [show split6 (44032 + s) = [4352 + s / 588, 4449 + s % 588 / 28] by unfold split6; rw [if_pos kc, show 44032 + s - 44032 = s by omega]] at this))
    have HJ := Lib.hid (fun W => hjoin_is (x := 44032 + s) (ok := true) (by rw [j1.1]; omega) j1.2 W)
    have HK1 := Lib.hid (fun W => hkind_is k1 W)
    have HK2 := Lib.hid (fun W => hkind_is k2 W)
    have HKC := Lib.hid (fun W => hkind_is kc W)
    have e1 : (44032 + s == 44032 + s) = true := by simp
    clear kc k1 k2 j1 h4
    generalize 4352 + s / 588 = l0 at *
    generalize 4449 + s % 588 / 28 = l1 at *
    go_enter Try.func4, Try.ntmps4
    go_wp2_with fail
    with_reducible refine (HP.out _).mono ?_
    rintro e w' ⟨rfl, rfl⟩
    go_wp2_with fail
    with_reducible refine (HS.out _).mono ?_
    rintro e w2 ⟨b, o, c, rfl, ⟨hc0, hc1⟩, hb⟩
    go_wp2_with fail
    with_reducible refine (HK1.out _).mono ?_
    rintro e w' ⟨rfl, rfl⟩
    go_wp2_with fail
    with_reducible refine (HK2.out _).mono ?_
    rintro e w' ⟨rfl, rfl⟩
    go_wp2_with fail
    with_reducible refine (HKC.out _).mono ?_
    rintro e w' ⟨rfl, rfl⟩
    go_wp2_with fail
    go_quiet ((go_at_call 6; exact quiet_left' (HJ.out _)))
    go_wp2_with fail
    with_reducible refine (awake_any _).mono ?_
    rintro e w5 ⟨rfl, hb5⟩
    go_wp2
    go_ret
    exact ⟨rfl, hb.trans ((below_drewN' (Below.refl _ _) _).trans (hb5.mono (by have := hb.size; simpa using this)))⟩
  · have kc : kind6 (44032 + s) = 5 := k6_5 (by omega) (by omega) (by omega)
    have k3 : kind6 (4519 + s % 28) = 3 := k6_3 (by omega) (by omega)
    have kd : kind6 (44032 + s - s % 28) = 4 := k6_4 (by omega) (by omega) (by omega)
    have j2 := j6_43 kd k3
    have HS := Lib.hid (fun W => (hsplit_any (44032 + s) W (by omega) (by omega)).mono fun e w' h => row3_of (x := 4352 + s / 588) (y := 4449 + s % 588 / 28) (z := 4519 + s % 28) (by have := RowRes.sl h; rwa [show split6 (44032 + s) = [4352 + s / 588, 4449 + s % 588 / 28, 4519 + s % 28] by unfold split6; rw [if_neg (by omega), if_pos kc, show 44032 + s - 44032 = s by omega]] at this))
    have HJ := Lib.hid (fun W => hjoin_is (x := 44032 + s - s % 28) (ok := true) (by rw [j1.1]; omega) j1.2 W)
    have HJ2 := Lib.hid (fun W => hjoin_is (x := 44032 + s) (ok := true) (by rw [j2.1]; omega) j2.2 W)
    have HK1 := Lib.hid (fun W => hkind_is k1 W)
    have HK2 := Lib.hid (fun W => hkind_is k2 W)
    have HK3 := Lib.hid (fun W => hkind_is k3 W)
    have HKC := Lib.hid (fun W => hkind_is kc W)
    have e1 : (44032 + s == 44032 + s) = true := by simp
    clear kc k1 k2 k3 kd j1 j2 h4
    generalize 44032 + s - s % 28 = d at *
    generalize 4352 + s / 588 = l0 at *
    generalize 4449 + s % 588 / 28 = l1 at *
    generalize 4519 + s % 28 = l2 at *
    go_enter Try.func4, Try.ntmps4
    go_wp2_with fail
    with_reducible refine (HP.out _).mono ?_
    rintro e w' ⟨rfl, rfl⟩
    go_wp2_with fail
    with_reducible refine (HS.out _).mono ?_
    rintro e w2 ⟨b, o, c, rfl, ⟨hc0, hc1, hc2⟩, hb⟩
    go_wp2_with fail
    with_reducible refine (HK1.out _).mono ?_
    rintro e w' ⟨rfl, rfl⟩
    go_wp2_with fail
    with_reducible refine (HK2.out _).mono ?_
    rintro e w' ⟨rfl, rfl⟩
    go_wp2_with fail
    with_reducible refine (HKC.out _).mono ?_
    rintro e w' ⟨rfl, rfl⟩
    go_wp2_with fail
    go_quiet ((go_at_call 6; exact quiet_left' (HJ.out _)))
    go_wp2_with fail
    with_reducible refine (HJ2.out _).mono ?_
    rintro e w' ⟨rfl, rfl⟩
    go_wp2_with fail
    with_reducible refine (HK3.out _).mono ?_
    rintro e w' ⟨rfl, rfl⟩
    go_wp2_with fail
    with_reducible refine (awake_any _).mono ?_
    rintro e w5 ⟨rfl, hb5⟩
    go_wp2
    go_ret
    exact ⟨rfl, hb.trans ((below_drewN' (Below.refl _ _) _).trans (hb5.mono (by have := hb.size; simpa using this)))⟩
end Go.Proofs.Ytiejfgfpkkiinaa
