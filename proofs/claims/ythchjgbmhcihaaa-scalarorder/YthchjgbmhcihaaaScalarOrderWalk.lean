/- The walk of ScalarOrder, out of the contracts. -/
import Derived.Test.YthchjgbmhcihaaaScalarAwake
namespace Go.Proofs.Ythchjgbmhcihaaa
open Go.ChangeShapes Go.WideShapes Go.ChangeAt Go.RowKit
set_option linter.unusedVariables false

theorem tmod_bd' (a k : Int) (hk : 0 < k) : -k < a.tmod k ∧ a.tmod k < k := by
  have h1 := Int.tmod_lt_of_pos a hk
  have h2 := Int.lt_tmod_of_pos a hk
  omega

theorem order_cases (x y : Int) (hx0 : 0 < x) (hx1 : x < 1048576) (hy0 : 0 < y) (hy1 : y < 1048576) :
    (x / 1024 < y / 1024 ∧ x < y) ∨
    (x / 1024 = y / 1024 ∧ x % 1024 < y % 1024 ∧ x < y) ∨
    (x / 1024 = y / 1024 ∧ ¬ x % 1024 < y % 1024 ∧ ¬ x < y) ∨
    (y / 1024 < x / 1024 ∧ ¬ x < y) := by omega

set_option maxHeartbeats 1000000 in
theorem order_walk (a0 a1 : Int) (w : World) :
    Calls Try.prog 5 #[.int .i64 a0, .int .i64 a1] w fun e w' => e = .returned (.bool true) ∧ w = w' := by
  obtain ⟨x, hx⟩ : ∃ x, a0.tmod 524288 = x - 524288 := ⟨a0.tmod 524288 + 524288, by omega⟩
  obtain ⟨y, hy⟩ : ∃ y, a1.tmod 524288 = y - 524288 := ⟨a1.tmod 524288 + 524288, by omega⟩
  have bx := tmod_bd' a0 524288 (by omega)
  have bY := tmod_bd' a1 524288 (by omega)
  rw [hx] at bx
  rw [hy] at bY
  have hx0 : 0 < x := by omega
  have hx1 : x < 1048576 := by omega
  have hy0 : 0 < y := by omega
  have hy1 : y < 1048576 := by omega
  clear bx bY
  rcases order_cases x y hx0 hx1 hy0 hy1 with ⟨h, g⟩ | ⟨h, g, k⟩ | ⟨h, g, k⟩ | ⟨h, g⟩
  all_goals
    go_enter Try.func5, Try.ntmps5
    go_wp2_with (first
      | (go_at_call 7; ((with_reducible refine (split_yes _ _ (by omega) (by omega)).mono ?_); rintro e w' ⟨rfl, rfl⟩))
      | (go_at_call 21; ((with_reducible refine (awake_any _).mono ?_); rintro e w' ⟨rfl, rfl⟩)))
    go_ret
    exact ⟨rfl, rfl⟩
end Go.Proofs.Ythchjgbmhcihaaa
