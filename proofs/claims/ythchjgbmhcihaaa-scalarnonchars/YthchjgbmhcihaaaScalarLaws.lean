/- The walks of the statements of layer 1 (scalar), out of the contracts. -/
import Derived.Test.YthchjgbmhcihaaaScalarAwake
namespace Go.Proofs.Ythchjgbmhcihaaa
open Go.ChangeShapes Go.WideShapes Go.ChangeAt Go.RowKit
set_option linter.unusedVariables false

theorem tmod_bd (a k : Int) (hk : 0 < k) : -k < a.tmod k ∧ a.tmod k < k := by
  have h1 := Int.tmod_lt_of_pos a hk
  have h2 := Int.lt_tmod_of_pos a hk
  omega

theorem regions (c : Int) (h0 : 0 ≤ c) (h1 : c < 1114112) :
    (c < 64976 ∧ ¬ 65534 ≤ c % 65536 ∧ noncharB c = false ∧ isB c = true ∧ decide (c < 55296) = true) ∨
    (c < 64976 ∧ ¬ 65534 ≤ c % 65536 ∧ noncharB c = false ∧ isB c = false ∧ decide (c < 55296) = false ∧ decide (57344 ≤ c) = false) ∨
    (c < 64976 ∧ ¬ 65534 ≤ c % 65536 ∧ noncharB c = false ∧ isB c = true ∧ decide (c < 55296) = false ∧ decide (57344 ≤ c) = true) ∨
    (64976 ≤ c ∧ c < 65008 ∧ ¬ 65534 ≤ c % 65536 ∧ noncharB c = true ∧ isB c = true ∧ decide (c < 55296) = false ∧ decide (57344 ≤ c) = true) ∨
    (65008 ≤ c ∧ ¬ 65534 ≤ c % 65536 ∧ noncharB c = false ∧ isB c = true ∧ decide (c < 55296) = false ∧ decide (57344 ≤ c) = true) ∨
    (65008 ≤ c ∧ 65534 ≤ c % 65536 ∧ noncharB c = true ∧ isB c = true ∧ decide (c < 55296) = false ∧ decide (57344 ≤ c) = true) := by
  simp only [noncharB, isB, decide_eq_true_eq, decide_eq_false_iff_not]
  omega

set_option maxHeartbeats 1000000 in
theorem nonchars_neg (a0 c : Int) (w : World) (ht : a0.tmod 1114112 = -c) (h0 : 0 < c) (h1 : c < 1114112) :
    Calls Try.prog 6 #[.int .i64 a0] w fun e w' => e = .returned (.bool true) ∧ w = w' := by
  have f1 : isB (-1 - c) = false := decide_eq_false (by omega)
  have f2 : noncharB (1114112 + c) = false := decide_eq_false (by omega)
  rcases regions c (by omega) h1 with ⟨r1, r2, r3, r4, r5⟩ | ⟨r1, r2, r3, r4, r5, r6⟩ | ⟨r1, r2, r3, r4, r5, r6⟩ | ⟨r1, r2, r3, r4, r5, r6⟩ | ⟨r1, r2, r3, r4, r5, r6⟩ | ⟨r1, r2, r3, r4, r5, r6⟩
  all_goals
    go_enter Try.func6, Try.ntmps6
    go_wp2_with (first
      | (go_at_call 13; ((with_reducible refine (nonchar_any _ _ (by omega) (by omega)).mono ?_); rintro e w' ⟨rfl, rfl⟩))
      | (go_at_call 11; ((with_reducible refine (is_any _ _).mono ?_); rintro e w' ⟨rfl, rfl⟩))
      | (go_at_call 21; ((with_reducible refine (awake_any _).mono ?_); rintro e w' ⟨rfl, rfl⟩)))
    go_ret
    exact ⟨rfl, rfl⟩

set_option maxHeartbeats 1000000 in
theorem nonchars_pos (a0 c : Int) (w : World) (ht : a0.tmod 1114112 = c) (h0 : 0 ≤ c) (h1 : c < 1114112) :
    Calls Try.prog 6 #[.int .i64 a0] w fun e w' => e = .returned (.bool true) ∧ w = w' := by
  have f1 : isB (-1 - c) = false := decide_eq_false (by omega)
  have f2 : noncharB (1114112 + c) = false := decide_eq_false (by omega)
  rcases regions c (by omega) h1 with ⟨r1, r2, r3, r4, r5⟩ | ⟨r1, r2, r3, r4, r5, r6⟩ | ⟨r1, r2, r3, r4, r5, r6⟩ | ⟨r1, r2, r3, r4, r5, r6⟩ | ⟨r1, r2, r3, r4, r5, r6⟩ | ⟨r1, r2, r3, r4, r5, r6⟩
  all_goals
    go_enter Try.func6, Try.ntmps6
    go_wp2_with (first
      | (go_at_call 13; ((with_reducible refine (nonchar_any _ _ (by omega) (by omega)).mono ?_); rintro e w' ⟨rfl, rfl⟩))
      | (go_at_call 11; ((with_reducible refine (is_any _ _).mono ?_); rintro e w' ⟨rfl, rfl⟩))
      | (go_at_call 21; ((with_reducible refine (awake_any _).mono ?_); rintro e w' ⟨rfl, rfl⟩)))
    go_ret
    exact ⟨rfl, rfl⟩

theorem nonchars_walk (a0 : Int) (w : World) :
    Calls Try.prog 6 #[.int .i64 a0] w fun e w' => e = .returned (.bool true) ∧ w = w' := by
  have hb := tmod_bd a0 1114112 (by omega)
  by_cases hneg : a0.tmod 1114112 < 0
  · exact nonchars_neg a0 (-(a0.tmod 1114112)) w (by omega) (by omega) (by omega)
  · exact nonchars_pos a0 (a0.tmod 1114112) w rfl (by omega) (by omega)
end Go.Proofs.Ythchjgbmhcihaaa
