/- The chapter's examples ('awake') hold of package scalar. -/
import Derived.Test.YthchjgbmhcihaaaScalar
namespace Go.Proofs.Ythchjgbmhcihaaa
open Go.ChangeShapes Go.WideShapes Go.ChangeAt Go.RowKit
set_option linter.unusedVariables false

theorem awake_any (w : World) : Calls Try.prog 21 #[] w fun e w' => e = .returned (.bool true) ∧ w = w' := by
  have a1 : noncharB 65534 = true := by decide
  have a2 : noncharB 65533 = false := by decide
  have a3 : isB 0 = true := by decide
  have a4 : isB 55996 = false := by decide
  have a5 : highB 55296 = true := by decide
  have a6 : lowB 57343 = true := by decide
  have a7 : unitsI 65536 = 2 := by decide
  go_enter Try.func21, Try.ntmps21
  go_wp2_with fail
  with_reducible refine (split_yes _ _ (by omega) (by omega)).mono ?_
  rintro e w' ⟨rfl, rfl⟩
  go_wp2_with fail
  with_reducible refine (join_yes _ _ _ (by omega) (by omega) (by omega) (by omega)).mono ?_
  rintro e w' ⟨rfl, rfl⟩
  go_wp2_with fail
  with_reducible refine (nonchar_any _ _ (by omega) (by omega)).mono ?_
  rintro e w' ⟨rfl, rfl⟩
  go_wp2_with fail
  with_reducible refine (nonchar_any _ _ (by omega) (by omega)).mono ?_
  rintro e w' ⟨rfl, rfl⟩
  go_wp2_with fail
  with_reducible refine (is_any _ _).mono ?_
  rintro e w' ⟨rfl, rfl⟩
  go_wp2_with fail
  with_reducible refine (is_any _ _).mono ?_
  rintro e w' ⟨rfl, rfl⟩
  go_wp2_with fail
  with_reducible refine (high_any _ _ (by omega) (by omega)).mono ?_
  rintro e w' ⟨rfl, rfl⟩
  go_wp2_with fail
  with_reducible refine (low_any _ _ (by omega) (by omega)).mono ?_
  rintro e w' ⟨rfl, rfl⟩
  go_wp2_with fail
  with_reducible refine (units_any _ _).mono ?_
  rintro e w' ⟨rfl, rfl⟩
  go_wp2
  go_ret
  exact ⟨rfl, rfl⟩
end Go.Proofs.Ythchjgbmhcihaaa
