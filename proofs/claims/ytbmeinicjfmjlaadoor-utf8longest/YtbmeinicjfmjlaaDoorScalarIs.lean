/- Contracts of package scalar's kindOf, has and Is: each returns what its plain twin says, at every argument, and leaves the world alone. -/
import Derived.Test.YtbmeinicjfmjlaaDoorRows
import Derived.Test.YtbmeinicjfmjlaaDoorScalarMath
import Derived.WalkKit
import Derived.ProofKit
import Derived.OpenShut
import Derived.WalkLawsBesides
namespace Go.Proofs.YtbmeinicjfmjlaaDoor
open Go.ChangeShapes Go.WideShapes Go.ChangeAt Go.RowKit
set_option linter.unusedVariables false

theorem kindOf_any (c : Int) (w : World) : Calls Tryd.prog 37 #[.int .i32 c] w fun e w' => e = .returned (.int .u8 (kd c)) ∧ w = w' := by
  rcases kd_cases c with ⟨h, e⟩ | ⟨h, e⟩ | ⟨⟨h, g⟩, e⟩ | ⟨⟨h, g⟩, e⟩ | ⟨⟨h, g⟩, e⟩ | ⟨⟨h, g⟩, e⟩ | ⟨⟨h, g⟩, e⟩
  all_goals
    rw [e]; clear e
    go_enter Tryd.func37, Tryd.ntmps37
    go_wp2
    go_ret
    exact ⟨rfl, rfl⟩

theorem has_any (k m : Int) (w : World) : Calls Tryd.prog 38 #[.int .u8 k, .int .u8 m] w fun e w' => e = .returned (.bool (hasB k m)) ∧ w = w' := by
  go_enter Tryd.func38, Tryd.ntmps38
  go_wp2
  go_ret
  exact ⟨rfl, rfl⟩

theorem is_any (c : Int) (w : World) : Calls Tryd.prog 33 #[.int .i32 c] w fun e w' => e = .returned (.bool (isB c)) ∧ w = w' := by
  rw [← has_is]
  go_enter Tryd.func33, Tryd.ntmps33
  go_wp2_with fail
  with_reducible refine (kindOf_any _ _).mono ?_
  rintro e w' ⟨rfl, rfl⟩
  go_wp2_with fail
  with_reducible refine (has_any _ _ _).mono ?_
  rintro e w' ⟨rfl, rfl⟩
  go_wp2
  go_ret
  exact ⟨rfl, rfl⟩
end Go.Proofs.YtbmeinicjfmjlaaDoor
