/- Contract of the document's own Is (orthoepyref01). -/
import Derived.Test.YtmidoopapfkilaaRows
import Derived.Test.YtmidoopapfkilaaScalarMath
import Derived.WalkKit
import Derived.ProofKit
import Derived.OpenShut
import Derived.WalkLawsBesides
namespace Go.Proofs.Ytmidoopapfkilaa
open Go.ChangeShapes Go.WideShapes Go.ChangeAt Go.RowKit
set_option linter.unusedVariables false

theorem r_is_any (c : Int) (w : World) : Calls Try.prog 20 #[.int .i32 c] w fun e w' => e = .returned (.bool (isB c)) ∧ w = w' := by
  rcases cls c with h | h | ⟨h, g⟩ | ⟨h, g⟩ | ⟨h, g⟩ | ⟨h, g⟩ | ⟨h, g⟩
  · have e : isB c = false := decide_eq_false (by omega)
    rw [e]; clear e
    go_enter Try.func20, Try.ntmps20
    go_wp2
    go_ret
    exact ⟨rfl, rfl⟩
  · have e : isB c = false := decide_eq_false (by omega)
    rw [e]; clear e
    have d : decide (c ≤ 1114111) = false := decide_eq_false (by omega)
    have d0 : decide (c < 55296) = false := decide_eq_false (by omega)
    go_enter Try.func20, Try.ntmps20
    go_wp2
    go_ret
    exact ⟨rfl, rfl⟩
  · have e : isB c = true := decide_eq_true (by omega)
    rw [e]; clear e
    have d : decide (c ≤ 1114111) = true := decide_eq_true (by omega)
    go_enter Try.func20, Try.ntmps20
    go_wp2
    go_ret
    exact ⟨rfl, rfl⟩
  · have e : isB c = true := decide_eq_true (by omega)
    rw [e]; clear e
    go_enter Try.func20, Try.ntmps20
    go_wp2
    go_ret
    exact ⟨rfl, rfl⟩
  · have e : isB c = true := decide_eq_true (by omega)
    rw [e]; clear e
    have d : decide (c ≤ 1114111) = true := decide_eq_true (by omega)
    go_enter Try.func20, Try.ntmps20
    go_wp2
    go_ret
    exact ⟨rfl, rfl⟩
  · have e : isB c = false := decide_eq_false (by omega)
    rw [e]; clear e
    have d0 : decide (c < 55296) = false := decide_eq_false (by omega)
    go_enter Try.func20, Try.ntmps20
    go_wp2
    go_ret
    exact ⟨rfl, rfl⟩
  · have e : isB c = false := decide_eq_false (by omega)
    rw [e]; clear e
    have d0 : decide (c < 55296) = false := decide_eq_false (by omega)
    go_enter Try.func20, Try.ntmps20
    go_wp2
    go_ret
    exact ⟨rfl, rfl⟩
end Go.Proofs.Ytmidoopapfkilaa
