/- First of the program: which kind begins with which byte. -/
import Derived.Test.YtdkfffncohipbaaProg
import Derived.WalkKit
import Derived.ProofKit
namespace Go.Proofs.Ytdkfffncohipbaa
set_option maxRecDepth 100000
open Go.ChangeShapes Go.WideShapes Go.ChangeAt Go.RowKit
set_option linter.unusedVariables false
set_option linter.unusedSimpArgs false

/-- the kind that begins with a byte -/
def firstV (x : Int) : Int := if x = 110 then 1 else if x = 116 then 2 else if x = 102 then 3 else if x = 45 ∨ (48 ≤ x ∧ x ≤ 57) then 4 else if x = 34 then 5 else if x = 91 then 6 else if x = 93 then 7 else if x = 123 then 8 else if x = 125 then 9 else if x = 58 then 10 else if x = 44 then 11 else 0
theorem first_any (x : Int) (w : World) (h0 : 0 ≤ x) (h1 : x ≤ 255) : Calls Try.prog 21 #[.int .u8 x] w fun e w' => e = .returned (.int .i64 (firstV x)) ∧ w = w' := by
  by_cases e110 : x = 110
  · subst e110
    go_enter Try.func21, Try.ntmps21
    go_wp2
    go_ret
    exact ⟨rfl, rfl⟩
  by_cases e116 : x = 116
  · subst e116
    go_enter Try.func21, Try.ntmps21
    go_wp2
    go_ret
    exact ⟨rfl, rfl⟩
  by_cases e102 : x = 102
  · subst e102
    go_enter Try.func21, Try.ntmps21
    go_wp2
    go_ret
    exact ⟨rfl, rfl⟩
  by_cases e45 : x = 45
  · subst e45
    go_enter Try.func21, Try.ntmps21
    go_wp2
    go_ret
    exact ⟨rfl, rfl⟩
  by_cases e48 : x = 48
  · subst e48
    go_enter Try.func21, Try.ntmps21
    go_wp2
    go_ret
    exact ⟨rfl, rfl⟩
  by_cases e49 : x = 49
  · subst e49
    go_enter Try.func21, Try.ntmps21
    go_wp2
    go_ret
    exact ⟨rfl, rfl⟩
  by_cases e50 : x = 50
  · subst e50
    go_enter Try.func21, Try.ntmps21
    go_wp2
    go_ret
    exact ⟨rfl, rfl⟩
  by_cases e51 : x = 51
  · subst e51
    go_enter Try.func21, Try.ntmps21
    go_wp2
    go_ret
    exact ⟨rfl, rfl⟩
  by_cases e52 : x = 52
  · subst e52
    go_enter Try.func21, Try.ntmps21
    go_wp2
    go_ret
    exact ⟨rfl, rfl⟩
  by_cases e53 : x = 53
  · subst e53
    go_enter Try.func21, Try.ntmps21
    go_wp2
    go_ret
    exact ⟨rfl, rfl⟩
  by_cases e54 : x = 54
  · subst e54
    go_enter Try.func21, Try.ntmps21
    go_wp2
    go_ret
    exact ⟨rfl, rfl⟩
  by_cases e55 : x = 55
  · subst e55
    go_enter Try.func21, Try.ntmps21
    go_wp2
    go_ret
    exact ⟨rfl, rfl⟩
  by_cases e56 : x = 56
  · subst e56
    go_enter Try.func21, Try.ntmps21
    go_wp2
    go_ret
    exact ⟨rfl, rfl⟩
  by_cases e57 : x = 57
  · subst e57
    go_enter Try.func21, Try.ntmps21
    go_wp2
    go_ret
    exact ⟨rfl, rfl⟩
  by_cases e34 : x = 34
  · subst e34
    go_enter Try.func21, Try.ntmps21
    go_wp2
    go_ret
    exact ⟨rfl, rfl⟩
  by_cases e91 : x = 91
  · subst e91
    go_enter Try.func21, Try.ntmps21
    go_wp2
    go_ret
    exact ⟨rfl, rfl⟩
  by_cases e93 : x = 93
  · subst e93
    go_enter Try.func21, Try.ntmps21
    go_wp2
    go_ret
    exact ⟨rfl, rfl⟩
  by_cases e123 : x = 123
  · subst e123
    go_enter Try.func21, Try.ntmps21
    go_wp2
    go_ret
    exact ⟨rfl, rfl⟩
  by_cases e125 : x = 125
  · subst e125
    go_enter Try.func21, Try.ntmps21
    go_wp2
    go_ret
    exact ⟨rfl, rfl⟩
  by_cases e58 : x = 58
  · subst e58
    go_enter Try.func21, Try.ntmps21
    go_wp2
    go_ret
    exact ⟨rfl, rfl⟩
  by_cases e44 : x = 44
  · subst e44
    go_enter Try.func21, Try.ntmps21
    go_wp2
    go_ret
    exact ⟨rfl, rfl⟩
  have b110 : (x == 110) = false := by simpa using e110
  have b116 : (x == 116) = false := by simpa using e116
  have b102 : (x == 102) = false := by simpa using e102
  have b45 : (x == 45) = false := by simpa using e45
  have b48 : (x == 48) = false := by simpa using e48
  have b49 : (x == 49) = false := by simpa using e49
  have b50 : (x == 50) = false := by simpa using e50
  have b51 : (x == 51) = false := by simpa using e51
  have b52 : (x == 52) = false := by simpa using e52
  have b53 : (x == 53) = false := by simpa using e53
  have b54 : (x == 54) = false := by simpa using e54
  have b55 : (x == 55) = false := by simpa using e55
  have b56 : (x == 56) = false := by simpa using e56
  have b57 : (x == 57) = false := by simpa using e57
  have b34 : (x == 34) = false := by simpa using e34
  have b91 : (x == 91) = false := by simpa using e91
  have b93 : (x == 93) = false := by simpa using e93
  have b123 : (x == 123) = false := by simpa using e123
  have b125 : (x == 125) = false := by simpa using e125
  have b58 : (x == 58) = false := by simpa using e58
  have b44 : (x == 44) = false := by simpa using e44
  have hv : firstV x = 0 := by
    have d : ¬ (48 ≤ x ∧ x ≤ 57) := by omega
    unfold firstV
    simp [e110, e116, e102, e45, e34, e91, e93, e123, e125, e58, e44, d]
  rw [hv]
  clear e110 e116 e102 e45 e48 e49 e50 e51 e52 e53 e54 e55 e56 e57 e34 e91 e93 e123 e125 e58 e44 hv
  go_enter Try.func21, Try.ntmps21
  go_wp2
  go_ret
  exact ⟨rfl, rfl⟩
end Go.Proofs.Ytdkfffncohipbaa
