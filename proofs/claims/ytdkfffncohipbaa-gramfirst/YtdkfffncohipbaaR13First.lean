/- First of the document. -/
import Derived.Test.YtdkfffncohipbaaP13First
namespace Go.Proofs.Ytdkfffncohipbaa
set_option maxRecDepth 100000
open Go.ChangeShapes Go.WideShapes Go.ChangeAt Go.RowKit
set_option linter.unusedVariables false
set_option linter.unusedSimpArgs false

theorem r_first_any (x : Int) (w : World) (h0 : 0 ≤ x) (h1 : x ≤ 255) : Calls Try.prog 22 #[.int .u8 x] w fun e w' => e = .returned (.int .i64 (firstV x)) ∧ w = w' := by
  by_cases e110 : x = 110
  · subst e110
    go_enter Try.func22, Try.ntmps22
    go_wp2
    go_ret
    exact ⟨rfl, rfl⟩
  by_cases e116 : x = 116
  · subst e116
    go_enter Try.func22, Try.ntmps22
    go_wp2
    go_ret
    exact ⟨rfl, rfl⟩
  by_cases e102 : x = 102
  · subst e102
    go_enter Try.func22, Try.ntmps22
    go_wp2
    go_ret
    exact ⟨rfl, rfl⟩
  by_cases e34 : x = 34
  · subst e34
    go_enter Try.func22, Try.ntmps22
    go_wp2
    go_ret
    exact ⟨rfl, rfl⟩
  by_cases e91 : x = 91
  · subst e91
    go_enter Try.func22, Try.ntmps22
    go_wp2
    go_ret
    exact ⟨rfl, rfl⟩
  by_cases e93 : x = 93
  · subst e93
    go_enter Try.func22, Try.ntmps22
    go_wp2
    go_ret
    exact ⟨rfl, rfl⟩
  by_cases e123 : x = 123
  · subst e123
    go_enter Try.func22, Try.ntmps22
    go_wp2
    go_ret
    exact ⟨rfl, rfl⟩
  by_cases e125 : x = 125
  · subst e125
    go_enter Try.func22, Try.ntmps22
    go_wp2
    go_ret
    exact ⟨rfl, rfl⟩
  by_cases e58 : x = 58
  · subst e58
    go_enter Try.func22, Try.ntmps22
    go_wp2
    go_ret
    exact ⟨rfl, rfl⟩
  by_cases e44 : x = 44
  · subst e44
    go_enter Try.func22, Try.ntmps22
    go_wp2
    go_ret
    exact ⟨rfl, rfl⟩
  by_cases e45 : x = 45
  · subst e45
    go_enter Try.func22, Try.ntmps22
    go_wp2
    go_ret
    exact ⟨rfl, rfl⟩
  have b110 : (x == 110) = false := by simpa using e110
  have b116 : (x == 116) = false := by simpa using e116
  have b102 : (x == 102) = false := by simpa using e102
  have b34 : (x == 34) = false := by simpa using e34
  have b91 : (x == 91) = false := by simpa using e91
  have b93 : (x == 93) = false := by simpa using e93
  have b123 : (x == 123) = false := by simpa using e123
  have b125 : (x == 125) = false := by simpa using e125
  have b58 : (x == 58) = false := by simpa using e58
  have b44 : (x == 44) = false := by simpa using e44
  have b45 : (x == 45) = false := by simpa using e45
  have hv : firstV x = if 48 ≤ x ∧ x ≤ 57 then 4 else 0 := by
    unfold firstV
    simp [e110, e116, e102, e34, e91, e93, e123, e125, e58, e44, e45]
  rw [hv]
  clear e110 e116 e102 e34 e91 e93 e123 e125 e58 e44 e45 hv
  by_cases c1 : 48 ≤ x
  · by_cases c2 : x ≤ 57
    · rw [if_pos ⟨c1, c2⟩]
      go_enter Try.func22, Try.ntmps22
      go_wp2
      go_ret
      exact ⟨rfl, rfl⟩
    · rw [if_neg (fun h => c2 h.2)]
      go_enter Try.func22, Try.ntmps22
      go_wp2
      go_ret
      exact ⟨rfl, rfl⟩
  · rw [if_neg (fun h => c1 h.1)]
    go_enter Try.func22, Try.ntmps22
    go_wp2
    go_ret
    exact ⟨rfl, rfl⟩
end Go.Proofs.Ytdkfffncohipbaa
