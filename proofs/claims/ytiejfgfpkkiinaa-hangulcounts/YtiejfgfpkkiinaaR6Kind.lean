/- orthoepyref06's Kind by its contract. -/
import Derived.Test.YtiejfgfpkkiinaaRows
import Derived.Test.YtiejfgfpkkiinaaMem
namespace Go.Proofs.Ytiejfgfpkkiinaa
open Go.ChangeShapes Go.WideShapes Go.ChangeAt Go.RowKit
set_option linter.unusedVariables false

def kind6 (c : Int) : Int := if 4352 ≤ c ∧ c ≤ 4370 then 1 else if 4449 ≤ c ∧ c ≤ 4469 then 2 else if 4520 ≤ c ∧ c ≤ 4546 then 3 else if c < 44032 ∨ 55203 < c then 0 else if (c - 44032) % 28 = 0 then 4 else 5
theorem kind6_big {c : Int} (h : 3 < kind6 c) : 44032 ≤ c ∧ c ≤ 55203 := by
  unfold kind6 at h
  split at h
  · omega
  · split at h
    · omega
    · split at h
      · omega
      · split at h
        · omega
        · omega
theorem kind_any (c : Int) (w : World) : Calls Try.prog 9 #[.int .i32 c] w fun e w' => e = .returned (.int .i64 (kind6 c)) ∧ w = w' := by
  by_cases h1 : 4352 ≤ c ∧ c ≤ 4370
  · have e : kind6 c = 1 := by unfold kind6; rw [if_pos h1]
    rw [e]
    obtain ⟨a1, a2⟩ := h1
    clear e
    go_enter Try.func9, Try.ntmps9
    go_wp2
    go_ret
    exact ⟨rfl, rfl⟩
  by_cases h2 : 4449 ≤ c ∧ c ≤ 4469
  · have e : kind6 c = 2 := by unfold kind6; rw [if_neg h1, if_pos h2]
    rw [e]
    obtain ⟨a1, a2⟩ := h2
    have a3 : 4352 ≤ c := by omega
    have a4 : ¬ c ≤ 4370 := by omega
    clear e h1
    go_enter Try.func9, Try.ntmps9
    go_wp2
    go_ret
    exact ⟨rfl, rfl⟩
  by_cases h3 : 4520 ≤ c ∧ c ≤ 4546
  · have e : kind6 c = 3 := by unfold kind6; rw [if_neg h1, if_neg h2, if_pos h3]
    rw [e]
    obtain ⟨a1, a2⟩ := h3
    have a3 : 4352 ≤ c := by omega
    have a4 : ¬ c ≤ 4370 := by omega
    have a5 : 4449 ≤ c := by omega
    have a6 : ¬ c ≤ 4469 := by omega
    clear e h1 h2
    go_enter Try.func9, Try.ntmps9
    go_wp2
    go_ret
    exact ⟨rfl, rfl⟩
  by_cases h4 : c < 44032 ∨ 55203 < c
  · have e : kind6 c = 0 := by unfold kind6; rw [if_neg h1, if_neg h2, if_neg h3, if_pos h4]
    rw [e]
    clear e
    by_cases b1 : 4352 ≤ c <;> by_cases b2 : c ≤ 4370 <;> by_cases b3 : 4449 ≤ c <;> by_cases b4 : c ≤ 4469 <;> by_cases b5 : 4520 ≤ c <;> by_cases b6 : c ≤ 4546 <;> by_cases b7 : c < 44032 <;> (try omega)
    all_goals
      try have b8 : 55203 < c := by omega
      clear h1 h2 h3 h4
      go_enter Try.func9, Try.ntmps9
      go_wp2
      go_ret
      exact ⟨rfl, rfl⟩
  · have a1 : 44032 ≤ c := by omega
    have a2 : c ≤ 55203 := by omega
    have a3 : ¬ c ≤ 4370 := by omega
    have a4 : ¬ c ≤ 4469 := by omega
    have a5 : ¬ c ≤ 4546 := by omega
    have a6 : 4352 ≤ c := by omega
    have a7 : 4449 ≤ c := by omega
    have a8 : 4520 ≤ c := by omega
    have a9 : ¬ c < 44032 := by omega
    have a10 : ¬ 55203 < c := by omega
    by_cases h5 : (c - 44032) % 28 = 0
    · have e : kind6 c = 4 := by unfold kind6; rw [if_neg h1, if_neg h2, if_neg h3, if_neg h4, if_pos h5]
      rw [e]
      have b1 : (((c - 44032) % 28) == 0) = true := by simp; omega
      clear e h1 h2 h3 h4 h5
      go_enter Try.func9, Try.ntmps9
      go_wp2
      go_ret
      exact ⟨rfl, rfl⟩
    · have e : kind6 c = 5 := by unfold kind6; rw [if_neg h1, if_neg h2, if_neg h3, if_neg h4, if_neg h5]
      rw [e]
      have b1 : (((c - 44032) % 28) == 0) = false := by simp; omega
      clear e h1 h2 h3 h4 h5
      go_enter Try.func9, Try.ntmps9
      go_wp2
      go_ret
      exact ⟨rfl, rfl⟩
end Go.Proofs.Ytiejfgfpkkiinaa
