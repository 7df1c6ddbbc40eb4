/- Contracts of the document's own layer 2 (orthoepyref02): Is, long, second, How, of. -/
import Derived.Test.YtbmeinicjfmjlaaDoorU8First
namespace Go.Proofs.YtbmeinicjfmjlaaDoor
open Go.ChangeShapes Go.WideShapes Go.ChangeAt Go.RowKit
set_option linter.unusedVariables false

theorem r_is_any (c : Int) (w : World) : Calls Tryd.prog 25 #[.int .i32 c] w fun e w' => e = .returned (.bool (isB c)) ∧ w = w' := by
  rcases cls c with h | h | ⟨h, g⟩ | ⟨h, g⟩ | ⟨h, g⟩ | ⟨h, g⟩ | ⟨h, g⟩
  · have e : isB c = false := decide_eq_false (by omega)
    rw [e]; clear e
    go_enter Tryd.func25, Tryd.ntmps25
    go_wp2
    go_ret
    exact ⟨rfl, rfl⟩
  · have e : isB c = false := decide_eq_false (by omega)
    rw [e]; clear e
    have d : decide (c ≤ 1114111) = false := decide_eq_false (by omega)
    have d0 : decide (c < 55296) = false := decide_eq_false (by omega)
    go_enter Tryd.func25, Tryd.ntmps25
    go_wp2
    go_ret
    exact ⟨rfl, rfl⟩
  · have e : isB c = true := decide_eq_true (by omega)
    rw [e]; clear e
    have d : decide (c ≤ 1114111) = true := decide_eq_true (by omega)
    go_enter Tryd.func25, Tryd.ntmps25
    go_wp2
    go_ret
    exact ⟨rfl, rfl⟩
  · have e : isB c = true := decide_eq_true (by omega)
    rw [e]; clear e
    go_enter Tryd.func25, Tryd.ntmps25
    go_wp2
    go_ret
    exact ⟨rfl, rfl⟩
  · have e : isB c = true := decide_eq_true (by omega)
    rw [e]; clear e
    have d : decide (c ≤ 1114111) = true := decide_eq_true (by omega)
    go_enter Tryd.func25, Tryd.ntmps25
    go_wp2
    go_ret
    exact ⟨rfl, rfl⟩
  · have e : isB c = false := decide_eq_false (by omega)
    rw [e]; clear e
    have d0 : decide (c < 55296) = false := decide_eq_false (by omega)
    go_enter Tryd.func25, Tryd.ntmps25
    go_wp2
    go_ret
    exact ⟨rfl, rfl⟩
  · have e : isB c = false := decide_eq_false (by omega)
    rw [e]; clear e
    have d0 : decide (c < 55296) = false := decide_eq_false (by omega)
    go_enter Tryd.func25, Tryd.ntmps25
    go_wp2
    go_ret
    exact ⟨rfl, rfl⟩


theorem r_long_any (x : Int) (w : World) (h0 : 0 ≤ x) (h1 : x ≤ 255) : Calls Tryd.prog 31 #[.int .u8 x] w fun e w' => e = .returned (.int .i64 (lng x)) ∧ w = w' := by
  have hc : x < 128 ∨ (128 ≤ x ∧ x < 194) ∨ (194 ≤ x ∧ x ≤ 223) ∨ (224 ≤ x ∧ x ≤ 239) ∨ (240 ≤ x ∧ x ≤ 244) ∨ 244 < x := by omega
  rcases hc with c | ⟨c, d⟩ | ⟨c, d⟩ | ⟨c, d⟩ | ⟨c, d⟩ | c
  · have e : lng x = 1 := by unfold lng; rw [if_pos c]
    rw [e]; clear e
    go_enter Tryd.func31, Tryd.ntmps31
    go_wp2
    go_ret
    exact ⟨rfl, rfl⟩
  · have e : lng x = 0 := by unfold lng; rw [if_neg (by omega), if_pos d]
    rw [e]; clear e
    have d1 : decide (194 ≤ x) = false := decide_eq_false (by omega)
    have d2 : decide (224 ≤ x) = false := decide_eq_false (by omega)
    have d3 : decide (240 ≤ x) = false := decide_eq_false (by omega)
    go_enter Tryd.func31, Tryd.ntmps31
    go_wp2
    go_ret
    exact ⟨rfl, rfl⟩
  · have e : lng x = 2 := by unfold lng; rw [if_neg (by omega), if_neg (by omega), if_pos d]
    rw [e]; clear e
    go_enter Tryd.func31, Tryd.ntmps31
    go_wp2
    go_ret
    exact ⟨rfl, rfl⟩
  · have e : lng x = 3 := by unfold lng; rw [if_neg (by omega), if_neg (by omega), if_neg (by omega), if_pos d]
    rw [e]; clear e
    have d1 : decide (x ≤ 223) = false := decide_eq_false (by omega)
    go_enter Tryd.func31, Tryd.ntmps31
    go_wp2
    go_ret
    exact ⟨rfl, rfl⟩
  · have e : lng x = 4 := by unfold lng; rw [if_neg (by omega), if_neg (by omega), if_neg (by omega), if_neg (by omega), if_pos d]
    rw [e]; clear e
    have d1 : decide (x ≤ 223) = false := decide_eq_false (by omega)
    have d2 : decide (x ≤ 239) = false := decide_eq_false (by omega)
    go_enter Tryd.func31, Tryd.ntmps31
    go_wp2
    go_ret
    exact ⟨rfl, rfl⟩
  · have e : lng x = 0 := by unfold lng; rw [if_neg (by omega), if_neg (by omega), if_neg (by omega), if_neg (by omega), if_neg (by omega)]
    rw [e]; clear e
    have d1 : decide (x ≤ 223) = false := decide_eq_false (by omega)
    have d2 : decide (x ≤ 239) = false := decide_eq_false (by omega)
    have d3 : decide (x ≤ 244) = false := decide_eq_false (by omega)
    go_enter Tryd.func31, Tryd.ntmps31
    go_wp2
    go_ret
    exact ⟨rfl, rfl⟩

theorem r_second_any (a x : Int) (w : World) : Calls Tryd.prog 32 #[.int .u8 a, .int .u8 x] w fun e w' => e = .returned (.bool (secB a x)) ∧ w = w' := by
  have hc : a = 224 ∨ a = 237 ∨ a = 240 ∨ a = 244 ∨ (a ≠ 224 ∧ a ≠ 237 ∧ a ≠ 240 ∧ a ≠ 244) := by omega
  rcases hc with rfl | rfl | rfl | rfl | ⟨c1, c2, c3, c4⟩
  · have e : secB 224 x = decide (160 ≤ x ∧ x ≤ 191) := rfl
    by_cases h : 160 ≤ x
    · have e : secB 224 x = decide (x ≤ 191) := by rw [e]; simp [h]
      rw [e]; clear e
      go_enter Tryd.func32, Tryd.ntmps32
      go_wp2
      go_ret
      exact ⟨rfl, rfl⟩
    · have e : secB 224 x = false := by rw [e]; simp [h]
      rw [e]; clear e
      have d : decide (160 ≤ x) = false := decide_eq_false h
      go_enter Tryd.func32, Tryd.ntmps32
      go_wp2
      go_ret
      exact ⟨rfl, rfl⟩
  · have e : secB 237 x = decide (128 ≤ x ∧ x ≤ 159) := rfl
    by_cases h : 128 ≤ x
    · have e : secB 237 x = decide (x ≤ 159) := by rw [e]; simp [h]
      rw [e]; clear e
      go_enter Tryd.func32, Tryd.ntmps32
      go_wp2
      go_ret
      exact ⟨rfl, rfl⟩
    · have e : secB 237 x = false := by rw [e]; simp [h]
      rw [e]; clear e
      have d : decide (128 ≤ x) = false := decide_eq_false h
      go_enter Tryd.func32, Tryd.ntmps32
      go_wp2
      go_ret
      exact ⟨rfl, rfl⟩
  · have e : secB 240 x = decide (144 ≤ x ∧ x ≤ 191) := rfl
    by_cases h : 144 ≤ x
    · have e : secB 240 x = decide (x ≤ 191) := by rw [e]; simp [h]
      rw [e]; clear e
      go_enter Tryd.func32, Tryd.ntmps32
      go_wp2
      go_ret
      exact ⟨rfl, rfl⟩
    · have e : secB 240 x = false := by rw [e]; simp [h]
      rw [e]; clear e
      have d : decide (144 ≤ x) = false := decide_eq_false h
      go_enter Tryd.func32, Tryd.ntmps32
      go_wp2
      go_ret
      exact ⟨rfl, rfl⟩
  · have e : secB 244 x = decide (128 ≤ x ∧ x ≤ 143) := rfl
    by_cases h : 128 ≤ x
    · have e : secB 244 x = decide (x ≤ 143) := by rw [e]; simp [h]
      rw [e]; clear e
      go_enter Tryd.func32, Tryd.ntmps32
      go_wp2
      go_ret
      exact ⟨rfl, rfl⟩
    · have e : secB 244 x = false := by rw [e]; simp [h]
      rw [e]; clear e
      have d : decide (128 ≤ x) = false := decide_eq_false h
      go_enter Tryd.func32, Tryd.ntmps32
      go_wp2
      go_ret
      exact ⟨rfl, rfl⟩
  · have e : secB a x = decide (128 ≤ x ∧ x ≤ 191) := by unfold secB lo2 hi2; rw [if_neg c1, if_neg c3, if_neg c2, if_neg c4]
    have b1 : (a == 224) = false := beq_eq_false_iff_ne.2 c1
    have b2 : (a == 237) = false := beq_eq_false_iff_ne.2 c2
    have b3 : (a == 240) = false := beq_eq_false_iff_ne.2 c3
    have b4 : (a == 244) = false := beq_eq_false_iff_ne.2 c4
    clear c1 c2 c3 c4
    by_cases h : 128 ≤ x
    · have e : secB a x = decide (x ≤ 191) := by rw [e]; simp [h]
      rw [e]; clear e
      go_enter Tryd.func32, Tryd.ntmps32
      go_wp2
      go_ret
      exact ⟨rfl, rfl⟩
    · have e : secB a x = false := by rw [e]; simp [h]
      rw [e]; clear e
      have d : decide (128 ≤ x) = false := decide_eq_false h
      go_enter Tryd.func32, Tryd.ntmps32
      go_wp2
      go_ret
      exact ⟨rfl, rfl⟩
end Go.Proofs.YtbmeinicjfmjlaaDoor
