/- Contracts of the document's own layer 1 (orthoepyref01): the same plain twins. -/
import Derived.Test.YthchjgbmhcihaaaScalarAwake
namespace Go.Proofs.Ythchjgbmhcihaaa
open Go.ChangeShapes Go.WideShapes Go.ChangeAt Go.RowKit
set_option linter.unusedVariables false

theorem r_is_any (c : Int) (w : World) : Calls Try.prog 12 #[.int .i32 c] w fun e w' => e = .returned (.bool (isB c)) ∧ w = w' := by
  rcases cls c with h | h | ⟨h, g⟩ | ⟨h, g⟩ | ⟨h, g⟩ | ⟨h, g⟩ | ⟨h, g⟩
  · have e : isB c = false := decide_eq_false (by omega)
    rw [e]; clear e
    go_enter Try.func12, Try.ntmps12
    go_wp2
    go_ret
    exact ⟨rfl, rfl⟩
  · have e : isB c = false := decide_eq_false (by omega)
    rw [e]; clear e
    have d : decide (c ≤ 1114111) = false := decide_eq_false (by omega)
    have d0 : decide (c < 55296) = false := decide_eq_false (by omega)
    go_enter Try.func12, Try.ntmps12
    go_wp2
    go_ret
    exact ⟨rfl, rfl⟩
  · have e : isB c = true := decide_eq_true (by omega)
    rw [e]; clear e
    have d : decide (c ≤ 1114111) = true := decide_eq_true (by omega)
    go_enter Try.func12, Try.ntmps12
    go_wp2
    go_ret
    exact ⟨rfl, rfl⟩
  · have e : isB c = true := decide_eq_true (by omega)
    rw [e]; clear e
    go_enter Try.func12, Try.ntmps12
    go_wp2
    go_ret
    exact ⟨rfl, rfl⟩
  · have e : isB c = true := decide_eq_true (by omega)
    rw [e]; clear e
    have d : decide (c ≤ 1114111) = true := decide_eq_true (by omega)
    go_enter Try.func12, Try.ntmps12
    go_wp2
    go_ret
    exact ⟨rfl, rfl⟩
  · have e : isB c = false := decide_eq_false (by omega)
    rw [e]; clear e
    have d0 : decide (c < 55296) = false := decide_eq_false (by omega)
    go_enter Try.func12, Try.ntmps12
    go_wp2
    go_ret
    exact ⟨rfl, rfl⟩
  · have e : isB c = false := decide_eq_false (by omega)
    rw [e]; clear e
    have d0 : decide (c < 55296) = false := decide_eq_false (by omega)
    go_enter Try.func12, Try.ntmps12
    go_wp2
    go_ret
    exact ⟨rfl, rfl⟩

theorem r_high_any (c : Int) (w : World) : Calls Try.prog 18 #[.int .u16 c] w fun e w' => e = .returned (.bool (highB c)) ∧ w = w' := by
  by_cases h : 55296 ≤ c
  · have e : highB c = decide (c ≤ 56319) := by unfold highB; simp [h]
    rw [e]; clear e
    go_enter Try.func18, Try.ntmps18
    go_wp2
    go_ret
    exact ⟨rfl, rfl⟩
  · have e : highB c = false := decide_eq_false (by omega)
    rw [e]; clear e
    go_enter Try.func18, Try.ntmps18
    go_wp2
    go_ret
    exact ⟨rfl, rfl⟩

theorem r_low_any (c : Int) (w : World) : Calls Try.prog 20 #[.int .u16 c] w fun e w' => e = .returned (.bool (lowB c)) ∧ w = w' := by
  by_cases h : 56320 ≤ c
  · have e : lowB c = decide (c ≤ 57343) := by unfold lowB; simp [h]
    rw [e]; clear e
    go_enter Try.func20, Try.ntmps20
    go_wp2
    go_ret
    exact ⟨rfl, rfl⟩
  · have e : lowB c = false := decide_eq_false (by omega)
    rw [e]; clear e
    go_enter Try.func20, Try.ntmps20
    go_wp2
    go_ret
    exact ⟨rfl, rfl⟩

theorem r_nonchar_any (c : Int) (w : World) : Calls Try.prog 14 #[.int .i32 c] w fun e w' => e = .returned (.bool (noncharB c)) ∧ w = w' := by
  by_cases hr : 64976 ≤ c ∧ c ≤ 65007
  · obtain ⟨h, g⟩ := hr
    have hn : noncharB c = true := decide_eq_true (by omega)
    rw [hn]; clear hn
    go_enter Try.func14, Try.ntmps14
    go_wp2
    go_ret
    exact ⟨rfl, rfl⟩
  by_cases hi : isB c = true
  · have hi' := of_decide_eq_true hi
    have hc0 : 0 ≤ c := by omega
    have hn : noncharB c = decide (65534 ≤ c % 65536) := by
      unfold noncharB
      by_cases h : 65534 ≤ c % 65536
      · rw [decide_eq_true h, decide_eq_true (by omega)]
      · rw [decide_eq_false h, decide_eq_false (by omega)]
    rw [hn]; clear hn hi'
    by_cases hlo : 64976 ≤ c
    case' pos => have d0 : decide (c ≤ 65007) = false := decide_eq_false (by omega)
    all_goals
      go_enter Try.func14, Try.ntmps14
      go_wp2_with fail
      with_reducible refine (r_is_any _ _).mono ?_
      rintro e w' ⟨rfl, rfl⟩
      go_wp2
      go_ret
      exact ⟨rfl, rfl⟩
  · have hi' := of_decide_eq_false (Bool.eq_false_iff.2 hi)
    have hf : isB c = false := Bool.eq_false_iff.2 hi
    have hn : noncharB c = false := decide_eq_false (by omega)
    rw [hn]; clear hn hi hi'
    by_cases hlo : 64976 ≤ c
    case' pos => have d0 : decide (c ≤ 65007) = false := decide_eq_false (by omega)
    all_goals
      go_enter Try.func14, Try.ntmps14
      go_wp2_with fail
      with_reducible refine (r_is_any _ _).mono ?_
      rintro e w' ⟨rfl, rfl⟩
      go_wp2
      go_ret
      exact ⟨rfl, rfl⟩

theorem r_split_no (c : Int) (w : World) (h : c < 65536 ∨ 1114111 < c) : Calls Try.prog 8 #[.int .i32 c] w fun e w' => e = .returned (.tuple #[.int .u16 0, .int .u16 0, .bool false]) ∧ w = w' := by
  rcases h with h | h
  · go_enter Try.func8, Try.ntmps8
    go_wp2
    go_ret3
    exact ⟨rfl, rfl⟩
  · have h' : ¬ c < 65536 := by omega
    go_enter Try.func8, Try.ntmps8
    go_wp2
    go_ret3
    exact ⟨rfl, rfl⟩

theorem r_split_yes (c : Int) (w : World) (h : 65536 ≤ c) (g : c ≤ 1114111) : Calls Try.prog 8 #[.int .i32 c] w fun e w' => e = .returned (.tuple #[.int .u16 (55296 + (c - 65536) / 1024), .int .u16 (56320 + (c - 65536) % 1024), .bool true]) ∧ w = w' := by
  go_enter Try.func8, Try.ntmps8
  go_wp2
  go_ret3
  exact ⟨rfl, rfl⟩

theorem r_join_no (h l : Int) (w : World) (hn : ¬ ((55296 ≤ h ∧ h ≤ 56319) ∧ 56320 ≤ l ∧ l ≤ 57343)) : Calls Try.prog 10 #[.int .u16 h, .int .u16 l] w fun e w' => e = .returned (.tuple #[.int .i32 0, .bool false]) ∧ w = w' := by
  by_cases hh : 55296 ≤ h ∧ h ≤ 56319
  · have a : highB h = true := decide_eq_true hh
    have b : lowB l = false := decide_eq_false (by omega)
    clear hn hh
    go_enter Try.func10, Try.ntmps10
    go_wp2_with fail
    with_reducible refine (r_high_any _ _).mono ?_
    rintro e w' ⟨rfl, rfl⟩
    go_wp2_with fail
    with_reducible refine (r_low_any _ _).mono ?_
    rintro e w' ⟨rfl, rfl⟩
    go_wp2
    go_ret2
    exact ⟨rfl, rfl⟩
  · have a : highB h = false := decide_eq_false hh
    clear hn hh
    go_enter Try.func10, Try.ntmps10
    go_wp2_with fail
    with_reducible refine (r_high_any _ _).mono ?_
    rintro e w' ⟨rfl, rfl⟩
    go_wp2
    go_ret2
    exact ⟨rfl, rfl⟩

theorem r_join_yes (h l : Int) (w : World) (h0 : 55296 ≤ h) (h1 : h ≤ 56319) (l0 : 56320 ≤ l) (l1 : l ≤ 57343) : Calls Try.prog 10 #[.int .u16 h, .int .u16 l] w fun e w' => e = .returned (.tuple #[.int .i32 (65536 + (h - 55296) * 1024 + (l - 56320)), .bool true]) ∧ w = w' := by
  have a : highB h = true := decide_eq_true ⟨h0, h1⟩
  have b : lowB l = true := decide_eq_true ⟨l0, l1⟩
  have s : 65536 + (h - 55296) * 1024 + (l - 56320) = 65536 + (h - 55296) * 1024 + l - 56320 := by omega
  rw [s]; clear s
  go_enter Try.func10, Try.ntmps10
  go_wp2_with fail
  with_reducible refine (r_high_any _ _).mono ?_
  rintro e w' ⟨rfl, rfl⟩
  go_wp2_with fail
  with_reducible refine (r_low_any _ _).mono ?_
  rintro e w' ⟨rfl, rfl⟩
  go_wp2
  go_ret2
  exact ⟨rfl, rfl⟩

theorem r_units_any (c : Int) (w : World) : Calls Try.prog 16 #[.int .i32 c] w fun e w' => e = .returned (.int .i64 (unitsI c)) ∧ w = w' := by
  cases hi : isB c
  · have hu : unitsI c = 0 := by simp [unitsI, hi]
    rw [hu]; clear hu
    go_enter Try.func16, Try.ntmps16
    go_wp2_with fail
    with_reducible refine (r_is_any _ _).mono ?_
    rintro e w' ⟨rfl, rfl⟩
    go_wp2
    go_ret
    exact ⟨rfl, rfl⟩
  · by_cases hp : 65536 ≤ c
    · have hu : unitsI c = 2 := by simp [unitsI, hi, hp]
      rw [hu]; clear hu
      go_enter Try.func16, Try.ntmps16
      go_wp2_with fail
      with_reducible refine (r_is_any _ _).mono ?_
      rintro e w' ⟨rfl, rfl⟩
      go_wp2
      go_ret
      exact ⟨rfl, rfl⟩
    · have hu : unitsI c = 1 := by simp [unitsI, hi, hp]
      rw [hu]; clear hu
      go_enter Try.func16, Try.ntmps16
      go_wp2_with fail
      with_reducible refine (r_is_any _ _).mono ?_
      rintro e w' ⟨rfl, rfl⟩
      go_wp2
      go_ret
      exact ⟨rfl, rfl⟩
end Go.Proofs.Ythchjgbmhcihaaa
