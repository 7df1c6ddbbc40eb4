/- Contracts of the document's own layer 1 (orthoepyref01) but Is and Nonchar. -/
import Derived.Test.YtmidoopapfkilaaRefIs
namespace Go.Proofs.Ytmidoopapfkilaa
open Go.ChangeShapes Go.WideShapes Go.ChangeAt Go.RowKit
set_option linter.unusedVariables false

theorem r_high_any (c : Int) (w : World) : Calls Try.prog 26 #[.int .u16 c] w fun e w' => e = .returned (.bool (highB c)) ∧ w = w' := by
  by_cases h : 55296 ≤ c
  · have e : highB c = decide (c ≤ 56319) := by unfold highB; simp [h]
    rw [e]; clear e
    go_enter Try.func26, Try.ntmps26
    go_wp2
    go_ret
    exact ⟨rfl, rfl⟩
  · have e : highB c = false := decide_eq_false (by omega)
    rw [e]; clear e
    go_enter Try.func26, Try.ntmps26
    go_wp2
    go_ret
    exact ⟨rfl, rfl⟩

theorem r_low_any (c : Int) (w : World) : Calls Try.prog 27 #[.int .u16 c] w fun e w' => e = .returned (.bool (lowB c)) ∧ w = w' := by
  by_cases h : 56320 ≤ c
  · have e : lowB c = decide (c ≤ 57343) := by unfold lowB; simp [h]
    rw [e]; clear e
    go_enter Try.func27, Try.ntmps27
    go_wp2
    go_ret
    exact ⟨rfl, rfl⟩
  · have e : lowB c = false := decide_eq_false (by omega)
    rw [e]; clear e
    go_enter Try.func27, Try.ntmps27
    go_wp2
    go_ret
    exact ⟨rfl, rfl⟩

theorem r_split_no (c : Int) (w : World) (h : c < 65536 ∨ 1114111 < c) : Calls Try.prog 29 #[.int .i32 c] w fun e w' => e = .returned (.tuple #[.int .u16 0, .int .u16 0, .bool false]) ∧ w = w' := by
  rcases h with h | h
  · go_enter Try.func29, Try.ntmps29
    go_wp2
    go_ret3
    exact ⟨rfl, rfl⟩
  · have h' : ¬ c < 65536 := by omega
    go_enter Try.func29, Try.ntmps29
    go_wp2
    go_ret3
    exact ⟨rfl, rfl⟩

theorem r_split_yes (c : Int) (w : World) (h : 65536 ≤ c) (g : c ≤ 1114111) : Calls Try.prog 29 #[.int .i32 c] w fun e w' => e = .returned (.tuple #[.int .u16 (55296 + (c - 65536) / 1024), .int .u16 (56320 + (c - 65536) % 1024), .bool true]) ∧ w = w' := by
  go_enter Try.func29, Try.ntmps29
  go_wp2
  go_ret3
  exact ⟨rfl, rfl⟩

theorem r_join_no (h l : Int) (w : World) (hn : ¬ ((55296 ≤ h ∧ h ≤ 56319) ∧ 56320 ≤ l ∧ l ≤ 57343)) : Calls Try.prog 25 #[.int .u16 h, .int .u16 l] w fun e w' => e = .returned (.tuple #[.int .i32 0, .bool false]) ∧ w = w' := by
  by_cases hh : 55296 ≤ h ∧ h ≤ 56319
  · have a : highB h = true := decide_eq_true hh
    have b : lowB l = false := decide_eq_false (by omega)
    clear hn hh
    go_enter Try.func25, Try.ntmps25
    go_wp2_with fail
    with_reducible refine (r_high_any _ _).mono ?_
    rintro e w' ⟨rfl, rfl⟩
    go_wp2_with fail
    with_reducible refine (r_low_any _ _).mono ?_
    rintro e w' ⟨rfl, rfl⟩
    go_wp2
    go_ret2
    exact ⟨rfl, rfl⟩
  · have a : highB h = false := decide_eq_false hh
    clear hn hh
    go_enter Try.func25, Try.ntmps25
    go_wp2_with fail
    with_reducible refine (r_high_any _ _).mono ?_
    rintro e w' ⟨rfl, rfl⟩
    go_wp2
    go_ret2
    exact ⟨rfl, rfl⟩

theorem r_join_yes (h l : Int) (w : World) (h0 : 55296 ≤ h) (h1 : h ≤ 56319) (l0 : 56320 ≤ l) (l1 : l ≤ 57343) : Calls Try.prog 25 #[.int .u16 h, .int .u16 l] w fun e w' => e = .returned (.tuple #[.int .i32 (65536 + (h - 55296) * 1024 + (l - 56320)), .bool true]) ∧ w = w' := by
  have a : highB h = true := decide_eq_true ⟨h0, h1⟩
  have b : lowB l = true := decide_eq_true ⟨l0, l1⟩
  have s : 65536 + (h - 55296) * 1024 + (l - 56320) = 65536 + (h - 55296) * 1024 + l - 56320 := by omega
  rw [s]; clear s
  go_enter Try.func25, Try.ntmps25
  go_wp2_with fail
  with_reducible refine (r_high_any _ _).mono ?_
  rintro e w' ⟨rfl, rfl⟩
  go_wp2_with fail
  with_reducible refine (r_low_any _ _).mono ?_
  rintro e w' ⟨rfl, rfl⟩
  go_wp2
  go_ret2
  exact ⟨rfl, rfl⟩

theorem r_units_any (c : Int) (w : World) : Calls Try.prog 18 #[.int .i32 c] w fun e w' => e = .returned (.int .i64 (unitsI c)) ∧ w = w' := by
  cases hi : isB c
  · have hu : unitsI c = 0 := by simp [unitsI, hi]
    rw [hu]; clear hu
    go_enter Try.func18, Try.ntmps18
    go_wp2_with fail
    with_reducible refine (r_is_any _ _).mono ?_
    rintro e w' ⟨rfl, rfl⟩
    go_wp2
    go_ret
    exact ⟨rfl, rfl⟩
  · by_cases hp : 65536 ≤ c
    · have hu : unitsI c = 2 := by simp [unitsI, hi, hp]
      rw [hu]; clear hu
      go_enter Try.func18, Try.ntmps18
      go_wp2_with fail
      with_reducible refine (r_is_any _ _).mono ?_
      rintro e w' ⟨rfl, rfl⟩
      go_wp2
      go_ret
      exact ⟨rfl, rfl⟩
    · have hu : unitsI c = 1 := by simp [unitsI, hi, hp]
      rw [hu]; clear hu
      go_enter Try.func18, Try.ntmps18
      go_wp2_with fail
      with_reducible refine (r_is_any _ _).mono ?_
      rintro e w' ⟨rfl, rfl⟩
      go_wp2
      go_ret
      exact ⟨rfl, rfl⟩
end Go.Proofs.Ytmidoopapfkilaa
