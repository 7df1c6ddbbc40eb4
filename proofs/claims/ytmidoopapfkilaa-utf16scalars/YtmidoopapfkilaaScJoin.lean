/- Contracts of package scalar's functions but Nonchar: each returns what its plain twin says, at every argument, and leaves the world alone. -/
import Derived.Test.YtmidoopapfkilaaRows
import Derived.Test.YtmidoopapfkilaaScalarMath
import Derived.WalkKit
import Derived.ProofKit
import Derived.OpenShut
import Derived.WalkLawsBesides
namespace Go.Proofs.Ytmidoopapfkilaa
open Go.ChangeShapes Go.WideShapes Go.ChangeAt Go.RowKit
set_option linter.unusedVariables false

theorem kindOf_any (c : Int) (w : World) : Calls Try.prog 33 #[.int .i32 c] w fun e w' => e = .returned (.int .u8 (kd c)) ∧ w = w' := by
  rcases kd_cases c with ⟨h, e⟩ | ⟨h, e⟩ | ⟨⟨h, g⟩, e⟩ | ⟨⟨h, g⟩, e⟩ | ⟨⟨h, g⟩, e⟩ | ⟨⟨h, g⟩, e⟩ | ⟨⟨h, g⟩, e⟩
  all_goals
    rw [e]; clear e
    go_enter Try.func33, Try.ntmps33
    go_wp2
    go_ret
    exact ⟨rfl, rfl⟩

theorem has_any (k m : Int) (w : World) : Calls Try.prog 34 #[.int .u8 k, .int .u8 m] w fun e w' => e = .returned (.bool (hasB k m)) ∧ w = w' := by
  go_enter Try.func34, Try.ntmps34
  go_wp2
  go_ret
  exact ⟨rfl, rfl⟩

theorem is_any (c : Int) (w : World) : Calls Try.prog 31 #[.int .i32 c] w fun e w' => e = .returned (.bool (isB c)) ∧ w = w' := by
  rw [← has_is]
  go_enter Try.func31, Try.ntmps31
  go_wp2_with fail
  with_reducible refine (kindOf_any _ _).mono ?_
  rintro e w' ⟨rfl, rfl⟩
  go_wp2_with fail
  with_reducible refine (has_any _ _ _).mono ?_
  rintro e w' ⟨rfl, rfl⟩
  go_wp2
  go_ret
  exact ⟨rfl, rfl⟩

theorem high_any (c : Int) (w : World) (h0 : 0 ≤ c) (h1 : c ≤ 65535) : Calls Try.prog 38 #[.int .u16 c] w fun e w' => e = .returned (.bool (highB c)) ∧ w = w' := by
  rw [← has_high]
  go_enter Try.func38, Try.ntmps38
  go_wp2_with fail
  with_reducible refine (kindOf_any _ _).mono ?_
  rintro e w' ⟨rfl, rfl⟩
  go_wp2_with fail
  with_reducible refine (has_any _ _ _).mono ?_
  rintro e w' ⟨rfl, rfl⟩
  go_wp2
  go_ret
  exact ⟨rfl, rfl⟩

theorem low_any (c : Int) (w : World) (h0 : 0 ≤ c) (h1 : c ≤ 65535) : Calls Try.prog 39 #[.int .u16 c] w fun e w' => e = .returned (.bool (lowB c)) ∧ w = w' := by
  rw [← has_low]
  go_enter Try.func39, Try.ntmps39
  go_wp2_with fail
  with_reducible refine (kindOf_any _ _).mono ?_
  rintro e w' ⟨rfl, rfl⟩
  go_wp2_with fail
  with_reducible refine (has_any _ _ _).mono ?_
  rintro e w' ⟨rfl, rfl⟩
  go_wp2
  go_ret
  exact ⟨rfl, rfl⟩

theorem split_no (c : Int) (w : World) (h : c < 65536 ∨ 1114111 < c) : Calls Try.prog 40 #[.int .i32 c] w fun e w' => e = .returned (.tuple #[.int .u16 0, .int .u16 0, .bool false]) ∧ w = w' := by
  have hb : hasB (kd c) 2 = false := by rw [has_paired]; exact decide_eq_false (by omega)
  go_enter Try.func40, Try.ntmps40
  go_wp2_with fail
  with_reducible refine (kindOf_any _ _).mono ?_
  rintro e w' ⟨rfl, rfl⟩
  go_wp2_with fail
  with_reducible refine (has_any _ _ _).mono ?_
  rintro e w' ⟨rfl, rfl⟩
  go_wp2
  go_ret3
  exact ⟨rfl, rfl⟩

theorem split_yes (c : Int) (w : World) (h : 65536 ≤ c) (g : c ≤ 1114111) : Calls Try.prog 40 #[.int .i32 c] w fun e w' => e = .returned (.tuple #[.int .u16 (55296 + (c - 65536) / 1024), .int .u16 (56320 + (c - 65536) % 1024), .bool true]) ∧ w = w' := by
  have hb : hasB (kd c) 2 = true := by rw [has_paired]; exact decide_eq_true (by omega)
  have hm := mask1023 (c - 65536) (by omega) (by omega)
  go_enter Try.func40, Try.ntmps40
  go_wp2_with fail
  with_reducible refine (kindOf_any _ _).mono ?_
  rintro e w' ⟨rfl, rfl⟩
  go_wp2_with fail
  with_reducible refine (has_any _ _ _).mono ?_
  rintro e w' ⟨rfl, rfl⟩
  go_wp2
  go_ret3
  exact ⟨rfl, rfl⟩

theorem join_no (h l : Int) (w : World) (h0 : 0 ≤ h) (h1 : h ≤ 65535) (l0 : 0 ≤ l) (l1 : l ≤ 65535) (hn : ¬ ((55296 ≤ h ∧ h ≤ 56319) ∧ 56320 ≤ l ∧ l ≤ 57343)) : Calls Try.prog 32 #[.int .u16 h, .int .u16 l] w fun e w' => e = .returned (.tuple #[.int .i32 0, .bool false]) ∧ w = w' := by
  by_cases hh : 55296 ≤ h ∧ h ≤ 56319
  · have a : highB h = true := decide_eq_true hh
    have b : lowB l = false := decide_eq_false (by omega)
    clear hn hh
    go_enter Try.func32, Try.ntmps32
    go_wp2_with fail
    with_reducible refine (high_any _ _ h0 h1).mono ?_
    rintro e w' ⟨rfl, rfl⟩
    go_wp2_with fail
    with_reducible refine (low_any _ _ l0 l1).mono ?_
    rintro e w' ⟨rfl, rfl⟩
    go_wp2
    go_ret2
    exact ⟨rfl, rfl⟩
  · have a : highB h = false := decide_eq_false hh
    clear hn hh
    go_enter Try.func32, Try.ntmps32
    go_wp2_with fail
    with_reducible refine (high_any _ _ h0 h1).mono ?_
    rintro e w' ⟨rfl, rfl⟩
    go_wp2
    go_ret2
    exact ⟨rfl, rfl⟩

theorem join_yes (h l : Int) (w : World) (h0 : 55296 ≤ h) (h1 : h ≤ 56319) (l0 : 56320 ≤ l) (l1 : l ≤ 57343) : Calls Try.prog 32 #[.int .u16 h, .int .u16 l] w fun e w' => e = .returned (.tuple #[.int .i32 (65536 + (h - 55296) * 1024 + (l - 56320)), .bool true]) ∧ w = w' := by
  have a : highB h = true := decide_eq_true ⟨h0, h1⟩
  have b : lowB l = true := decide_eq_true ⟨l0, l1⟩
  go_enter Try.func32, Try.ntmps32
  go_wp2_with fail
  with_reducible refine (high_any _ _ (by omega) (by omega)).mono ?_
  rintro e w' ⟨rfl, rfl⟩
  go_wp2_with fail
  with_reducible refine (low_any _ _ (by omega) (by omega)).mono ?_
  rintro e w' ⟨rfl, rfl⟩
  go_wp2
  go_ret2
  exact ⟨rfl, rfl⟩

theorem units_any (c : Int) (w : World) : Calls Try.prog 24 #[.int .i32 c] w fun e w' => e = .returned (.int .i64 (unitsI c)) ∧ w = w' := by
  by_cases hp : 65536 ≤ c ∧ c ≤ 1114111
  · have b : hasB (kd c) 2 = true := by rw [has_paired]; exact decide_eq_true hp
    have hu : unitsI c = 2 := by
      have : isB c = true := decide_eq_true (by omega)
      simp [unitsI, this, hp.1]
    rw [hu]; clear hu hp
    go_enter Try.func24, Try.ntmps24
    go_wp2_with fail
    with_reducible refine (kindOf_any _ _).mono ?_
    rintro e w' ⟨rfl, rfl⟩
    go_wp2_with fail
    with_reducible refine (has_any _ _ _).mono ?_
    rintro e w' ⟨rfl, rfl⟩
    go_wp2
    go_ret
    exact ⟨rfl, rfl⟩
  have b : hasB (kd c) 2 = false := by rw [has_paired]; exact decide_eq_false hp
  cases hi : isB c
  · have b1 : hasB (kd c) 1 = false := by rw [has_is, hi]
    have hu : unitsI c = 0 := by simp [unitsI, hi]
    rw [hu]; clear hu hp hi
    go_enter Try.func24, Try.ntmps24
    go_wp2_with fail
    with_reducible refine (kindOf_any _ _).mono ?_
    rintro e w' ⟨rfl, rfl⟩
    go_wp2_with fail
    with_reducible refine (has_any _ _ _).mono ?_
    rintro e w' ⟨rfl, rfl⟩
    go_wp2_with fail
    with_reducible refine (has_any _ _ _).mono ?_
    rintro e w' ⟨rfl, rfl⟩
    go_wp2
    go_ret
    exact ⟨rfl, rfl⟩
  · have b1 : hasB (kd c) 1 = true := by rw [has_is, hi]
    have hu : unitsI c = 1 := by
      have := of_decide_eq_true hi
      have hc : ¬ 65536 ≤ c := by omega
      simp [unitsI, hi, hc]
    rw [hu]; clear hu hp hi
    go_enter Try.func24, Try.ntmps24
    go_wp2_with fail
    with_reducible refine (kindOf_any _ _).mono ?_
    rintro e w' ⟨rfl, rfl⟩
    go_wp2_with fail
    with_reducible refine (has_any _ _ _).mono ?_
    rintro e w' ⟨rfl, rfl⟩
    go_wp2_with fail
    with_reducible refine (has_any _ _ _).mono ?_
    rintro e w' ⟨rfl, rfl⟩
    go_wp2
    go_ret
    exact ⟨rfl, rfl⟩
end Go.Proofs.Ytmidoopapfkilaa
