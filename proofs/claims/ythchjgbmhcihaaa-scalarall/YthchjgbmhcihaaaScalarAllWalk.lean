/- The walk of ScalarAll, out of the contracts of both sides. -/
import Derived.Test.YthchjgbmhcihaaaScalarRef
import Derived.Lib.Hide
namespace Go.Proofs.Ythchjgbmhcihaaa
open Go.ChangeShapes Go.WideShapes Go.ChangeAt Go.RowKit
set_option linter.unusedVariables false

set_option maxHeartbeats 1000000 in
theorem all_walk (c u v : Int) (w : World) (c0 : -2147483648 ≤ c) (c1 : c ≤ 2147483647) (u0 : 0 ≤ u) (u1 : u ≤ 65535) (v0 : 0 ≤ v) (v1 : v ≤ 65535) :
    Calls Try.prog 3 #[.int .i32 c, .int .u16 u, .int .u16 v] w fun e w' => e = .returned (.bool true) ∧ w = w' := by
  by_cases hc : 65536 ≤ c ∧ c ≤ 1114111
  · obtain ⟨p, q⟩ := hc
    by_cases hj : (55296 ≤ u ∧ u ≤ 56319) ∧ 56320 ≤ v ∧ v ≤ 57343
    · obtain ⟨⟨j0, j1⟩, j2, j3⟩ := hj
      go_enter Try.func3, Try.ntmps3
      go_wp2_with (first
        | (go_at_call 7; ((with_reducible refine (split_yes _ _ (by omega) (by omega)).mono ?_); rintro e w' ⟨rfl, rfl⟩))
        | (go_at_call 8; ((with_reducible refine (r_split_yes _ _ (by omega) (by omega)).mono ?_); rintro e w' ⟨rfl, rfl⟩))
        | (go_at_call 9; ((with_reducible refine (join_yes _ _ _ (by omega) (by omega) (by omega) (by omega)).mono ?_); rintro e w' ⟨rfl, rfl⟩))
        | (go_at_call 10; ((with_reducible refine (r_join_yes _ _ _ (by omega) (by omega) (by omega) (by omega)).mono ?_); rintro e w' ⟨rfl, rfl⟩))
        | (go_at_call 11; ((with_reducible refine (is_any _ _).mono ?_); rintro e w' ⟨rfl, rfl⟩))
        | (go_at_call 12; ((with_reducible refine (r_is_any _ _).mono ?_); rintro e w' ⟨rfl, rfl⟩))
        | (go_at_call 13; ((with_reducible refine (nonchar_any _ _ (by omega) (by omega)).mono ?_); rintro e w' ⟨rfl, rfl⟩))
        | (go_at_call 14; ((with_reducible refine (r_nonchar_any _ _).mono ?_); rintro e w' ⟨rfl, rfl⟩))
        | (go_at_call 15; ((with_reducible refine (units_any _ _).mono ?_); rintro e w' ⟨rfl, rfl⟩))
        | (go_at_call 16; ((with_reducible refine (r_units_any _ _).mono ?_); rintro e w' ⟨rfl, rfl⟩))
        | (go_at_call 17; ((with_reducible refine (high_any _ _ (by omega) (by omega)).mono ?_); rintro e w' ⟨rfl, rfl⟩))
        | (go_at_call 18; ((with_reducible refine (r_high_any _ _).mono ?_); rintro e w' ⟨rfl, rfl⟩))
        | (go_at_call 19; ((with_reducible refine (low_any _ _ (by omega) (by omega)).mono ?_); rintro e w' ⟨rfl, rfl⟩))
        | (go_at_call 20; ((with_reducible refine (r_low_any _ _).mono ?_); rintro e w' ⟨rfl, rfl⟩))
        | (go_at_call 21; ((with_reducible refine (awake_any _).mono ?_); rintro e w' ⟨rfl, rfl⟩)))
      go_ret
      exact ⟨rfl, rfl⟩
    · have hn : ¬ ((55296 ≤ u ∧ u ≤ 56319) ∧ 56320 ≤ v ∧ v ≤ 57343) := hj
      have Hn := Lib.hid hn
      clear hj hn
      go_enter Try.func3, Try.ntmps3
      go_wp2_with (first
        | (go_at_call 7; ((with_reducible refine (split_yes _ _ (by omega) (by omega)).mono ?_); rintro e w' ⟨rfl, rfl⟩))
        | (go_at_call 8; ((with_reducible refine (r_split_yes _ _ (by omega) (by omega)).mono ?_); rintro e w' ⟨rfl, rfl⟩))
        | (go_at_call 9; ((with_reducible refine (join_no _ _ _ u0 u1 v0 v1 Hn.out).mono ?_); rintro e w' ⟨rfl, rfl⟩))
        | (go_at_call 10; ((with_reducible refine (r_join_no _ _ _ Hn.out).mono ?_); rintro e w' ⟨rfl, rfl⟩))
        | (go_at_call 11; ((with_reducible refine (is_any _ _).mono ?_); rintro e w' ⟨rfl, rfl⟩))
        | (go_at_call 12; ((with_reducible refine (r_is_any _ _).mono ?_); rintro e w' ⟨rfl, rfl⟩))
        | (go_at_call 13; ((with_reducible refine (nonchar_any _ _ (by omega) (by omega)).mono ?_); rintro e w' ⟨rfl, rfl⟩))
        | (go_at_call 14; ((with_reducible refine (r_nonchar_any _ _).mono ?_); rintro e w' ⟨rfl, rfl⟩))
        | (go_at_call 15; ((with_reducible refine (units_any _ _).mono ?_); rintro e w' ⟨rfl, rfl⟩))
        | (go_at_call 16; ((with_reducible refine (r_units_any _ _).mono ?_); rintro e w' ⟨rfl, rfl⟩))
        | (go_at_call 17; ((with_reducible refine (high_any _ _ (by omega) (by omega)).mono ?_); rintro e w' ⟨rfl, rfl⟩))
        | (go_at_call 18; ((with_reducible refine (r_high_any _ _).mono ?_); rintro e w' ⟨rfl, rfl⟩))
        | (go_at_call 19; ((with_reducible refine (low_any _ _ (by omega) (by omega)).mono ?_); rintro e w' ⟨rfl, rfl⟩))
        | (go_at_call 20; ((with_reducible refine (r_low_any _ _).mono ?_); rintro e w' ⟨rfl, rfl⟩))
        | (go_at_call 21; ((with_reducible refine (awake_any _).mono ?_); rintro e w' ⟨rfl, rfl⟩)))
      go_ret
      exact ⟨rfl, rfl⟩
  · have hs : c < 65536 ∨ 1114111 < c := by omega
    have Hs := Lib.hid hs
    clear hs hc
    by_cases hj : (55296 ≤ u ∧ u ≤ 56319) ∧ 56320 ≤ v ∧ v ≤ 57343
    · obtain ⟨⟨j0, j1⟩, j2, j3⟩ := hj
      go_enter Try.func3, Try.ntmps3
      go_wp2_with (first
        | (go_at_call 7; ((with_reducible refine (split_no _ _ Hs.out).mono ?_); rintro e w' ⟨rfl, rfl⟩))
        | (go_at_call 8; ((with_reducible refine (r_split_no _ _ Hs.out).mono ?_); rintro e w' ⟨rfl, rfl⟩))
        | (go_at_call 9; ((with_reducible refine (join_yes _ _ _ (by omega) (by omega) (by omega) (by omega)).mono ?_); rintro e w' ⟨rfl, rfl⟩))
        | (go_at_call 10; ((with_reducible refine (r_join_yes _ _ _ (by omega) (by omega) (by omega) (by omega)).mono ?_); rintro e w' ⟨rfl, rfl⟩))
        | (go_at_call 11; ((with_reducible refine (is_any _ _).mono ?_); rintro e w' ⟨rfl, rfl⟩))
        | (go_at_call 12; ((with_reducible refine (r_is_any _ _).mono ?_); rintro e w' ⟨rfl, rfl⟩))
        | (go_at_call 13; ((with_reducible refine (nonchar_any _ _ (by omega) (by omega)).mono ?_); rintro e w' ⟨rfl, rfl⟩))
        | (go_at_call 14; ((with_reducible refine (r_nonchar_any _ _).mono ?_); rintro e w' ⟨rfl, rfl⟩))
        | (go_at_call 15; ((with_reducible refine (units_any _ _).mono ?_); rintro e w' ⟨rfl, rfl⟩))
        | (go_at_call 16; ((with_reducible refine (r_units_any _ _).mono ?_); rintro e w' ⟨rfl, rfl⟩))
        | (go_at_call 17; ((with_reducible refine (high_any _ _ (by omega) (by omega)).mono ?_); rintro e w' ⟨rfl, rfl⟩))
        | (go_at_call 18; ((with_reducible refine (r_high_any _ _).mono ?_); rintro e w' ⟨rfl, rfl⟩))
        | (go_at_call 19; ((with_reducible refine (low_any _ _ (by omega) (by omega)).mono ?_); rintro e w' ⟨rfl, rfl⟩))
        | (go_at_call 20; ((with_reducible refine (r_low_any _ _).mono ?_); rintro e w' ⟨rfl, rfl⟩))
        | (go_at_call 21; ((with_reducible refine (awake_any _).mono ?_); rintro e w' ⟨rfl, rfl⟩)))
      go_ret
      exact ⟨rfl, rfl⟩
    · have hn : ¬ ((55296 ≤ u ∧ u ≤ 56319) ∧ 56320 ≤ v ∧ v ≤ 57343) := hj
      have Hn := Lib.hid hn
      clear hj hn
      go_enter Try.func3, Try.ntmps3
      go_wp2_with (first
        | (go_at_call 7; ((with_reducible refine (split_no _ _ Hs.out).mono ?_); rintro e w' ⟨rfl, rfl⟩))
        | (go_at_call 8; ((with_reducible refine (r_split_no _ _ Hs.out).mono ?_); rintro e w' ⟨rfl, rfl⟩))
        | (go_at_call 9; ((with_reducible refine (join_no _ _ _ u0 u1 v0 v1 Hn.out).mono ?_); rintro e w' ⟨rfl, rfl⟩))
        | (go_at_call 10; ((with_reducible refine (r_join_no _ _ _ Hn.out).mono ?_); rintro e w' ⟨rfl, rfl⟩))
        | (go_at_call 11; ((with_reducible refine (is_any _ _).mono ?_); rintro e w' ⟨rfl, rfl⟩))
        | (go_at_call 12; ((with_reducible refine (r_is_any _ _).mono ?_); rintro e w' ⟨rfl, rfl⟩))
        | (go_at_call 13; ((with_reducible refine (nonchar_any _ _ (by omega) (by omega)).mono ?_); rintro e w' ⟨rfl, rfl⟩))
        | (go_at_call 14; ((with_reducible refine (r_nonchar_any _ _).mono ?_); rintro e w' ⟨rfl, rfl⟩))
        | (go_at_call 15; ((with_reducible refine (units_any _ _).mono ?_); rintro e w' ⟨rfl, rfl⟩))
        | (go_at_call 16; ((with_reducible refine (r_units_any _ _).mono ?_); rintro e w' ⟨rfl, rfl⟩))
        | (go_at_call 17; ((with_reducible refine (high_any _ _ (by omega) (by omega)).mono ?_); rintro e w' ⟨rfl, rfl⟩))
        | (go_at_call 18; ((with_reducible refine (r_high_any _ _).mono ?_); rintro e w' ⟨rfl, rfl⟩))
        | (go_at_call 19; ((with_reducible refine (low_any _ _ (by omega) (by omega)).mono ?_); rintro e w' ⟨rfl, rfl⟩))
        | (go_at_call 20; ((with_reducible refine (r_low_any _ _).mono ?_); rintro e w' ⟨rfl, rfl⟩))
        | (go_at_call 21; ((with_reducible refine (awake_any _).mono ?_); rintro e w' ⟨rfl, rfl⟩)))
      go_ret
      exact ⟨rfl, rfl⟩
end Go.Proofs.Ythchjgbmhcihaaa
