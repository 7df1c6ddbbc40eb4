/- The walk of ScalarBack, out of the contracts. -/
import Derived.Test.YthchjgbmhcihaaaScalarAwake
namespace Go.Proofs.Ythchjgbmhcihaaa
open Go.ChangeShapes Go.WideShapes Go.ChangeAt Go.RowKit
set_option linter.unusedVariables false

theorem tmod_bd2 (a k : Int) (hk : 0 < k) : -k < a.tmod k ∧ a.tmod k < k := by
  have h1 := Int.tmod_lt_of_pos a hk
  have h2 := Int.lt_tmod_of_pos a hk
  omega

theorem split_k (k : Int) (w : World) (h : 0 ≤ k) (g : k < 1048576) : Calls Try.prog 7 #[.int .i32 (65536 + k)] w fun e w' => e = .returned (.tuple #[.int .u16 (55296 + k / 1024), .int .u16 (56320 + k % 1024), .bool true]) ∧ w = w' := by
  have e : 65536 + k - 65536 = k := by omega
  have h := split_yes (65536 + k) w (by omega) (by omega)
  rw [e] at h
  exact h
theorem join_k (k : Int) (w : World) (h : 0 ≤ k) (g : k < 1048576) : Calls Try.prog 9 #[.int .u16 (55296 + k / 1024), .int .u16 (56320 + k % 1024)] w fun e w' => e = .returned (.tuple #[.int .i32 (65536 + k), .bool true]) ∧ w = w' := by
  have e : 65536 + (55296 + k / 1024 - 55296) * 1024 + (56320 + k % 1024 - 56320) = 65536 + k := by omega
  have h := join_yes (55296 + k / 1024) (56320 + k % 1024) w (by omega) (by omega) (by omega) (by omega)
  rw [e] at h
  exact h

set_option maxHeartbeats 1000000 in
theorem back_yes_neg (a0 k x : Int) (w : World) (ht : a0.tmod 1048576 = -k) (h0 : 0 < k) (h1 : k < 1048576) (x0 : 0 ≤ x) (x1 : x < 1048576) :
    Calls Try.prog 4 #[.int .i64 a0, .int .u16 (55296 + x / 1024), .int .u16 (56320 + x % 1024)] w fun e w' => e = .returned (.bool true) ∧ w = w' := by
  have f1k : highB (55296 + k / 1024) = true := decide_eq_true (by omega)
  have f2k : lowB (55296 + k / 1024) = false := decide_eq_false (by omega)
  have f3k : lowB (56320 + k % 1024) = true := decide_eq_true (by omega)
  have f4k : highB (56320 + k % 1024) = false := decide_eq_false (by omega)
  have f5k : isB (65536 + k) = true := decide_eq_true (by omega)
  have f1x : highB (55296 + x / 1024) = true := decide_eq_true (by omega)
  have f2x : lowB (55296 + x / 1024) = false := decide_eq_false (by omega)
  have f3x : lowB (56320 + x % 1024) = true := decide_eq_true (by omega)
  have f4x : highB (56320 + x % 1024) = false := decide_eq_false (by omega)
  have f5x : isB (65536 + x) = true := decide_eq_true (by omega)
  go_enter Try.func4, Try.ntmps4
  go_wp2_with (first
    | (go_at_call 7; ((with_reducible refine (split_k _ _ (by omega) (by omega)).mono ?_); rintro e w' ⟨rfl, rfl⟩))
    | (go_at_call 9; ((with_reducible refine (join_k _ _ (by omega) (by omega)).mono ?_); rintro e w' ⟨rfl, rfl⟩))
    | (go_at_call 17; ((with_reducible refine (high_any _ _ (by omega) (by omega)).mono ?_); rintro e w' ⟨rfl, rfl⟩))
    | (go_at_call 19; ((with_reducible refine (low_any _ _ (by omega) (by omega)).mono ?_); rintro e w' ⟨rfl, rfl⟩))
    | (go_at_call 11; ((with_reducible refine (is_any _ _).mono ?_); rintro e w' ⟨rfl, rfl⟩))
    | (go_at_call 21; ((with_reducible refine (awake_any _).mono ?_); rintro e w' ⟨rfl, rfl⟩)))
  go_ret
  exact ⟨rfl, rfl⟩

set_option maxHeartbeats 1000000 in
theorem back_no_neg (a0 k u v : Int) (w : World) (ht : a0.tmod 1048576 = -k) (h0 : 0 < k) (h1 : k < 1048576) (u0 : 0 ≤ u) (u1 : u ≤ 65535) (v0 : 0 ≤ v) (v1 : v ≤ 65535)
    (hn : ¬ ((55296 ≤ u ∧ u ≤ 56319) ∧ 56320 ≤ v ∧ v ≤ 57343)) :
    Calls Try.prog 4 #[.int .i64 a0, .int .u16 u, .int .u16 v] w fun e w' => e = .returned (.bool true) ∧ w = w' := by
  have f1k : highB (55296 + k / 1024) = true := decide_eq_true (by omega)
  have f2k : lowB (55296 + k / 1024) = false := decide_eq_false (by omega)
  have f3k : lowB (56320 + k % 1024) = true := decide_eq_true (by omega)
  have f4k : highB (56320 + k % 1024) = false := decide_eq_false (by omega)
  have f5k : isB (65536 + k) = true := decide_eq_true (by omega)
  by_cases hh : 55296 ≤ u ∧ u ≤ 56319
  · have a : highB u = true := decide_eq_true hh
    have b : lowB v = false := decide_eq_false (by omega)
    have nv : v < 56320 ∨ 57343 < v := by omega
    obtain ⟨hh1, hh2⟩ := hh
    clear hn
    go_enter Try.func4, Try.ntmps4
    go_wp2_with (first
    | (go_at_call 7; ((with_reducible refine (split_k _ _ (by omega) (by omega)).mono ?_); rintro e w' ⟨rfl, rfl⟩))
    | (go_at_call 9; ((with_reducible refine (join_k _ _ (by omega) (by omega)).mono ?_); rintro e w' ⟨rfl, rfl⟩))
    | (go_at_call 9; ((with_reducible refine (join_no _ _ _ (by omega) (by omega) (by omega) (by omega) (by omega)).mono ?_); rintro e w' ⟨rfl, rfl⟩))
    | (go_at_call 17; ((with_reducible refine (high_any _ _ (by omega) (by omega)).mono ?_); rintro e w' ⟨rfl, rfl⟩))
    | (go_at_call 19; ((with_reducible refine (low_any _ _ (by omega) (by omega)).mono ?_); rintro e w' ⟨rfl, rfl⟩))
    | (go_at_call 11; ((with_reducible refine (is_any _ _).mono ?_); rintro e w' ⟨rfl, rfl⟩))
    | (go_at_call 21; ((with_reducible refine (awake_any _).mono ?_); rintro e w' ⟨rfl, rfl⟩)))
    go_ret
    exact ⟨rfl, rfl⟩
  · have a : highB u = false := decide_eq_false hh
    have nu : u < 55296 ∨ 56319 < u := by omega
    clear hn hh
    go_enter Try.func4, Try.ntmps4
    go_wp2_with (first
    | (go_at_call 7; ((with_reducible refine (split_k _ _ (by omega) (by omega)).mono ?_); rintro e w' ⟨rfl, rfl⟩))
    | (go_at_call 9; ((with_reducible refine (join_k _ _ (by omega) (by omega)).mono ?_); rintro e w' ⟨rfl, rfl⟩))
    | (go_at_call 9; ((with_reducible refine (join_no _ _ _ (by omega) (by omega) (by omega) (by omega) (by omega)).mono ?_); rintro e w' ⟨rfl, rfl⟩))
    | (go_at_call 17; ((with_reducible refine (high_any _ _ (by omega) (by omega)).mono ?_); rintro e w' ⟨rfl, rfl⟩))
    | (go_at_call 19; ((with_reducible refine (low_any _ _ (by omega) (by omega)).mono ?_); rintro e w' ⟨rfl, rfl⟩))
    | (go_at_call 11; ((with_reducible refine (is_any _ _).mono ?_); rintro e w' ⟨rfl, rfl⟩))
    | (go_at_call 21; ((with_reducible refine (awake_any _).mono ?_); rintro e w' ⟨rfl, rfl⟩)))
    go_ret
    exact ⟨rfl, rfl⟩

set_option maxHeartbeats 1000000 in
theorem back_yes_pos (a0 k x : Int) (w : World) (ht : a0.tmod 1048576 = k) (h0 : 0 ≤ k) (h1 : k < 1048576) (x0 : 0 ≤ x) (x1 : x < 1048576) :
    Calls Try.prog 4 #[.int .i64 a0, .int .u16 (55296 + x / 1024), .int .u16 (56320 + x % 1024)] w fun e w' => e = .returned (.bool true) ∧ w = w' := by
  have f1k : highB (55296 + k / 1024) = true := decide_eq_true (by omega)
  have f2k : lowB (55296 + k / 1024) = false := decide_eq_false (by omega)
  have f3k : lowB (56320 + k % 1024) = true := decide_eq_true (by omega)
  have f4k : highB (56320 + k % 1024) = false := decide_eq_false (by omega)
  have f5k : isB (65536 + k) = true := decide_eq_true (by omega)
  have f1x : highB (55296 + x / 1024) = true := decide_eq_true (by omega)
  have f2x : lowB (55296 + x / 1024) = false := decide_eq_false (by omega)
  have f3x : lowB (56320 + x % 1024) = true := decide_eq_true (by omega)
  have f4x : highB (56320 + x % 1024) = false := decide_eq_false (by omega)
  have f5x : isB (65536 + x) = true := decide_eq_true (by omega)
  go_enter Try.func4, Try.ntmps4
  go_wp2_with (first
    | (go_at_call 7; ((with_reducible refine (split_k _ _ (by omega) (by omega)).mono ?_); rintro e w' ⟨rfl, rfl⟩))
    | (go_at_call 9; ((with_reducible refine (join_k _ _ (by omega) (by omega)).mono ?_); rintro e w' ⟨rfl, rfl⟩))
    | (go_at_call 17; ((with_reducible refine (high_any _ _ (by omega) (by omega)).mono ?_); rintro e w' ⟨rfl, rfl⟩))
    | (go_at_call 19; ((with_reducible refine (low_any _ _ (by omega) (by omega)).mono ?_); rintro e w' ⟨rfl, rfl⟩))
    | (go_at_call 11; ((with_reducible refine (is_any _ _).mono ?_); rintro e w' ⟨rfl, rfl⟩))
    | (go_at_call 21; ((with_reducible refine (awake_any _).mono ?_); rintro e w' ⟨rfl, rfl⟩)))
  go_ret
  exact ⟨rfl, rfl⟩

set_option maxHeartbeats 1000000 in
theorem back_no_pos (a0 k u v : Int) (w : World) (ht : a0.tmod 1048576 = k) (h0 : 0 ≤ k) (h1 : k < 1048576) (u0 : 0 ≤ u) (u1 : u ≤ 65535) (v0 : 0 ≤ v) (v1 : v ≤ 65535)
    (hn : ¬ ((55296 ≤ u ∧ u ≤ 56319) ∧ 56320 ≤ v ∧ v ≤ 57343)) :
    Calls Try.prog 4 #[.int .i64 a0, .int .u16 u, .int .u16 v] w fun e w' => e = .returned (.bool true) ∧ w = w' := by
  have f1k : highB (55296 + k / 1024) = true := decide_eq_true (by omega)
  have f2k : lowB (55296 + k / 1024) = false := decide_eq_false (by omega)
  have f3k : lowB (56320 + k % 1024) = true := decide_eq_true (by omega)
  have f4k : highB (56320 + k % 1024) = false := decide_eq_false (by omega)
  have f5k : isB (65536 + k) = true := decide_eq_true (by omega)
  by_cases hh : 55296 ≤ u ∧ u ≤ 56319
  · have a : highB u = true := decide_eq_true hh
    have b : lowB v = false := decide_eq_false (by omega)
    have nv : v < 56320 ∨ 57343 < v := by omega
    obtain ⟨hh1, hh2⟩ := hh
    clear hn
    go_enter Try.func4, Try.ntmps4
    go_wp2_with (first
    | (go_at_call 7; ((with_reducible refine (split_k _ _ (by omega) (by omega)).mono ?_); rintro e w' ⟨rfl, rfl⟩))
    | (go_at_call 9; ((with_reducible refine (join_k _ _ (by omega) (by omega)).mono ?_); rintro e w' ⟨rfl, rfl⟩))
    | (go_at_call 9; ((with_reducible refine (join_no _ _ _ (by omega) (by omega) (by omega) (by omega) (by omega)).mono ?_); rintro e w' ⟨rfl, rfl⟩))
    | (go_at_call 17; ((with_reducible refine (high_any _ _ (by omega) (by omega)).mono ?_); rintro e w' ⟨rfl, rfl⟩))
    | (go_at_call 19; ((with_reducible refine (low_any _ _ (by omega) (by omega)).mono ?_); rintro e w' ⟨rfl, rfl⟩))
    | (go_at_call 11; ((with_reducible refine (is_any _ _).mono ?_); rintro e w' ⟨rfl, rfl⟩))
    | (go_at_call 21; ((with_reducible refine (awake_any _).mono ?_); rintro e w' ⟨rfl, rfl⟩)))
    go_ret
    exact ⟨rfl, rfl⟩
  · have a : highB u = false := decide_eq_false hh
    have nu : u < 55296 ∨ 56319 < u := by omega
    clear hn hh
    go_enter Try.func4, Try.ntmps4
    go_wp2_with (first
    | (go_at_call 7; ((with_reducible refine (split_k _ _ (by omega) (by omega)).mono ?_); rintro e w' ⟨rfl, rfl⟩))
    | (go_at_call 9; ((with_reducible refine (join_k _ _ (by omega) (by omega)).mono ?_); rintro e w' ⟨rfl, rfl⟩))
    | (go_at_call 9; ((with_reducible refine (join_no _ _ _ (by omega) (by omega) (by omega) (by omega) (by omega)).mono ?_); rintro e w' ⟨rfl, rfl⟩))
    | (go_at_call 17; ((with_reducible refine (high_any _ _ (by omega) (by omega)).mono ?_); rintro e w' ⟨rfl, rfl⟩))
    | (go_at_call 19; ((with_reducible refine (low_any _ _ (by omega) (by omega)).mono ?_); rintro e w' ⟨rfl, rfl⟩))
    | (go_at_call 11; ((with_reducible refine (is_any _ _).mono ?_); rintro e w' ⟨rfl, rfl⟩))
    | (go_at_call 21; ((with_reducible refine (awake_any _).mono ?_); rintro e w' ⟨rfl, rfl⟩)))
    go_ret
    exact ⟨rfl, rfl⟩

theorem back_walk (a0 u v : Int) (w : World) (u0 : 0 ≤ u) (u1 : u ≤ 65535) (v0 : 0 ≤ v) (v1 : v ≤ 65535) :
    Calls Try.prog 4 #[.int .i64 a0, .int .u16 u, .int .u16 v] w fun e w' => e = .returned (.bool true) ∧ w = w' := by
  have hb := tmod_bd2 a0 1048576 (by omega)
  by_cases hy : (55296 ≤ u ∧ u ≤ 56319) ∧ 56320 ≤ v ∧ v ≤ 57343
  · obtain ⟨x, rfl, rfl, x0, x1⟩ : ∃ x, u = 55296 + x / 1024 ∧ v = 56320 + x % 1024 ∧ 0 ≤ x ∧ x < 1048576 :=
      ⟨(u - 55296) * 1024 + (v - 56320), by omega, by omega, by omega, by omega⟩
    by_cases hneg : a0.tmod 1048576 < 0
    · exact back_yes_neg a0 (-(a0.tmod 1048576)) x w (by omega) (by omega) (by omega) x0 x1
    · exact back_yes_pos a0 (a0.tmod 1048576) x w rfl (by omega) (by omega) x0 x1
  · by_cases hneg : a0.tmod 1048576 < 0
    · exact back_no_neg a0 (-(a0.tmod 1048576)) u v w (by omega) (by omega) (by omega) u0 u1 v0 v1 hy
    · exact back_no_pos a0 (a0.tmod 1048576) u v w rfl (by omega) (by omega) u0 u1 v0 v1 hy
end Go.Proofs.Ythchjgbmhcihaaa
