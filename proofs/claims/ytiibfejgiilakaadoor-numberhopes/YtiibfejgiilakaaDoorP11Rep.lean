/- strings.Repeat of "0", at most sixteen times, by its contract. -/
import Derived.Test.YtiibfejgiilakaaDoorP10Pre
import Derived.Test.YtiibfejgiilakaaDoorP11Next
namespace Go.Proofs.YtiibfejgiilakaaDoor
set_option maxRecDepth 100000
open Go.ChangeShapes Go.WideShapes Go.ChangeAt Go.RowKit
set_option linter.unusedVariables false
set_option linter.unusedSimpArgs false

set_option maxHeartbeats 1000000 in
theorem mul64_any (k : Nat) (h0 : 2 ≤ k) (h1 : k ≤ 16) (w : World) : Calls Tryd.prog 58 #[.int .u64 1, .int .u64 (k : Int)] w fun e w' => e = .returned (.tuple #[.int .u64 0, .int .u64 (k : Int)]) ∧ w = w' := by
  have h : k = 2 ∨ k = 3 ∨ k = 4 ∨ k = 5 ∨ k = 6 ∨ k = 7 ∨ k = 8 ∨ k = 9 ∨ k = 10 ∨ k = 11 ∨ k = 12 ∨ k = 13 ∨ k = 14 ∨ k = 15 ∨ k = 16 := by omega
  rcases h with rfl | rfl | rfl | rfl | rfl | rfl | rfl | rfl | rfl | rfl | rfl | rfl | rfl | rfl | rfl
  all_goals
    go_enter Tryd.func58, Tryd.ntmps58
    go_wp2
    go_ret2
    exact ⟨rfl, rfl⟩
set_option maxHeartbeats 1000000 in
theorem mul_any (k : Nat) (h0 : 2 ≤ k) (h1 : k ≤ 16) (w : World) : Calls Tryd.prog 47 #[.int .u64 1, .int .u64 (k : Int)] w fun e w' => e = .returned (.tuple #[.int .u64 0, .int .u64 (k : Int)]) ∧ w = w' := by
  have HM := Lib.hid (fun W => mul64_any k h0 h1 W)
  go_enter Tryd.func47, Tryd.ntmps47
  go_wp2_with fail
  with_reducible refine (HM.out _).mono ?_
  rintro e w1 ⟨rfl, rfl⟩
  go_wp2
  go_ret2
  exact ⟨rfl, rfl⟩
set_option maxHeartbeats 1000000 in
theorem hasPrefixS_any (s : ByteArray) (c : UInt8) (w : World) (hs : s.size ≤ 1000000) : Calls Tryd.prog 48 #[.string s, .string ⟨#[c]⟩] w fun e w' => e = .returned (.bool (hdB s c)) ∧ w = w' := by
  have HC := Lib.hid (fun W => hasPrefix_any s c W hs)
  generalize (⟨#[c]⟩ : ByteArray) = p at *
  generalize hdB s c = b at *
  go_enter Tryd.func48, Tryd.ntmps48
  go_wp2_with fail
  with_reducible refine (HC.out _).mono ?_
  rintro e w1 ⟨rfl, rfl⟩
  go_wp2
  go_ret
  exact ⟨rfl, rfl⟩
/-- so many noughts -/
def zerosS (k : Nat) : ByteArray := bs (List.replicate k 48)
theorem zerosS_size (k : Nat) : (zerosS k).size = k := by unfold zerosS; rw [bs_size, List.length_replicate]
set_option maxHeartbeats 4000000 in
theorem repeat_any (k : Nat) (h1 : k ≤ 16) (w : World) : Calls Tryd.prog 44 #[.string ⟨#[48]⟩, .int .i64 (k : Int)] w fun e w' => e = .returned (.string (zerosS k)) ∧ w = w' := by
  by_cases k0 : k = 0
  · subst k0
    go_enter Tryd.func44, Tryd.ntmps44
    go_wp2
    go_ret
    exact ⟨rfl, rfl⟩
  by_cases k1 : k = 1
  · subst k1
    go_enter Tryd.func44, Tryd.ntmps44
    go_wp2
    go_ret
    exact ⟨rfl, rfl⟩
  have h2 : 2 ≤ k := by omega
  have h128 : (k : Int) ≤ 128 := by omega
  have h64 : (k : Int) ≤ 64 := by omega
  have HP : Hid (∀ (s : ByteArray) (W : World) (b : Bool), s.size ≤ 1000000 → hdB s 48 = b → Calls Tryd.prog 48 #[.string s, .string ⟨#[48]⟩] W fun e w' => e = .returned (.bool b) ∧ W = w') := Lib.hid (fun s W b hs hb => by rw [← hb]; exact hasPrefixS_any s 48 W hs)
  have HM := Lib.hid (fun W => mul_any k h2 h1 W)
  go_enter Tryd.func44, Tryd.ntmps44
  go_wp2_with fail
  with_reducible refine (HM.out _).mono ?_
  rintro e w1 ⟨rfl, rfl⟩
  go_wp2_with fail
  refine Calls.mono (HP.out _ _ false (by decide) (by rfl)) ?_
  rintro e w1 ⟨rfl, rfl⟩
  go_wp2_with fail
  refine Calls.mono (HP.out _ _ false (by decide) (by rfl)) ?_
  rintro e w1 ⟨rfl, rfl⟩
  go_wp2_with fail
  refine Calls.mono (HP.out _ _ true (by decide) (by rfl)) ?_
  rintro e w1 ⟨rfl, rfl⟩
  go_wp2_with fail
  go_ret
  refine ⟨?_, rfl⟩
  refine congrArg (fun s => Ending.returned (.string s)) (a₂ := zerosS k) ?_
  have h : k = 2 ∨ k = 3 ∨ k = 4 ∨ k = 5 ∨ k = 6 ∨ k = 7 ∨ k = 8 ∨ k = 9 ∨ k = 10 ∨ k = 11 ∨ k = 12 ∨ k = 13 ∨ k = 14 ∨ k = 15 ∨ k = 16 := by omega
  rcases h with rfl | rfl | rfl | rfl | rfl | rfl | rfl | rfl | rfl | rfl | rfl | rfl | rfl | rfl | rfl <;> rfl
end Go.Proofs.YtiibfejgiilakaaDoor
