/- ucd.digit and the document's digit by contracts. -/
import Derived.Test.YtmphfdnpnhlpjaaRows
import Derived.Test.YtmphfdnpnhlpjaaStill
import Derived.Test.YtmphfdnpnhlpjaaU5Math
namespace Go.Proofs.Ytmphfdnpnhlpjaa
open Go.ChangeShapes Go.WideShapes Go.ChangeAt Go.RowKit
set_option linter.unusedVariables false

theorem isDig_iff {b : Nat} : isDig b = true ↔ (48 ≤ b ∧ b ≤ 57) ∨ (97 ≤ b ∧ b ≤ 102) := by
  simp [isDig, Nat.ble_eq]
theorem dgt_lo {b : Nat} (h : b ≤ 57) : dgt b = b - 48 := by
  have : Nat.ble 97 b = false := by rw [Bool.eq_false_iff]; simp [Nat.ble_eq]; omega
  unfold dgt; rw [this]; rfl
theorem dgt_hi {b : Nat} (h : 97 ≤ b) : dgt b = b - 97 + 10 := by
  have : Nat.ble 97 b = true := by simpa [Nat.ble_eq] using h
  unfold dgt; rw [this]; rfl
theorem dgt_lt {b : Nat} (h : isDig b = true) : dgt b < 16 := by
  rcases isDig_iff.1 h with ⟨h1, h2⟩ | ⟨h1, h2⟩
  · rw [dgt_lo h2]; omega
  · rw [dgt_hi h1]; omega

theorem udigit_any (b : Nat) (w : World) (h : isDig b = true) : Calls Try.prog 28 #[.int .u8 b] w fun e w' => e = .returned (.int .i32 (dgt b)) ∧ w = w' := by
  rcases isDig_iff.1 h with ⟨h1, h2⟩ | ⟨h1, h2⟩
  · have e : ((dgt b : Nat) : Int) = (b : Int) - 48 := by rw [dgt_lo h2]; omega
    rw [e]; clear e h
    have g1 : (48 : Int) ≤ b := by omega
    have g2 : (b : Int) ≤ 57 := by omega
    clear h1 h2
    go_enter Try.func28, Try.ntmps28
    go_wp2
    go_ret
    exact ⟨rfl, rfl⟩
  · have e : ((dgt b : Nat) : Int) = (b : Int) - 97 + 10 := by rw [dgt_hi h1]; omega
    rw [e]; clear e h
    have g1 : (97 : Int) ≤ b := by omega
    have g2 : (b : Int) ≤ 102 := by omega
    clear h1 h2
    go_enter Try.func28, Try.ntmps28
    go_wp2
    go_ret
    exact ⟨rfl, rfl⟩
end Go.Proofs.Ytmphfdnpnhlpjaa
