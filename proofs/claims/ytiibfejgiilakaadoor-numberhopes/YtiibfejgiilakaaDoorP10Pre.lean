/- The program's calls of package strings by their contracts: is one byte ahead. -/
import Derived.Test.YtiibfejgiilakaaDoorG10Run
namespace Go.Proofs.YtiibfejgiilakaaDoor
set_option maxRecDepth 100000
open Go.ChangeShapes Go.WideShapes Go.ChangeAt Go.RowKit
set_option linter.unusedVariables false
set_option linter.unusedSimpArgs false

/-- is c the first byte? -/
def hdB (s : ByteArray) (c : UInt8) : Bool := (L8 s).head? == some c
/-- s without its first byte, where that is c -/
def cutB (s : ByteArray) (c : UInt8) : ByteArray := if hdB s c then s.extract 1 s.size else s
theorem hd_ext (s : ByteArray) (c : UInt8) (h : 0 < s.size) : ((s.extract 0 1).toList == (⟨#[c]⟩ : ByteArray).toList) = hdB s c := by
  have e1 := L8_drop s 0 h
  rw [List.drop_zero] at e1
  have e2 : (s.extract 0 1).toList = [s[0]] := by
    rw [L8_toList, L8_cut, e1]; rfl
  have e3 : (⟨#[c]⟩ : ByteArray).toList = [c] := by rw [L8_toList]; rfl
  rw [e2, e3]
  unfold hdB
  rw [e1]
  simp
theorem hd_none (s : ByteArray) (c : UInt8) (h : s.size = 0) : hdB s c = false := by
  have e : L8 s = [] := List.eq_nil_of_length_eq_zero (by rw [L8_len]; exact h)
  unfold hdB
  rw [e]; rfl
theorem hd_pos {s : ByteArray} {c : UInt8} (h : hdB s c = true) : 0 < s.size := by
  rcases Nat.eq_zero_or_pos s.size with h0 | h0
  · rw [hd_none s c h0] at h; cases h
  · exact h0

set_option maxHeartbeats 1000000 in
theorem hasPrefix_any (s : ByteArray) (c : UInt8) (w : World) (hs : s.size ≤ 1000000) : Calls Tryd.prog 59 #[.string s, .string ⟨#[c]⟩] w fun e w' => e = .returned (.bool (hdB s c)) ∧ w = w' := by
  have hp1 : (⟨#[c]⟩ : ByteArray).size = 1 := rfl
  by_cases h : 0 < s.size
  · have hb := hd_ext s c h
    generalize (⟨#[c]⟩ : ByteArray) = p at *
    generalize hdB s c = b at *
    have h1 : decide ((1 : Int) ≤ s.size) = true := decide_eq_true (by omega)
    go_enter Tryd.func59, Tryd.ntmps59
    go_wp2
    go_ret
    exact ⟨rfl, rfl⟩
  · have hb := hd_none s c (by omega)
    generalize (⟨#[c]⟩ : ByteArray) = p at *
    generalize hdB s c = b at *
    subst hb
    have h1 : decide ((1 : Int) ≤ s.size) = false := decide_eq_false (by omega)
    go_enter Tryd.func59, Tryd.ntmps59
    go_wp2
    go_ret
    exact ⟨rfl, rfl⟩
end Go.Proofs.YtiibfejgiilakaaDoor
