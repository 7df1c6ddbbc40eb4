/- The program's calls of package strings by their contracts: one byte ahead. -/
import Derived.Test.YtadbnajodpfpgaaDoorG10Run
namespace Go.Proofs.YtadbnajodpfpgaaDoor
set_option maxRecDepth 100000
open Go.ChangeShapes Go.WideShapes Go.ChangeAt Go.RowKit
set_option linter.unusedVariables false
set_option linter.unusedSimpArgs false

/-- is c the first byte? -/
def hdB (s : ByteArray) (c : UInt8) : Bool := (L8 s).head? == some c
/-- s without its first byte, where that is c -/
def cutB (s : ByteArray) (c : UInt8) : ByteArray := if hdB s c then s.extract 1 s.size else s
theorem hd_ext (s : ByteArray) (c : UInt8) (h : 0 < s.size) : ((s.extract 0 1).toList == (⟨#[c]⟩ : ByteArray).toList) = hdB s c := by
  have e1 := L8_drop s 0 h
  rw [List.drop_zero] at e1
  have e2 : (s.extract 0 1).toList = [s[0]] := by
    rw [L8_toList, L8_cut, e1]; rfl
  have e3 : (⟨#[c]⟩ : ByteArray).toList = [c] := by rw [L8_toList]; rfl
  rw [e2, e3]
  unfold hdB
  rw [e1]
  simp
theorem hd_none (s : ByteArray) (c : UInt8) (h : s.size = 0) : hdB s c = false := by
  have e : L8 s = [] := List.eq_nil_of_length_eq_zero (by rw [L8_len]; exact h)
  unfold hdB
  rw [e]; rfl
theorem hd_pos {s : ByteArray} {c : UInt8} (h : hdB s c = true) : 0 < s.size := by
  rcases Nat.eq_zero_or_pos s.size with h0 | h0
  · rw [hd_none s c h0] at h; cases h
  · exact h0

set_option maxHeartbeats 1000000 in
theorem hasPrefix_any (s : ByteArray) (c : UInt8) (w : World) (hs : s.size ≤ 1000000) : Calls Tryd.prog 47 #[.string s, .string ⟨#[c]⟩] w fun e w' => e = .returned (.bool (hdB s c)) ∧ w = w' := by
  have hp1 : (⟨#[c]⟩ : ByteArray).size = 1 := rfl
  by_cases h : 0 < s.size
  · have hb := hd_ext s c h
    generalize (⟨#[c]⟩ : ByteArray) = p at *
    generalize hdB s c = b at *
    have h1 : decide ((1 : Int) ≤ s.size) = true := decide_eq_true (by omega)
    go_enter Tryd.func47, Tryd.ntmps47
    go_wp2
    go_ret
    exact ⟨rfl, rfl⟩
  · have hb := hd_none s c (by omega)
    generalize (⟨#[c]⟩ : ByteArray) = p at *
    generalize hdB s c = b at *
    subst hb
    have h1 : decide ((1 : Int) ≤ s.size) = false := decide_eq_false (by omega)
    go_enter Tryd.func47, Tryd.ntmps47
    go_wp2
    go_ret
    exact ⟨rfl, rfl⟩
set_option maxHeartbeats 1000000 in
theorem cutPrefix0_any (s : ByteArray) (c : UInt8) (w : World) (hs : s.size ≤ 1000000) : Calls Tryd.prog 38 #[.string s, .string ⟨#[c]⟩] w fun e w' => e = .returned (.tuple #[.string (cutB s c), .bool (hdB s c)]) ∧ w = w' := by
  have hp1 : (⟨#[c]⟩ : ByteArray).size = 1 := rfl
  have HC := Lib.hid (fun W => hasPrefix_any s c W hs)
  have h0 : hdB s c = true → 0 < s.size := hd_pos
  unfold cutB
  generalize (⟨#[c]⟩ : ByteArray) = p at *
  cases hb : hdB s c with
  | true =>
    rw [hb] at HC
    have h0 := h0 hb
    clear hb
    rw [if_pos rfl]
    go_enter Tryd.func38, Tryd.ntmps38
    go_wp2_with fail
    with_reducible refine (HC.out _).mono ?_
    rintro e w1 ⟨rfl, rfl⟩
    go_wp2
    go_ret2
    exact ⟨rfl, rfl⟩
  | false =>
    rw [hb] at HC
    clear hb h0
    rw [if_neg Bool.false_ne_true]
    go_enter Tryd.func38, Tryd.ntmps38
    go_wp2_with fail
    with_reducible refine (HC.out _).mono ?_
    rintro e w1 ⟨rfl, rfl⟩
    go_wp2
    go_ret2
    exact ⟨rfl, rfl⟩
set_option maxHeartbeats 1000000 in
theorem cutPrefix_any (s : ByteArray) (c : UInt8) (w : World) (hs : s.size ≤ 1000000) : Calls Tryd.prog 26 #[.string s, .string ⟨#[c]⟩] w fun e w' => e = .returned (.tuple #[.string (cutB s c), .bool (hdB s c)]) ∧ w = w' := by
  have HC := Lib.hid (fun W => cutPrefix0_any s c W hs)
  generalize (⟨#[c]⟩ : ByteArray) = p at *
  generalize hdB s c = b at *
  generalize cutB s c = t at *
  go_enter Tryd.func26, Tryd.ntmps26
  go_wp2_with fail
  with_reducible refine (HC.out _).mono ?_
  rintro e w1 ⟨rfl, rfl⟩
  go_wp2
  go_ret2
  exact ⟨rfl, rfl⟩
set_option maxHeartbeats 1000000 in
theorem trimPrefix0_any (s : ByteArray) (c : UInt8) (w : World) (hs : s.size ≤ 1000000) : Calls Tryd.prog 53 #[.string s, .string ⟨#[c]⟩] w fun e w' => e = .returned (.string (cutB s c)) ∧ w = w' := by
  have hp1 : (⟨#[c]⟩ : ByteArray).size = 1 := rfl
  have HC := Lib.hid (fun W => hasPrefix_any s c W hs)
  have h0 : hdB s c = true → 0 < s.size := hd_pos
  unfold cutB
  generalize (⟨#[c]⟩ : ByteArray) = p at *
  cases hb : hdB s c with
  | true =>
    rw [hb] at HC
    have h0 := h0 hb
    clear hb
    rw [if_pos rfl]
    go_enter Tryd.func53, Tryd.ntmps53
    go_wp2_with fail
    with_reducible refine (HC.out _).mono ?_
    rintro e w1 ⟨rfl, rfl⟩
    go_wp2
    go_ret
    exact ⟨rfl, rfl⟩
  | false =>
    rw [hb] at HC
    clear hb h0
    rw [if_neg Bool.false_ne_true]
    go_enter Tryd.func53, Tryd.ntmps53
    go_wp2_with fail
    with_reducible refine (HC.out _).mono ?_
    rintro e w1 ⟨rfl, rfl⟩
    go_wp2
    go_ret
    exact ⟨rfl, rfl⟩
set_option maxHeartbeats 1000000 in
theorem trimPrefix_any (s : ByteArray) (c : UInt8) (w : World) (hs : s.size ≤ 1000000) : Calls Tryd.prog 48 #[.string s, .string ⟨#[c]⟩] w fun e w' => e = .returned (.string (cutB s c)) ∧ w = w' := by
  have HC := Lib.hid (fun W => trimPrefix0_any s c W hs)
  generalize (⟨#[c]⟩ : ByteArray) = p at *
  generalize cutB s c = t at *
  go_enter Tryd.func48, Tryd.ntmps48
  go_wp2_with fail
  with_reducible refine (HC.out _).mono ?_
  rintro e w1 ⟨rfl, rfl⟩
  go_wp2
  go_ret
  exact ⟨rfl, rfl⟩
set_option maxHeartbeats 1000000 in
/-- noughts at the front -/
theorem trimLeftByte_any (s : ByteArray) (w : World) (hs : s.size ≤ 1000000) : Calls Tryd.prog 41 #[.string s, .int .u8 48] w fun e w' => e = .returned (.string (bs (frontL (L8 s)))) ∧ w = w' := by
  generalize hr : bs (frontL (L8 s)) = r
  have HR := Lib.hid hr
  clear hr
  go_enter Tryd.func41, Tryd.ntmps41
  go_wp2_with fail
  go_loop [0] (fun v => ∃ t : ByteArray, v = .string t ∧ t.size ≤ s.size ∧ frontL (L8 t) = frontL (L8 s)) (fun v => strLen (some v))
  case atStart => exact ⟨s, rfl, Nat.le_refl _, rfl⟩
  case round =>
    obtain ⟨t, rfl, hle, hf⟩ := hrel
    have HF := Lib.hid hf
    clear hf
    by_cases h0 : 0 < t.size
    · have h0' : (0 : Int) < t.size := by omega
      rcases byte_is t[0] 48 48 rfl with ⟨hc, hcb⟩ | ⟨hc, hcb⟩
      · obtain ⟨hs1, hs2⟩ := front_step h0 hc
        have HS1 := Lib.hid hs1
        have HS2 := Lib.hid hs2
        clear hc hs1 hs2
        go_wp2
        go_round
        case rel => exact ⟨_, rfl, by have := HS2.out; omega, by rw [HS1.out, HF.out]⟩
        case measure =>
          have := HS2.out
          show (t.extract 1 t.size).size < t.size
          omega
      · have hrr : t = r := by rw [← HR.out, ← HF.out, front_stop (.inr ⟨h0, hc⟩), bs_L8]
        clear hc HR HF
        subst hrr
        go_wp2
        go_ret
        exact ⟨rfl, rfl⟩
    · have h0' : ¬ (0 : Int) < t.size := by omega
      have hrr : t = r := by rw [← HR.out, ← HF.out, front_stop (.inl (by omega)), bs_L8]
      clear HR HF
      subst hrr
      go_wp2
      go_ret
      exact ⟨rfl, rfl⟩
set_option maxHeartbeats 1000000 in
theorem trimLeft_any (s : ByteArray) (w : World) (hs : s.size ≤ 1000000) : Calls Tryd.prog 33 #[.string s, .string ⟨#[48]⟩] w fun e w' => e = .returned (.string (bs (frontL (L8 s)))) ∧ w = w' := by
  have HC := Lib.hid (fun W => trimLeftByte_any s W hs)
  cases he : (s.toList == []) with
  | true =>
    have hl : L8 s = [] := by rw [← L8_toList]; simpa using he
    have hr : bs (frontL (L8 s)) = s := by
      have : frontL (L8 s) = L8 s := by rw [hl]; rfl
      rw [this, bs_L8]
    rw [hr]
    clear HC hl hr
    go_enter Tryd.func33, Tryd.ntmps33
    go_wp2
    go_ret
    exact ⟨rfl, rfl⟩
  | false =>
    generalize bs (frontL (L8 s)) = r at *
    have hp2 : ((⟨#[48]⟩ : ByteArray).toList == []) = false := by rw [L8_toList]; rfl
    go_enter Tryd.func33, Tryd.ntmps33
    go_wp2_with fail
    refine Calls.mono (HC.out w) ?_
    rintro e w1 ⟨rfl, rfl⟩
    go_wp2
    go_ret
    exact ⟨rfl, rfl⟩
end Go.Proofs.YtadbnajodpfpgaaDoor
