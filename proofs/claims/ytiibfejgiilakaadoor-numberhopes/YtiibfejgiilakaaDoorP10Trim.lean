/- The program's calls of package strings by their contracts: noughts at the front. -/
import Derived.Test.YtiibfejgiilakaaDoorG10Norm
namespace Go.Proofs.YtiibfejgiilakaaDoor
set_option maxRecDepth 100000
open Go.ChangeShapes Go.WideShapes Go.ChangeAt Go.RowKit
set_option linter.unusedVariables false
set_option linter.unusedSimpArgs false

set_option maxHeartbeats 1000000 in
/-- noughts at the front -/
theorem trimLeftByte_any (s : ByteArray) (w : World) (hs : s.size ≤ 1000000) : Calls Tryd.prog 53 #[.string s, .int .u8 48] w fun e w' => e = .returned (.string (bs (frontL (L8 s)))) ∧ w = w' := by
  generalize hr : bs (frontL (L8 s)) = r
  have HR := Lib.hid hr
  clear hr
  go_enter Tryd.func53, Tryd.ntmps53
  go_wp2_with fail
  go_loop [0] (fun v => ∃ t : ByteArray, v = .string t ∧ t.size ≤ s.size ∧ frontL (L8 t) = frontL (L8 s)) (fun v => strLen (some v))
  case atStart => exact ⟨s, rfl, Nat.le_refl _, rfl⟩
  case round =>
    obtain ⟨t, rfl, hle, hf⟩ := hrel
    have HF := Lib.hid hf
    clear hf
    by_cases h0 : 0 < t.size
    · have h0' : (0 : Int) < t.size := by omega
      rcases byte_is t[0] 48 48 rfl with ⟨hc, hcb⟩ | ⟨hc, hcb⟩
      · obtain ⟨hs1, hs2⟩ := front_step h0 hc
        have HS1 := Lib.hid hs1
        have HS2 := Lib.hid hs2
        clear hc hs1 hs2
        go_wp2
        go_round
        case rel => exact ⟨_, rfl, by have := HS2.out; omega, by rw [HS1.out, HF.out]⟩
        case measure =>
          have := HS2.out
          show (t.extract 1 t.size).size < t.size
          omega
      · have hrr : t = r := by rw [← HR.out, ← HF.out, front_stop (.inr ⟨h0, hc⟩), bs_L8]
        clear hc HR HF
        subst hrr
        go_wp2
        go_ret
        exact ⟨rfl, rfl⟩
    · have h0' : ¬ (0 : Int) < t.size := by omega
      have hrr : t = r := by rw [← HR.out, ← HF.out, front_stop (.inl (by omega)), bs_L8]
      clear HR HF
      subst hrr
      go_wp2
      go_ret
      exact ⟨rfl, rfl⟩
set_option maxHeartbeats 1000000 in
theorem trimLeft_any (s : ByteArray) (w : World) (hs : s.size ≤ 1000000) : Calls Tryd.prog 46 #[.string s, .string ⟨#[48]⟩] w fun e w' => e = .returned (.string (bs (frontL (L8 s)))) ∧ w = w' := by
  have HC := Lib.hid (fun W => trimLeftByte_any s W hs)
  cases he : (s.toList == []) with
  | true =>
    have hl : L8 s = [] := by rw [← L8_toList]; simpa using he
    have hr : bs (frontL (L8 s)) = s := by
      have : frontL (L8 s) = L8 s := by rw [hl]; rfl
      rw [this, bs_L8]
    rw [hr]
    clear HC hl hr
    go_enter Tryd.func46, Tryd.ntmps46
    go_wp2
    go_ret
    exact ⟨rfl, rfl⟩
  | false =>
    generalize bs (frontL (L8 s)) = r at *
    have hp2 : ((⟨#[48]⟩ : ByteArray).toList == []) = false := by rw [L8_toList]; rfl
    go_enter Tryd.func46, Tryd.ntmps46
    go_wp2_with fail
    refine Calls.mono (HC.out w) ?_
    rintro e w1 ⟨rfl, rfl⟩
    go_wp2
    go_ret
    exact ⟨rfl, rfl⟩
end Go.Proofs.YtiibfejgiilakaaDoor
