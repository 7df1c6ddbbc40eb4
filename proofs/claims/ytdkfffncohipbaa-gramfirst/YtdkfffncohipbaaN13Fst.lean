/- GramFirst: which kind begins with which byte, and with how many. -/
import Derived.Test.YtdkfffncohipbaaN13Awk
import Derived.Test.YtdkfffncohipbaaR13First
import Derived.Test.YtdkfffncohipbaaArg
namespace Go.Proofs.Ytdkfffncohipbaa
set_option maxRecDepth 100000
open Go.ChangeShapes Go.WideShapes Go.ChangeAt Go.RowKit
set_option linter.unusedVariables false
set_option linter.unusedSimpArgs false

/-- how many of the first n bytes begin kind k -/
def cntF (k : Int) : Nat → Nat
  | 0 => 0
  | n + 1 => cntF k n + if firstV (n : Int) = k then 1 else 0
theorem cnt_le (k : Int) : ∀ n, cntF k n ≤ n
  | 0 => Nat.le_refl _
  | n + 1 => by unfold cntF; have := cnt_le k n; split <;> omega
theorem cnt_kinds : cntF 1 256 = 1 ∧ cntF 2 256 = 1 ∧ cntF 3 256 = 1 ∧ cntF 4 256 = 11 ∧ cntF 5 256 = 1 ∧ cntF 6 256 = 1 ∧ cntF 7 256 = 1 ∧ cntF 8 256 = 1 ∧ cntF 9 256 = 1 ∧ cntF 10 256 = 1 ∧ cntF 11 256 = 1 := by
  refine ⟨?_, ?_, ?_, ?_, ?_, ?_, ?_, ?_, ?_, ?_, ?_⟩ <;> kernel_rfl
theorem first_kinds (x : Int) : firstV x = 0 ∨ (firstV x = 4 ∧ cntF (firstV x) 256 = 11) ∨ (firstV x ≠ 0 ∧ firstV x ≠ 4 ∧ cntF (firstV x) 256 = 1) := by
  obtain ⟨c1, c2, c3, c4, c5, c6, c7, c8, c9, c10, c11⟩ := cnt_kinds
  have h : firstV x = 0 ∨ firstV x = 1 ∨ firstV x = 2 ∨ firstV x = 3 ∨ firstV x = 4 ∨ firstV x = 5 ∨ firstV x = 6 ∨ firstV x = 7 ∨ firstV x = 8 ∨ firstV x = 9 ∨ firstV x = 10 ∨ firstV x = 11 := by
    unfold firstV
    repeat' split
    all_goals simp
  rcases h with h | h | h | h | h | h | h | h | h | h | h | h
  · exact .inl h
  all_goals rw [h]
  · exact .inr (.inr ⟨by decide, by decide, c1⟩)
  · exact .inr (.inr ⟨by decide, by decide, c2⟩)
  · exact .inr (.inr ⟨by decide, by decide, c3⟩)
  · exact .inr (.inl ⟨rfl, c4⟩)
  · exact .inr (.inr ⟨by decide, by decide, c5⟩)
  · exact .inr (.inr ⟨by decide, by decide, c6⟩)
  · exact .inr (.inr ⟨by decide, by decide, c7⟩)
  · exact .inr (.inr ⟨by decide, by decide, c8⟩)
  · exact .inr (.inr ⟨by decide, by decide, c9⟩)
  · exact .inr (.inr ⟨by decide, by decide, c10⟩)
  · exact .inr (.inr ⟨by decide, by decide, c11⟩)
def FstL (k : Int) (w : World) (n i : Value) (wr : World) : Prop := ∃ j : Nat, j ≤ 256 ∧ i = .int .i64 j ∧ n = .int .i64 (cntF k j) ∧ wr = w
set_option maxHeartbeats 4000000 in
theorem first_walk (x : Int) (w : World) (h0 : 0 ≤ x) (h1 : x ≤ 255) : Calls Try.prog 6 #[.int .u8 x] w fun e w' => e = .returned (.bool true) ∧ Below w.heap.size w w' := by
  have HF := Lib.hid (first_any x w h0 h1)
  have HR := Lib.hid (r_first_any x w h0 h1)
  have HK := Lib.hid (first_kinds x)
  have HAW := Lib.hid (awake_any w)
  generalize firstV x = k at *
  go_enter Try.func6, Try.ntmps6
  go_wp2_with fail
  with_reducible refine HF.out.mono ?_
  rintro e w1 ⟨rfl, rfl⟩
  go_wp2_with fail
  with_reducible refine HR.out.mono ?_
  rintro e w1 ⟨rfl, rfl⟩
  clear HF HR
  go_wp2_with fail
  go_loopw [4, 5] (fun n i wr => FstL k w n i wr) (fun _ i _ => 256 - (intOf i).toNat)
  case atStart => exact ⟨0, by omega, rfl, rfl, rfl⟩
  case round =>
    obtain ⟨j, hj, rfl, rfl, rfl⟩ := hrel
    have hcl := cnt_le k j
    by_cases hlt : j < 256
    · have hlt' : (j : Int) < 256 := by omega
      have hwj : IntKind.u8.wrap (j : Int) = (j : Int) := IntWalk.u8_in _ (by omega)
      have HF := Lib.hid (first_any (j : Int) wr (by omega) (by omega))
      have hc : cntF k (j + 1) = cntF k j + if firstV (j : Int) = k then 1 else 0 := rfl
      generalize firstV (j : Int) = y at *
      generalize cntF k j = c at *
      by_cases hy : y = k
      · have by1 : (y == k) = true := by simpa using hy
        rw [if_pos hy] at hc
        have HC := Lib.hid hc
        clear hy hc
        go_wp2_with fail
        with_reducible refine HF.out.mono ?_
        rintro e w1 ⟨rfl, rfl⟩
        go_wp2
        go_roundw
        case rel => exact ⟨j + 1, by omega, by go_num, by rw [HC.out]; go_num, rfl⟩
        case measure => simp [intOf]; omega
      · have by1 : (y == k) = false := by simpa using hy
        rw [if_neg hy] at hc
        have HC := Lib.hid hc
        clear hy hc
        go_wp2_with fail
        with_reducible refine HF.out.mono ?_
        rintro e w1 ⟨rfl, rfl⟩
        go_wp2
        go_roundw
        case rel => exact ⟨j + 1, by omega, by go_num, by rw [HC.out]; rfl, rfl⟩
        case measure => simp [intOf]; omega
    · have hlt' : ¬ (j : Int) < 256 := by omega
      obtain rfl : j = 256 := by omega
      rcases HK.out with rfl | ⟨rfl, hc⟩ | ⟨hk0, hk4, hc⟩
      · clear HK hcl
        generalize cntF 0 256 = c at *
        go_wp2_with fail
        with_reducible refine HAW.out.mono ?_
        rintro e w1 ⟨rfl, hb⟩
        have HB := Lib.hid hb
        clear hb
        go_wp2
        go_ret
        exact ⟨rfl, HB.out⟩
      · rw [hc]
        clear HK hcl hc
        go_wp2_with fail
        with_reducible refine HAW.out.mono ?_
        rintro e w1 ⟨rfl, hb⟩
        have HB := Lib.hid hb
        clear hb
        go_wp2
        go_ret
        exact ⟨rfl, HB.out⟩
      · rw [hc]
        have b0 : (k == 0) = false := by simpa using hk0
        have b4 : (k == 4) = false := by simpa using hk4
        have n4 : (k != 4) = true := by simpa using hk4
        clear HK hcl hc hk0
        go_wp2_with fail
        with_reducible refine HAW.out.mono ?_
        rintro e w1 ⟨rfl, hb⟩
        have HB := Lib.hid hb
        clear hb
        go_wp2
        go_ret
        exact ⟨rfl, HB.out⟩
end Go.Proofs.Ytdkfffncohipbaa
