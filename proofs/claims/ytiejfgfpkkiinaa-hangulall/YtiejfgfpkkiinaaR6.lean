/- The document's layer 6: Split and Join by their contracts. -/
import Derived.Test.YtiejfgfpkkiinaaH6
namespace Go.Proofs.Ytiejfgfpkkiinaa
open Go.ChangeShapes Go.WideShapes Go.ChangeAt Go.RowKit
set_option linter.unusedVariables false

theorem kind6_45 {c : Int} (h : 4 ≤ kind6 c) : kind6 c = if (c - 44032) % 28 = 0 then 4 else 5 := by
  obtain ⟨h1, h2⟩ := kind6_big (c := c) (by omega)
  unfold kind6
  rw [if_neg (by omega), if_neg (by omega), if_neg (by omega), if_neg (by omega)]
theorem rsplit_any (c : Int) (w : World) : Calls Try.prog 12 #[.int .i32 c] w (RowRes 21 .i32 w (split6 c)) := by
  by_cases h4 : kind6 c = 4
  · obtain ⟨b1, b2⟩ := kind6_big (c := c) (by omega)
    have HE : Hid (split6 c = [4352 + (c - 44032) / 588, 4449 + (c - 44032) % 588 / 28]) := by unfold Hid split6; rw [if_pos h4]
    have HK := Lib.hid (fun W => kindR_is h4 W)
    have hz : (c - 44032) % 28 = 0 := by
      have := kind6_45 (c := c) (by omega)
      rw [h4] at this
      split at this
      · assumption
      · omega
    have hz' : decide (0 < (c - 44032) % 28) = false := decide_eq_false (by omega)
    have HZ := Lib.hid hz
    clear h4 hz
    go_enter Try.func12, Try.ntmps12
    go_wp2_with fail
    with_reducible refine (HK.out _).mono ?_
    rintro e w' ⟨rfl, rfl⟩
    go_wp2
    go_ret
    exact ⟨_, rfl, by rw [HE.out]; exact own_lit w _ 21 .i32 [4352 + (c - 44032) / 588, 4449 + (c - 44032) % 588 / 28] (Nat.le_refl _) (by simp [maxLen]), (Below.refl _ _).alloc (Nat.le_refl _) _⟩
  by_cases h5 : kind6 c = 5
  · obtain ⟨b1, b2⟩ := kind6_big (c := c) (by omega)
    have HE : Hid (split6 c = [4352 + (c - 44032) / 588, 4449 + (c - 44032) % 588 / 28] ++ [4519 + (c - 44032) % 28]) := by unfold Hid split6; rw [if_neg h4, if_pos h5]; rfl
    have HK := Lib.hid (fun W => kindR_is h5 W)
    have hz : 0 < (c - 44032) % 28 := by
      have := kind6_45 (c := c) (by omega)
      rw [h5] at this
      split at this
      · omega
      · omega
    clear h4 h5
    go_enter Try.func12, Try.ntmps12
    go_wp2_with fail
    with_reducible refine (HK.out _).mono ?_
    rintro e w' ⟨rfl, rfl⟩
    go_wp2_with (first
      | (at_builtin; refine wpList_app rfl (.tmp 21) (.tmp 25) 26 rfl w.heap.size 21 .i32 4 Try.underlying26 info_i32 (by omega) _ [4352 + (c - 44032) / 588, 4449 + (c - 44032) % 588 / 28] rfl ((own_lit w _ 21 .i32 [4352 + (c - 44032) / 588, 4449 + (c - 44032) % 588 / 28] (Nat.le_refl _) (by simp [maxLen])).alloc _) _ _ 1 [4519 + (c - 44032) % 28] rfl (fun h => by cases h) (Ints.litAt (w.alloc (.cells #[.int .i32 (4352 + (c - 44032) / 588), .int .i32 (4449 + (c - 44032) % 588 / 28)] 21)) 21 .i32 [4519 + (c - 44032) % 28] (by simp)) (by simp) (by simp; omega) ?_; intro v3 w3 hO3 hg3))
    go_ret
    refine ⟨_, rfl, by rw [HE.out]; exact hO3, ?_⟩
    exact (((Below.refl _ _).alloc (Nat.le_refl _) _).alloc (by simp) _).trans (own_grown_below ((own_lit w _ 21 .i32 [4352 + (c - 44032) / 588, 4449 + (c - 44032) % 588 / 28] (Nat.le_refl _) (by simp [maxLen])).alloc _) hg3 (by simp; omega))
  · have HE : Hid (split6 c = []) := by unfold Hid split6; rw [if_neg h4, if_neg h5]
    have HK := Lib.hid (fun W => kind_any c W)
    have hk : kind6 c < 4 := by have := kind6_bd c; omega
    generalize kind6 c = k at *
    clear h4 h5
    go_enter Try.func12, Try.ntmps12
    go_wp2_with fail
    with_reducible refine (HK.out _).mono ?_
    rintro e w' ⟨rfl, rfl⟩
    go_wp2
    go_ret
    exact ⟨_, rfl, by rw [HE.out]; exact World.ownsRow_nil _ _ _ _, Below.refl _ _⟩

theorem rjoin_any (a b : Int) (w : World) : Calls Try.prog 7 #[.int .i32 a, .int .i32 b] w fun e w' => e = .returned (.tuple #[.int .i32 (joinC a b), .bool (joinOk a b)]) ∧ w = w' := by
  by_cases h1 : kind6 a = 1 ∧ kind6 b = 2
  · have e1 : joinC a b = 44032 + (a - 4352) * 588 + (b - 4449) * 28 := by unfold joinC; rw [if_pos h1]
    have e2 : joinOk a b = true := by unfold joinOk; rw [decide_eq_true h1]; rfl
    rw [e1, e2]
    obtain ⟨a1, a2⟩ := kind6_1 h1.1
    obtain ⟨a3, a4⟩ := kind6_2 h1.2
    have HA := Lib.hid (fun W => kindR_is h1.1 W)
    have HB := Lib.hid (fun W => kindR_is h1.2 W)
    clear e1 e2 h1
    go_enter Try.func7, Try.ntmps7
    go_wp2_with fail
    with_reducible refine (HA.out _).mono ?_
    rintro e w' ⟨rfl, rfl⟩
    go_wp2_with fail
    with_reducible refine (HB.out _).mono ?_
    rintro e w' ⟨rfl, rfl⟩
    go_wp2
    go_ret2
    exact ⟨rfl, rfl⟩
  by_cases h2 : kind6 a = 4 ∧ kind6 b = 3
  · have e1 : joinC a b = a + b - 4519 := by unfold joinC; rw [if_neg h1, if_pos h2]
    have e2 : joinOk a b = true := by unfold joinOk; rw [decide_eq_true h2]; simp
    rw [e1, e2]
    obtain ⟨a1, a2⟩ := kind6_big (c := a) (by omega)
    obtain ⟨a3, a4⟩ := kind6_3 h2.2
    have HA := Lib.hid (fun W => kindR_is h2.1 W)
    have HB := Lib.hid (fun W => kindR_is h2.2 W)
    clear e1 e2 h1 h2
    go_enter Try.func7, Try.ntmps7
    go_wp2_with fail
    with_reducible refine (HA.out _).mono ?_
    rintro e w' ⟨rfl, rfl⟩
    go_wp2_with fail
    with_reducible refine (HA.out _).mono ?_
    rintro e w' ⟨rfl, rfl⟩
    go_wp2_with fail
    with_reducible refine (HB.out _).mono ?_
    rintro e w' ⟨rfl, rfl⟩
    go_wp2
    go_ret2
    exact ⟨rfl, rfl⟩
  · have e1 : joinC a b = 0 := by unfold joinC; rw [if_neg h1, if_neg h2]
    have e2 : joinOk a b = false := by unfold joinOk; rw [decide_eq_false h1, decide_eq_false h2]; rfl
    rw [e1, e2]
    have HA := Lib.hid (fun W => kind_any a W)
    have HB := Lib.hid (fun W => kind_any b W)
    clear e1 e2
    generalize kind6 a = p at *
    generalize kind6 b = q at *
    by_cases p1 : p = 1
    · subst p1
      have q2 : (q == 2) = false := beq_eq_false_iff_ne.2 (by omega)
      clear h1 h2
      go_enter Try.func7, Try.ntmps7
      go_wp2_with fail
      with_reducible refine (HA.out _).mono ?_
      rintro e w' ⟨rfl, rfl⟩
      go_wp2_with fail
      with_reducible refine (HB.out _).mono ?_
      rintro e w' ⟨rfl, rfl⟩
      go_wp2_with fail
      with_reducible refine (HA.out _).mono ?_
      rintro e w' ⟨rfl, rfl⟩
      go_wp2
      go_ret2
      exact ⟨rfl, rfl⟩
    by_cases p4 : p = 4
    · subst p4
      have q2 : (q == 3) = false := beq_eq_false_iff_ne.2 (by omega)
      clear h1 h2 p1
      go_enter Try.func7, Try.ntmps7
      go_wp2_with fail
      with_reducible refine (HA.out _).mono ?_
      rintro e w' ⟨rfl, rfl⟩
      go_wp2_with fail
      with_reducible refine (HA.out _).mono ?_
      rintro e w' ⟨rfl, rfl⟩
      go_wp2_with fail
      with_reducible refine (HB.out _).mono ?_
      rintro e w' ⟨rfl, rfl⟩
      go_wp2
      go_ret2
      exact ⟨rfl, rfl⟩
    have e1 : (p == 1) = false := beq_eq_false_iff_ne.2 p1
    have e4 : (p == 4) = false := beq_eq_false_iff_ne.2 p4
    clear h1 h2 p1 p4
    go_enter Try.func7, Try.ntmps7
    go_wp2_with fail
    with_reducible refine (HA.out _).mono ?_
    rintro e w' ⟨rfl, rfl⟩
    go_wp2_with fail
    with_reducible refine (HA.out _).mono ?_
    rintro e w' ⟨rfl, rfl⟩
    go_wp2
    go_ret2
    exact ⟨rfl, rfl⟩
end Go.Proofs.Ytiejfgfpkkiinaa
