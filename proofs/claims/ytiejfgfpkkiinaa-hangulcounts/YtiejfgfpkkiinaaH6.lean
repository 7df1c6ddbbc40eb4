/- Package hangul by its contracts. -/
import Derived.Test.YtiejfgfpkkiinaaR6Kind
import Derived.Test.YtiejfgfpkkiinaaRow
namespace Go.Proofs.Ytiejfgfpkkiinaa
open Go.ChangeShapes Go.WideShapes Go.ChangeAt Go.RowKit
set_option linter.unusedVariables false

theorem kindOf_any (c : Int) (w : World) : Calls Try.prog 15 #[.int .i32 c] w fun e w' => e = .returned (.int .i64 (kind6 c)) ∧ w = w' := by
  by_cases h1 : 4352 ≤ c ∧ c ≤ 4370
  · have e : kind6 c = 1 := by unfold kind6; rw [if_pos h1]
    rw [e]
    obtain ⟨a1, a2⟩ := h1
    clear e
    go_enter Try.func15, Try.ntmps15
    go_wp2
    go_ret
    exact ⟨rfl, rfl⟩
  by_cases h2 : 4449 ≤ c ∧ c ≤ 4469
  · have e : kind6 c = 2 := by unfold kind6; rw [if_neg h1, if_pos h2]
    rw [e]
    obtain ⟨a1, a2⟩ := h2
    have a3 : 4352 ≤ c := by omega
    have a4 : ¬ c ≤ 4370 := by omega
    clear e h1
    go_enter Try.func15, Try.ntmps15
    go_wp2
    go_ret
    exact ⟨rfl, rfl⟩
  by_cases h3 : 4520 ≤ c ∧ c ≤ 4546
  · have e : kind6 c = 3 := by unfold kind6; rw [if_neg h1, if_neg h2, if_pos h3]
    rw [e]
    obtain ⟨a1, a2⟩ := h3
    have a3 : 4352 ≤ c := by omega
    have a4 : ¬ c ≤ 4370 := by omega
    have a5 : 4449 ≤ c := by omega
    have a6 : ¬ c ≤ 4469 := by omega
    clear e h1 h2
    go_enter Try.func15, Try.ntmps15
    go_wp2
    go_ret
    exact ⟨rfl, rfl⟩
  by_cases h4 : c < 44032 ∨ 55203 < c
  · have e : kind6 c = 0 := by unfold kind6; rw [if_neg h1, if_neg h2, if_neg h3, if_pos h4]
    rw [e]
    clear e
    by_cases b1 : 4352 ≤ c <;> by_cases b2 : c ≤ 4370 <;> by_cases b3 : 4449 ≤ c <;> by_cases b4 : c ≤ 4469 <;> by_cases b5 : 4520 ≤ c <;> by_cases b6 : c ≤ 4546 <;> by_cases b7 : c < 44032 <;> (try omega)
    all_goals
      try have b8 : 55203 < c := by omega
      clear h1 h2 h3 h4
      go_enter Try.func15, Try.ntmps15
      go_wp2
      go_ret
      exact ⟨rfl, rfl⟩
  · have a1 : 44032 ≤ c := by omega
    have a2 : c ≤ 55203 := by omega
    have a3 : ¬ c ≤ 4370 := by omega
    have a4 : ¬ c ≤ 4469 := by omega
    have a5 : ¬ c ≤ 4546 := by omega
    have a6 : 4352 ≤ c := by omega
    have a7 : 4449 ≤ c := by omega
    have a8 : 4520 ≤ c := by omega
    have a9 : ¬ c < 44032 := by omega
    have a10 : ¬ 55203 < c := by omega
    by_cases h5 : (c - 44032) % 28 = 0
    · have e : kind6 c = 4 := by unfold kind6; rw [if_neg h1, if_neg h2, if_neg h3, if_neg h4, if_pos h5]
      rw [e]
      have b1 : (((c - 44032) % 28) == 0) = true := by simp; omega
      clear e h1 h2 h3 h4 h5
      go_enter Try.func15, Try.ntmps15
      go_wp2
      go_ret
      exact ⟨rfl, rfl⟩
    · have e : kind6 c = 5 := by unfold kind6; rw [if_neg h1, if_neg h2, if_neg h3, if_neg h4, if_neg h5]
      rw [e]
      have b1 : (((c - 44032) % 28) == 0) = false := by simp; omega
      clear e h1 h2 h3 h4 h5
      go_enter Try.func15, Try.ntmps15
      go_wp2
      go_ret
      exact ⟨rfl, rfl⟩

theorem hkind_any (c : Int) (w : World) : Calls Try.prog 8 #[.int .i32 c] w fun e w' => e = .returned (.int .i64 (kind6 c)) ∧ w = w' := by
  go_enter Try.func8, Try.ntmps8
  go_wp2_with fail
  with_reducible refine (kindOf_any _ _).mono ?_
  rintro e w' ⟨rfl, rfl⟩
  go_wp2
  go_ret
  exact ⟨rfl, rfl⟩
theorem lead_any (s : Int) (w : World) (h0 : 0 ≤ s) (h1 : s ≤ 11171) : Calls Try.prog 16 #[.int .i32 s] w fun e w' => e = .returned (.int .i32 (4352 + s / 588)) ∧ w = w' := by
  go_enter Try.func16, Try.ntmps16
  go_wp2
  go_ret
  exact ⟨rfl, rfl⟩
theorem vowel_any (s : Int) (w : World) (h0 : 0 ≤ s) (h1 : s ≤ 11171) : Calls Try.prog 17 #[.int .i32 s] w fun e w' => e = .returned (.int .i32 (4449 + s % 588 / 28)) ∧ w = w' := by
  go_enter Try.func17, Try.ntmps17
  go_wp2
  go_ret
  exact ⟨rfl, rfl⟩
theorem tail_any (s : Int) (w : World) (h0 : 0 ≤ s) (h1 : s ≤ 11171) : Calls Try.prog 18 #[.int .i32 s] w fun e w' => e = .returned (.int .i32 (4519 + s % 28)) ∧ w = w' := by
  go_enter Try.func18, Try.ntmps18
  go_wp2
  go_ret
  exact ⟨rfl, rfl⟩

/-- the parts of a syllable -/
def split6 (c : Int) : List Int :=
  if kind6 c = 4 then [4352 + (c - 44032) / 588, 4449 + (c - 44032) % 588 / 28] else if kind6 c = 5 then [4352 + (c - 44032) / 588, 4449 + (c - 44032) % 588 / 28, 4519 + (c - 44032) % 28] else []
theorem kind6_bd (c : Int) : 0 ≤ kind6 c ∧ kind6 c ≤ 5 := by unfold kind6; repeat' split <;> omega
theorem split6_len (c : Int) : (split6 c).length ≤ 3 := by unfold split6; split <;> (try split) <;> simp
theorem kindOf_is {c k : Int} (h : kind6 c = k) (w : World) : Calls Try.prog 15 #[.int .i32 c] w fun e w' => e = .returned (.int .i64 k) ∧ w = w' := by subst h; exact kindOf_any c w
theorem kindR_is {c k : Int} (h : kind6 c = k) (w : World) : Calls Try.prog 9 #[.int .i32 c] w fun e w' => e = .returned (.int .i64 k) ∧ w = w' := by subst h; exact kind_any c w

theorem hsplit_any (c : Int) (w : World) (hc0 : -2147483648 ≤ c) (hc1 : c ≤ 2147483647) : Calls Try.prog 11 #[.int .i32 c] w (RowRes 21 .i32 w (split6 c)) := by
  by_cases h4 : kind6 c = 4
  · have hb := kind6_big (c := c) (by omega)
    have HE : Hid (split6 c = [4352 + (c - 44032) / 588, 4449 + (c - 44032) % 588 / 28]) := by unfold Hid split6; rw [if_pos h4]
    have HK := Lib.hid (fun W => kindOf_is h4 W)
    obtain ⟨b1, b2⟩ := hb
    clear h4
    go_enter Try.func11, Try.ntmps11
    go_wp2_with fail
    with_reducible refine (HK.out _).mono ?_
    rintro e w' ⟨rfl, rfl⟩
    go_wp2_with fail
    with_reducible refine (lead_any _ _ (by omega) (by omega)).mono ?_
    rintro e w' ⟨rfl, rfl⟩
    go_wp2_with fail
    with_reducible refine (vowel_any _ _ (by omega) (by omega)).mono ?_
    rintro e w' ⟨rfl, rfl⟩
    go_wp2
    go_ret
    exact ⟨_, rfl, by rw [HE.out]; exact own_lit w _ 21 .i32 [4352 + (c - 44032) / 588, 4449 + (c - 44032) % 588 / 28] (Nat.le_refl _) (by simp [maxLen]), (Below.refl _ _).alloc (Nat.le_refl _) _⟩
  by_cases h5 : kind6 c = 5
  · have hb := kind6_big (c := c) (by omega)
    have HE : Hid (split6 c = [4352 + (c - 44032) / 588, 4449 + (c - 44032) % 588 / 28, 4519 + (c - 44032) % 28]) := by unfold Hid split6; rw [if_neg h4, if_pos h5]
    have HK := Lib.hid (fun W => kindOf_is h5 W)
    obtain ⟨b1, b2⟩ := hb
    clear h4 h5
    go_enter Try.func11, Try.ntmps11
    go_wp2_with fail
    with_reducible refine (HK.out _).mono ?_
    rintro e w' ⟨rfl, rfl⟩
    go_wp2_with fail
    with_reducible refine (lead_any _ _ (by omega) (by omega)).mono ?_
    rintro e w' ⟨rfl, rfl⟩
    go_wp2_with fail
    with_reducible refine (vowel_any _ _ (by omega) (by omega)).mono ?_
    rintro e w' ⟨rfl, rfl⟩
    go_wp2_with fail
    with_reducible refine (tail_any _ _ (by omega) (by omega)).mono ?_
    rintro e w' ⟨rfl, rfl⟩
    go_wp2
    go_ret
    exact ⟨_, rfl, by rw [HE.out]; exact own_lit w _ 21 .i32 [4352 + (c - 44032) / 588, 4449 + (c - 44032) % 588 / 28, 4519 + (c - 44032) % 28] (Nat.le_refl _) (by simp [maxLen]), (Below.refl _ _).alloc (Nat.le_refl _) _⟩
  · have HE : Hid (split6 c = []) := by unfold Hid split6; rw [if_neg h4, if_neg h5]
    have HK := Lib.hid (fun W => kindOf_any c W)
    have e4 : (kind6 c == 4) = false := beq_eq_false_iff_ne.2 h4
    have e5 : (kind6 c == 5) = false := beq_eq_false_iff_ne.2 h5
    generalize kind6 c = k at *
    clear h4 h5
    go_enter Try.func11, Try.ntmps11
    go_wp2_with fail
    with_reducible refine (HK.out _).mono ?_
    rintro e w' ⟨rfl, rfl⟩
    go_wp2
    go_ret
    exact ⟨_, rfl, by rw [HE.out]; exact World.ownsRow_nil _ _ _ _, Below.refl _ _⟩

/-- what two join to -/
def joinC (a b : Int) : Int := if kind6 a = 1 ∧ kind6 b = 2 then 44032 + (a - 4352) * 588 + (b - 4449) * 28 else if kind6 a = 4 ∧ kind6 b = 3 then a + b - 4519 else 0
def joinOk (a b : Int) : Bool := decide (kind6 a = 1 ∧ kind6 b = 2) || decide (kind6 a = 4 ∧ kind6 b = 3)
theorem kind6_1 {c : Int} (h : kind6 c = 1) : 4352 ≤ c ∧ c ≤ 4370 := by unfold kind6 at h; repeat' split at h <;> omega
theorem kind6_2 {c : Int} (h : kind6 c = 2) : 4449 ≤ c ∧ c ≤ 4469 := by unfold kind6 at h; repeat' split at h <;> omega
theorem kind6_3 {c : Int} (h : kind6 c = 3) : 4520 ≤ c ∧ c ≤ 4546 := by unfold kind6 at h; repeat' split at h <;> omega
theorem hjoin_any (a b : Int) (w : World) : Calls Try.prog 6 #[.int .i32 a, .int .i32 b] w fun e w' => e = .returned (.tuple #[.int .i32 (joinC a b), .bool (joinOk a b)]) ∧ w = w' := by
  by_cases h1 : kind6 a = 1 ∧ kind6 b = 2
  · have e1 : joinC a b = 44032 + (a - 4352) * 588 + (b - 4449) * 28 := by unfold joinC; rw [if_pos h1]
    have e2 : joinOk a b = true := by unfold joinOk; rw [decide_eq_true h1]; rfl
    rw [e1, e2]
    obtain ⟨a1, a2⟩ := kind6_1 h1.1
    obtain ⟨a3, a4⟩ := kind6_2 h1.2
    have HA := Lib.hid (fun W => kindOf_is h1.1 W)
    have HB := Lib.hid (fun W => kindOf_is h1.2 W)
    clear e1 e2 h1
    go_enter Try.func6, Try.ntmps6
    go_wp2_with fail
    with_reducible refine (HA.out _).mono ?_
    rintro e w' ⟨rfl, rfl⟩
    go_wp2_with fail
    with_reducible refine (HB.out _).mono ?_
    rintro e w' ⟨rfl, rfl⟩
    go_wp2
    go_ret2
    exact ⟨rfl, rfl⟩
  by_cases h2 : kind6 a = 4 ∧ kind6 b = 3
  · have e1 : joinC a b = a + b - 4519 := by unfold joinC; rw [if_neg h1, if_pos h2]
    have e2 : joinOk a b = true := by unfold joinOk; rw [decide_eq_true h2]; simp
    rw [e1, e2]
    obtain ⟨a1, a2⟩ := kind6_big (c := a) (by omega)
    obtain ⟨a3, a4⟩ := kind6_3 h2.2
    have HA := Lib.hid (fun W => kindOf_is h2.1 W)
    have HB := Lib.hid (fun W => kindOf_is h2.2 W)
    clear e1 e2 h1 h2
    go_enter Try.func6, Try.ntmps6
    go_wp2_with fail
    with_reducible refine (HA.out _).mono ?_
    rintro e w' ⟨rfl, rfl⟩
    go_wp2_with fail
    with_reducible refine (HB.out _).mono ?_
    rintro e w' ⟨rfl, rfl⟩
    go_wp2
    go_ret2
    exact ⟨rfl, rfl⟩
  · have e1 : joinC a b = 0 := by unfold joinC; rw [if_neg h1, if_neg h2]
    have e2 : joinOk a b = false := by unfold joinOk; rw [decide_eq_false h1, decide_eq_false h2]; rfl
    rw [e1, e2]
    have HA := Lib.hid (fun W => kindOf_any a W)
    have HB := Lib.hid (fun W => kindOf_any b W)
    clear e1 e2
    generalize kind6 a = p at *
    generalize kind6 b = q at *
    by_cases p1 : p = 1
    · subst p1
      have q2 : (q == 2) = false := beq_eq_false_iff_ne.2 (by omega)
      clear h1 h2
      go_enter Try.func6, Try.ntmps6
      go_wp2_with fail
      with_reducible refine (HA.out _).mono ?_
      rintro e w' ⟨rfl, rfl⟩
      go_wp2_with fail
      with_reducible refine (HB.out _).mono ?_
      rintro e w' ⟨rfl, rfl⟩
      go_wp2
      go_ret2
      exact ⟨rfl, rfl⟩
    by_cases p4 : p = 4
    · subst p4
      have q2 : (q == 3) = false := beq_eq_false_iff_ne.2 (by omega)
      clear h1 h2 p1
      go_enter Try.func6, Try.ntmps6
      go_wp2_with fail
      with_reducible refine (HA.out _).mono ?_
      rintro e w' ⟨rfl, rfl⟩
      go_wp2_with fail
      with_reducible refine (HB.out _).mono ?_
      rintro e w' ⟨rfl, rfl⟩
      go_wp2
      go_ret2
      exact ⟨rfl, rfl⟩
    have e1 : (p == 1) = false := beq_eq_false_iff_ne.2 p1
    have e4 : (p == 4) = false := beq_eq_false_iff_ne.2 p4
    clear h1 h2 p1 p4
    go_enter Try.func6, Try.ntmps6
    go_wp2_with fail
    with_reducible refine (HA.out _).mono ?_
    rintro e w' ⟨rfl, rfl⟩
    go_wp2_with fail
    with_reducible refine (HB.out _).mono ?_
    rintro e w' ⟨rfl, rfl⟩
    go_wp2
    go_ret2
    exact ⟨rfl, rfl⟩
end Go.Proofs.Ytiejfgfpkkiinaa
