/- The program's isDigit, isLetter, next, ends by their contracts. -/
import Derived.Test.YtiibfejgiilakaaDoorG11Math
import Derived.Test.YtiibfejgiilakaaDoorG10Norm
namespace Go.Proofs.YtiibfejgiilakaaDoor
set_option maxRecDepth 100000
open Go.ChangeShapes Go.WideShapes Go.ChangeAt Go.RowKit
set_option linter.unusedVariables false
set_option linter.unusedSimpArgs false

def nextV : Option Nat → Value
  | some q => .tuple #[.int .i64 (q : Int), .bool true]
  | none => .tuple #[.int .i64 0, .bool false]
set_option maxHeartbeats 1000000 in
theorem isDigit_any (c : UInt8) (w : World) : Calls Tryd.prog 34 #[.int .u8 (c.toNat : Int)] w fun e w' => e = .returned (.bool (isD c)) ∧ w = w' := by
  rcases isD_ask c with ⟨hd, h1, h2, h3, h4⟩ | ⟨hd, h1, h3⟩ | ⟨hd, h1, h2, h3, h4⟩
  all_goals
    rw [hd]
    clear hd
    go_enter Tryd.func34, Tryd.ntmps34
    go_wp2
    go_ret
    exact ⟨rfl, rfl⟩
set_option maxHeartbeats 1000000 in
theorem isLetter_any (c : UInt8) (w : World) : Calls Tryd.prog 35 #[.int .u8 (c.toNat : Int)] w fun e w' => e = .returned (.bool (isE c)) ∧ w = w' := by
  rcases byte_is c 101 101 rfl with ⟨h, h1⟩ | ⟨h, h1⟩
  · have hr : isE c = true := (isE_iff c).2 (.inl h)
    rw [hr]
    clear hr h
    go_enter Tryd.func35, Tryd.ntmps35
    go_wp2
    go_ret
    exact ⟨rfl, rfl⟩
  · rcases byte_is c 69 69 rfl with ⟨h', h2⟩ | ⟨h', h2⟩
    · have hr : isE c = true := (isE_iff c).2 (.inr h')
      rw [hr]
      clear hr h h'
      go_enter Tryd.func35, Tryd.ntmps35
      go_wp2
      go_ret
      exact ⟨rfl, rfl⟩
    · have hr : isE c = false := by
        cases hh : isE c with
        | false => rfl
        | true => exact absurd ((isE_iff c).1 hh) (fun hx => hx.elim h h')
      rw [hr]
      clear hr h h'
      go_enter Tryd.func35, Tryd.ntmps35
      go_wp2
      go_ret
      exact ⟨rfl, rfl⟩
set_option maxHeartbeats 1000000 in
theorem ends_any (p : Nat) (hp : p ≤ 8) (w : World) : Calls Tryd.prog 28 #[.int .i64 (p : Int)] w fun e w' => e = .returned (.bool (endsF p)) ∧ w = w' := by
  have h : p = 0 ∨ p = 1 ∨ p = 2 ∨ p = 3 ∨ p = 4 ∨ p = 5 ∨ p = 6 ∨ p = 7 ∨ p = 8 := by omega
  rcases h with rfl | rfl | rfl | rfl | rfl | rfl | rfl | rfl | rfl
  all_goals
    go_enter Tryd.func28, Tryd.ntmps28
    go_wp2
    go_ret
    exact ⟨rfl, rfl⟩
theorem ne_ask {c k : UInt8} (h : c ≠ k) (z : Int) (hz : (k.toNat : Int) = z) : ((c.toNat : Int) == z) = false := by
  rcases byte_is c k z hz with ⟨h1, _⟩ | ⟨_, h2⟩
  · exact absurd h1 h
  · exact h2
/-- what a byte is, as next asks it -/
theorem byte_kinds (c : UInt8) : ∃ b45 b48 b46 b43 : Bool, ((c.toNat : Int) == 45) = b45 ∧ ((c.toNat : Int) == 48) = b48 ∧ ((c.toNat : Int) == 46) = b46 ∧ ((c.toNat : Int) == 43) = b43 ∧ (c = 45 ↔ b45 = true) ∧ (c = 48 ↔ b48 = true) ∧ (c = 46 ↔ b46 = true) ∧ (c = 43 ↔ b43 = true) := by
  refine ⟨_, _, _, _, rfl, rfl, rfl, rfl, ?_, ?_, ?_, ?_⟩
  · rcases byte_is c 45 45 rfl with ⟨h, h1⟩ | ⟨h, h1⟩ <;> simp [h, h1]
  · rcases byte_is c 48 48 rfl with ⟨h, h1⟩ | ⟨h, h1⟩ <;> simp [h, h1]
  · rcases byte_is c 46 46 rfl with ⟨h, h1⟩ | ⟨h, h1⟩ <;> simp [h, h1]
  · rcases byte_is c 43 43 rfl with ⟨h, h1⟩ | ⟨h, h1⟩ <;> simp [h, h1]
set_option maxHeartbeats 4000000 in
theorem next_any (p : Nat) (hp : p ≤ 8) (c : UInt8) (w : World) : Calls Tryd.prog 18 #[.int .i64 (p : Int), .int .u8 (c.toNat : Int)] w fun e w' => e = .returned (nextV (nextF p c)) ∧ w = w' := by
  have HD := Lib.hid (fun W => isDigit_any c W)
  have HE := Lib.hid (fun W => isLetter_any c W)
  have h : p = 0 ∨ p = 1 ∨ p = 2 ∨ p = 3 ∨ p = 4 ∨ p = 5 ∨ p = 6 ∨ p = 7 ∨ p = 8 := by omega
  obtain ⟨b45, b48, b46, b43, m45, m48, m46, m43, i45, i48, i46, i43⟩ := byte_kinds c
  rcases h with rfl | rfl | rfl | rfl | rfl | rfl | rfl | rfl | rfl
  · generalize hr : nextV (nextF 0 c) = r
    generalize hd : isD c = d at HD
    cases b45 with
    | true =>
      have hrr : r = nextV (some 1) := by rw [← hr]; unfold nextF; simp [i45]
      subst hrr
      clear hr i45 i48 i46 i43 hd
      go_enter Tryd.func18, Tryd.ntmps18
      go_wp2_with fail
      go_ret2
      exact ⟨rfl, rfl⟩
    | false =>
      cases b48 with
      | true =>
        have hrr : r = nextV (some 2) := by rw [← hr]; unfold nextF; simp [i45, i48]
        subst hrr
        clear hr i45 i48 i46 i43 hd
        go_enter Tryd.func18, Tryd.ntmps18
        go_wp2_with fail
        go_ret2
        exact ⟨rfl, rfl⟩
      | false =>
        cases d with
        | true =>
          have hrr : r = nextV (some 3) := by rw [← hr]; unfold nextF; simp [i45, i48, hd]
          subst hrr
          clear hr i45 i48 i46 i43 hd
          go_enter Tryd.func18, Tryd.ntmps18
          go_wp2_with fail
          with_reducible refine (HD.out _).mono ?_
          rintro e1 w1 ⟨rfl, rfl⟩
          go_wp2_with fail
          go_ret2
          exact ⟨rfl, rfl⟩
        | false =>
          have hrr : r = nextV none := by rw [← hr]; unfold nextF; simp [i45, i48, hd]
          subst hrr
          clear hr i45 i48 i46 i43 hd
          go_enter Tryd.func18, Tryd.ntmps18
          go_wp2_with fail
          with_reducible refine (HD.out _).mono ?_
          rintro e1 w1 ⟨rfl, rfl⟩
          go_wp2_with fail
          go_ret2
          exact ⟨rfl, rfl⟩
  · generalize hr : nextV (nextF 1 c) = r
    generalize hd : isD c = d at HD
    cases b48 with
    | true =>
      have hrr : r = nextV (some 2) := by rw [← hr]; unfold nextF; simp [i48]
      subst hrr
      clear hr i45 i48 i46 i43 hd
      go_enter Tryd.func18, Tryd.ntmps18
      go_wp2_with fail
      go_ret2
      exact ⟨rfl, rfl⟩
    | false =>
      cases d with
      | true =>
        have hrr : r = nextV (some 3) := by rw [← hr]; unfold nextF; simp [i48, hd]
        subst hrr
        clear hr i45 i48 i46 i43 hd
        go_enter Tryd.func18, Tryd.ntmps18
        go_wp2_with fail
        with_reducible refine (HD.out _).mono ?_
        rintro e1 w1 ⟨rfl, rfl⟩
        go_wp2_with fail
        go_ret2
        exact ⟨rfl, rfl⟩
      | false =>
        have hrr : r = nextV none := by rw [← hr]; unfold nextF; simp [i48, hd]
        subst hrr
        clear hr i45 i48 i46 i43 hd
        go_enter Tryd.func18, Tryd.ntmps18
        go_wp2_with fail
        with_reducible refine (HD.out _).mono ?_
        rintro e1 w1 ⟨rfl, rfl⟩
        go_wp2_with fail
        go_ret2
        exact ⟨rfl, rfl⟩
  · generalize hr : nextV (nextF 2 c) = r
    generalize he : isE c = e at HE
    cases b46 with
    | true =>
      have hrr : r = nextV (some 4) := by rw [← hr]; unfold nextF; simp [i46]
      subst hrr
      clear hr i45 i48 i46 i43 he
      go_enter Tryd.func18, Tryd.ntmps18
      go_wp2_with fail
      go_ret2
      exact ⟨rfl, rfl⟩
    | false =>
      cases e with
      | true =>
        have hrr : r = nextV (some 6) := by rw [← hr]; unfold nextF; simp [i46, he]
        subst hrr
        clear hr i45 i48 i46 i43 he
        go_enter Tryd.func18, Tryd.ntmps18
        go_wp2_with fail
        with_reducible refine (HE.out _).mono ?_
        rintro e1 w1 ⟨rfl, rfl⟩
        go_wp2_with fail
        go_ret2
        exact ⟨rfl, rfl⟩
      | false =>
        have hrr : r = nextV none := by rw [← hr]; unfold nextF; simp [i46, he]
        subst hrr
        clear hr i45 i48 i46 i43 he
        go_enter Tryd.func18, Tryd.ntmps18
        go_wp2_with fail
        with_reducible refine (HE.out _).mono ?_
        rintro e1 w1 ⟨rfl, rfl⟩
        go_wp2_with fail
        go_ret2
        exact ⟨rfl, rfl⟩
  · generalize hr : nextV (nextF 3 c) = r
    generalize hd : isD c = d at HD
    generalize he : isE c = e at HE
    cases d with
    | true =>
      have hrr : r = nextV (some 3) := by rw [← hr]; unfold nextF; simp [hd]
      subst hrr
      clear hr i45 i48 i46 i43 hd he
      go_enter Tryd.func18, Tryd.ntmps18
      go_wp2_with fail
      with_reducible refine (HD.out _).mono ?_
      rintro e1 w1 ⟨rfl, rfl⟩
      go_wp2_with fail
      go_ret2
      exact ⟨rfl, rfl⟩
    | false =>
      cases b46 with
      | true =>
        have hrr : r = nextV (some 4) := by rw [← hr]; unfold nextF; simp [hd, i46]
        subst hrr
        clear hr i45 i48 i46 i43 hd he
        go_enter Tryd.func18, Tryd.ntmps18
        go_wp2_with fail
        with_reducible refine (HD.out _).mono ?_
        rintro e1 w1 ⟨rfl, rfl⟩
        go_wp2_with fail
        go_ret2
        exact ⟨rfl, rfl⟩
      | false =>
        cases e with
        | true =>
          have hrr : r = nextV (some 6) := by rw [← hr]; unfold nextF; simp [hd, i46, he]
          subst hrr
          clear hr i45 i48 i46 i43 hd he
          go_enter Tryd.func18, Tryd.ntmps18
          go_wp2_with fail
          with_reducible refine (HD.out _).mono ?_
          rintro e1 w1 ⟨rfl, rfl⟩
          go_wp2_with fail
          with_reducible refine (HE.out _).mono ?_
          rintro e1 w1 ⟨rfl, rfl⟩
          go_wp2_with fail
          go_ret2
          exact ⟨rfl, rfl⟩
        | false =>
          have hrr : r = nextV none := by rw [← hr]; unfold nextF; simp [hd, i46, he]
          subst hrr
          clear hr i45 i48 i46 i43 hd he
          go_enter Tryd.func18, Tryd.ntmps18
          go_wp2_with fail
          with_reducible refine (HD.out _).mono ?_
          rintro e1 w1 ⟨rfl, rfl⟩
          go_wp2_with fail
          with_reducible refine (HE.out _).mono ?_
          rintro e1 w1 ⟨rfl, rfl⟩
          go_wp2_with fail
          go_ret2
          exact ⟨rfl, rfl⟩
  · generalize hr : nextV (nextF 4 c) = r
    generalize hd : isD c = d at HD
    cases d with
    | true =>
      have hrr : r = nextV (some 5) := by rw [← hr]; unfold nextF; simp [hd]
      subst hrr
      clear hr i45 i48 i46 i43 hd
      go_enter Tryd.func18, Tryd.ntmps18
      go_wp2_with fail
      with_reducible refine (HD.out _).mono ?_
      rintro e1 w1 ⟨rfl, rfl⟩
      go_wp2_with fail
      go_ret2
      exact ⟨rfl, rfl⟩
    | false =>
      have hrr : r = nextV none := by rw [← hr]; unfold nextF; simp [hd]
      subst hrr
      clear hr i45 i48 i46 i43 hd
      go_enter Tryd.func18, Tryd.ntmps18
      go_wp2_with fail
      with_reducible refine (HD.out _).mono ?_
      rintro e1 w1 ⟨rfl, rfl⟩
      go_wp2_with fail
      go_ret2
      exact ⟨rfl, rfl⟩
  · generalize hr : nextV (nextF 5 c) = r
    generalize hd : isD c = d at HD
    generalize he : isE c = e at HE
    cases e with
    | true =>
      have hrr : r = nextV (some 6) := by rw [← hr]; unfold nextF; simp [he]
      subst hrr
      clear hr i45 i48 i46 i43 hd he
      go_enter Tryd.func18, Tryd.ntmps18
      go_wp2_with fail
      with_reducible refine (HE.out _).mono ?_
      rintro e1 w1 ⟨rfl, rfl⟩
      go_wp2_with fail
      go_ret2
      exact ⟨rfl, rfl⟩
    | false =>
      cases d with
      | true =>
        have hrr : r = nextV (some 5) := by rw [← hr]; unfold nextF; simp [he, hd]
        subst hrr
        clear hr i45 i48 i46 i43 hd he
        go_enter Tryd.func18, Tryd.ntmps18
        go_wp2_with fail
        with_reducible refine (HE.out _).mono ?_
        rintro e1 w1 ⟨rfl, rfl⟩
        go_wp2_with fail
        with_reducible refine (HD.out _).mono ?_
        rintro e1 w1 ⟨rfl, rfl⟩
        go_wp2_with fail
        go_ret2
        exact ⟨rfl, rfl⟩
      | false =>
        have hrr : r = nextV none := by rw [← hr]; unfold nextF; simp [he, hd]
        subst hrr
        clear hr i45 i48 i46 i43 hd he
        go_enter Tryd.func18, Tryd.ntmps18
        go_wp2_with fail
        with_reducible refine (HE.out _).mono ?_
        rintro e1 w1 ⟨rfl, rfl⟩
        go_wp2_with fail
        with_reducible refine (HD.out _).mono ?_
        rintro e1 w1 ⟨rfl, rfl⟩
        go_wp2_with fail
        go_ret2
        exact ⟨rfl, rfl⟩
  · generalize hr : nextV (nextF 6 c) = r
    generalize hd : isD c = d at HD
    cases b43 with
    | true =>
      have hrr : r = nextV (some 7) := by rw [← hr]; unfold nextF; simp [i43]
      subst hrr
      clear hr i45 i48 i46 i43 hd
      go_enter Tryd.func18, Tryd.ntmps18
      go_wp2_with fail
      go_ret2
      exact ⟨rfl, rfl⟩
    | false =>
      cases b45 with
      | true =>
        have hrr : r = nextV (some 7) := by rw [← hr]; unfold nextF; simp [i43, i45]
        subst hrr
        clear hr i45 i48 i46 i43 hd
        go_enter Tryd.func18, Tryd.ntmps18
        go_wp2_with fail
        go_ret2
        exact ⟨rfl, rfl⟩
      | false =>
        cases d with
        | true =>
          have hrr : r = nextV (some 8) := by rw [← hr]; unfold nextF; simp [i43, i45, hd]
          subst hrr
          clear hr i45 i48 i46 i43 hd
          go_enter Tryd.func18, Tryd.ntmps18
          go_wp2_with fail
          with_reducible refine (HD.out _).mono ?_
          rintro e1 w1 ⟨rfl, rfl⟩
          go_wp2_with fail
          go_ret2
          exact ⟨rfl, rfl⟩
        | false =>
          have hrr : r = nextV none := by rw [← hr]; unfold nextF; simp [i43, i45, hd]
          subst hrr
          clear hr i45 i48 i46 i43 hd
          go_enter Tryd.func18, Tryd.ntmps18
          go_wp2_with fail
          with_reducible refine (HD.out _).mono ?_
          rintro e1 w1 ⟨rfl, rfl⟩
          go_wp2_with fail
          go_ret2
          exact ⟨rfl, rfl⟩
  · generalize hr : nextV (nextF 7 c) = r
    generalize hd : isD c = d at HD
    cases d with
    | true =>
      have hrr : r = nextV (some 8) := by rw [← hr]; unfold nextF; simp [hd]
      subst hrr
      clear hr i45 i48 i46 i43 hd
      go_enter Tryd.func18, Tryd.ntmps18
      go_wp2_with fail
      with_reducible refine (HD.out _).mono ?_
      rintro e1 w1 ⟨rfl, rfl⟩
      go_wp2_with fail
      go_ret2
      exact ⟨rfl, rfl⟩
    | false =>
      have hrr : r = nextV none := by rw [← hr]; unfold nextF; simp [hd]
      subst hrr
      clear hr i45 i48 i46 i43 hd
      go_enter Tryd.func18, Tryd.ntmps18
      go_wp2_with fail
      with_reducible refine (HD.out _).mono ?_
      rintro e1 w1 ⟨rfl, rfl⟩
      go_wp2_with fail
      go_ret2
      exact ⟨rfl, rfl⟩
  · generalize hr : nextV (nextF 8 c) = r
    generalize hd : isD c = d at HD
    cases d with
    | true =>
      have hrr : r = nextV (some 8) := by rw [← hr]; unfold nextF; simp [hd]
      subst hrr
      clear hr i45 i48 i46 i43 hd
      go_enter Tryd.func18, Tryd.ntmps18
      go_wp2_with fail
      with_reducible refine (HD.out _).mono ?_
      rintro e1 w1 ⟨rfl, rfl⟩
      go_wp2_with fail
      go_ret2
      exact ⟨rfl, rfl⟩
    | false =>
      have hrr : r = nextV none := by rw [← hr]; unfold nextF; simp [hd]
      subst hrr
      clear hr i45 i48 i46 i43 hd
      go_enter Tryd.func18, Tryd.ntmps18
      go_wp2_with fail
      with_reducible refine (HD.out _).mono ?_
      rintro e1 w1 ⟨rfl, rfl⟩
      go_wp2_with fail
      go_ret2
      exact ⟨rfl, rfl⟩
end Go.Proofs.YtiibfejgiilakaaDoor
