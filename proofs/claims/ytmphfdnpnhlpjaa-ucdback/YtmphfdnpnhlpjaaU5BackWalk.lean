/- Printed by gen_u5b.py. The walk of UcdBack. -/
import Derived.Test.YtmphfdnpnhlpjaaU5Awk
import Derived.Test.YtmphfdnpnhlpjaaLaw00R
import Derived.Test.YtmphfdnpnhlpjaaR6Kind
namespace Go.Proofs.Ytmphfdnpnhlpjaa
open Go.ChangeShapes Go.WideShapes Go.ChangeAt Go.RowKit
set_option linter.unusedVariables false
set_option linter.unusedSimpArgs false

/-- what Pair, Single, Joined, Second tell of these, whatever the world -/
def PairIs (c x y : Int) (k : Bool) : Prop := ∀ (g : Nat) (w : World), TblAt w w.heap.size g C5 P5 S5 → Calls Try.prog 10 #[.pointer (some ⟨g, 0, none⟩), .int .i32 c] w fun e w' => e = .returned (.tuple #[.int .i32 x, .int .i32 y, .bool k]) ∧ Below w.heap.size w w'
def SingleIs (c v : Int) (k : Bool) : Prop := ∀ (g : Nat) (w : World), TblAt w w.heap.size g C5 P5 S5 → Calls Try.prog 11 #[.pointer (some ⟨g, 0, none⟩), .int .i32 c] w fun e w' => e = .returned (.tuple #[.int .i32 v, .bool k]) ∧ Still w w'
def JoinedIs (a b c : Int) (k : Bool) : Prop := ∀ (g : Nat) (w : World), TblAt w w.heap.size g C5 P5 S5 → Calls Try.prog 15 #[.pointer (some ⟨g, 0, none⟩), .int .i32 a, .int .i32 b] w fun e w' => e = .returned (.tuple #[.int .i32 c, .bool k]) ∧ w = w'
theorem pair_some {c : Int} {p : Pr5} (h : lastP P5 c = some p) : PairIs c p.x p.y true := fun g w hT => by
  have e1 : pxF P5 c = p.x := by unfold pxF; rw [h]; rfl
  have e2 : pyF P5 c = p.y := by unfold pyF; rw [h]; rfl
  have e3 : pkF P5 c = true := by unfold pkF; rw [h]; rfl
  have := pairQ hT fine5 c
  rwa [e1, e2, e3] at this
theorem pair_none {c : Int} (h : lastP P5 c = none) : PairIs c 0 0 false := fun g w hT => by
  have e1 : pxF P5 c = 0 := by unfold pxF; rw [h]; rfl
  have e2 : pyF P5 c = 0 := by unfold pyF; rw [h]; rfl
  have e3 : pkF P5 c = false := by unfold pkF; rw [h]; rfl
  have := pairQ hT fine5 c
  rwa [e1, e2, e3] at this
theorem single_nz {c : Int} {v : Nat} (h : tab (castE S5) c = v) (hv : v ≠ 0) : SingleIs c v true := fun g w hT => by
  have := singleQ hT fine5 c
  rw [h] at this
  have e : ((v : Int) != 0) = true := by simp; omega
  rwa [e] at this
theorem single_z {c : Int} (h : tab (castE S5) c = 0) : SingleIs c 0 false := fun g w hT => by
  have := singleQ hT fine5 c
  rwa [h] at this
theorem joined_in {a b : Nat} (ha : a ≤ 1114111) (hb : b ≤ 1114111) (h : [(a : Int), (b : Int)] ∈ (jst P5).1) {c : Int} (hc : (jst P5).2 [(a : Int), (b : Int)] = c) : JoinedIs a b c true := fun g w hT => by
  have := joinedQ hT a b (WalkArith.wf_i32 (by omega)) (WalkArith.wf_i32 (by omega))
  rw [if_pos h, hc, decide_eq_true h] at this
  exact this
theorem joined_out {a b : Nat} (ha : a ≤ 1114111) (hb : b ≤ 1114111) (h : [(a : Int), (b : Int)] ∉ (jst P5).1) : JoinedIs a b 0 false := fun g w hT => by
  have := joinedQ hT a b (WalkArith.wf_i32 (by omega)) (WalkArith.wf_i32 (by omega))
  rw [if_neg h, decide_eq_false h] at this
  exact this
/-- whatever it is -/
theorem joined_some (a b : Nat) (ha : a ≤ 1114111) (hb : b ≤ 1114111) : ∃ c k, JoinedIs a b c k := by
  by_cases h : [(a : Int), (b : Int)] ∈ (jst P5).1
  · exact ⟨_, _, joined_in ha hb h rfl⟩
  · exact ⟨_, _, joined_out ha hb h⟩
theorem second_in {p : Pr5} (hp : p ∈ P5) (ho : p.o = false) : tab (castE (scL P5)) (p.y : Int) ≠ 0 := fun h => by
  have hsc : ∀ e ∈ scL P5, e.1 ≤ 1114111 := fun e he => by
    obtain ⟨q, hq, _, rfl⟩ := scL_mem.1 he
    exact (fine5.p q hq).2.2
  have hnz : ∀ e ∈ scL P5, e.2 ≠ 0 := fun e he => by
    obtain ⟨q, hq, _, rfl⟩ := scL_mem.1 he
    exact Nat.one_ne_zero
  exact tab_z hsc hnz h (p.y, 1) (scL_mem.2 ⟨p, hp, ho, rfl⟩) rfl

set_option maxRecDepth 100000 in
set_option maxHeartbeats 4000000 in
theorem back_ways (n m : Int) (w : World) (a b : Nat) (ha : a ≤ 1114111) (hb : b ≤ 1114111) (HR1 : Hid (∀ w : World, Calls Try.prog 17 #[.int .i64 n] w fun e w' => e = .returned (.int .i32 (a : Int)) ∧ w = w')) (HR2 : Hid (∀ w : World, Calls Try.prog 17 #[.int .i64 m] w fun e w' => e = .returned (.int .i32 (b : Int)) ∧ w = w'))
    (x y d v kd : Int) (is one jn : Bool) (hPa : PairIs a x y is) (hSa : SingleIs a v one) (hKd : ∀ w, Calls Try.prog 18 #[.int .i32 (a : Int)] w fun e w' => e = .returned (.int .i64 kd) ∧ w = w') (hJ2 : JoinedIs x y d jn)
    (q1 : (is && one) = false) (q2 : kd ≤ 3 ∨ (is = false ∧ one = false)) (q3 : is = false ∨ jn = false ∨ d = a) (q4 : is = true ∨ (x = 0 ∧ y = 0)) :
    Calls Try.prog 5 #[.int .i64 n, .int .i64 m] w fun e w' => e = .returned (.bool true) ∧ Below w.heap.size w w' := by
  have HPa := Lib.hid (fun (w : World) {g : Nat} (hT : TblAt w w.heap.size g C5 P5 S5) => hPa g w hT)
  have HSa := Lib.hid (fun (w : World) {g : Nat} (hT : TblAt w w.heap.size g C5 P5 S5) => hSa g w hT)
  have HKd := Lib.hid hKd
  have HJ2 := Lib.hid (fun (w : World) {g : Nat} (hT : TblAt w w.heap.size g C5 P5 S5) => hJ2 g w hT)
  clear hPa hSa hKd hJ2
  by_cases hm : [(a : Int), (b : Int)] ∈ (jst P5).1
  · obtain ⟨p, hp, ho, hk, hc⟩ := jst_in hm
    have hx : p.x = a ∧ p.y = b := by unfold key5 at hk; simp at hk; omega
    obtain ⟨rfl, rfl⟩ := hx
    have HJ1 := Lib.hid (fun (w : World) {g : Nat} (hT : TblAt w w.heap.size g C5 P5 S5) => joined_in ha hb hm hc g w hT)
    have HPc := Lib.hid (fun (w : World) {g : Nat} (hT : TblAt w w.heap.size g C5 P5 S5) => pair_some (lastP_once nodupC hp) g w hT)
    have HSb : Hid (∀ (w : World) {g : Nat} (hT : TblAt w w.heap.size g C5 P5 S5), Calls Try.prog 13 #[.pointer (some ⟨g, 0, none⟩), .int .i32 (p.y : Int)] w fun e w' => e = .returned (.bool true) ∧ Still w w') := Lib.hid (fun w {g} hT => by
      have h := secondQ hT (p.y : Int)
      have e : (tab (castE (scL P5)) (p.y : Int) != 0) = true := by simpa using second_in hp ho
      rwa [e] at h)
    have n1 : ((p.x : Int) != p.x) = false := by simp
    have n2 : ((p.y : Int) != p.y) = false := by simp
    clear hm ho hk hc hp
    generalize p.c = c at *
    generalize p.x = a at *
    generalize p.y = b at *
    cases is with
    | true =>
      obtain rfl : one = false := by simpa using q1
      have hk3 : ¬ 3 < kd := by have := q2; simp at this; omega
      clear q1 q2 q4
      cases jn with
      | true =>
        obtain rfl : d = a := by simpa using q3
        go_enter Try.func5, Try.ntmps5
        go_wp2_with fail
        with_reducible refine (ubuild_any _).mono ?_
        rintro e w1 ⟨g, rfl, ht, hb⟩
        have HT1 := Lib.hid ht
        have HB1 := Lib.hid hb
        clear ht hb
        go_wp2_with fail
        with_reducible refine (HR1.out _).mono ?_
        rintro e w' ⟨rfl, rfl⟩
        go_wp2_with fail
        with_reducible refine (HR2.out _).mono ?_
        rintro e w' ⟨rfl, rfl⟩
        go_wp2_with fail
        with_reducible refine (HJ1.out _ HT1.out).mono ?_
        rintro e w' ⟨rfl, rfl⟩
        go_wp2_with fail
        with_reducible refine (HPc.out _ HT1.out).mono ?_
        rintro e w2 ⟨rfl, hb2⟩
        have HT2 := Lib.hid (HT1.out.go hb2)
        have HB2 := Lib.hid (HB1.out.trans (hb2.mono HB1.out.size))
        clear hb2
        go_wp2_with fail
        with_reducible refine (HSb.out _ HT2.out).mono ?_
        rintro e w3 ⟨rfl, hb3⟩
        have HT3 := Lib.hid (HT2.out.go hb3.below)
        have HB3 := Lib.hid (HB2.out.trans (hb3.below.mono HB2.out.size))
        clear hb3
        go_wp2_with fail
        with_reducible refine (HPa.out _ HT3.out).mono ?_
        rintro e w4 ⟨rfl, hb4⟩
        have HT4 := Lib.hid (HT3.out.go hb4)
        have HB4 := Lib.hid (HB3.out.trans (hb4.mono HB3.out.size))
        clear hb4
        go_wp2_with fail
        with_reducible refine (HSa.out _ HT4.out).mono ?_
        rintro e w5 ⟨rfl, hb5⟩
        have HT5 := Lib.hid (HT4.out.go hb5.below)
        have HB5 := Lib.hid (HB4.out.trans (hb5.below.mono HB4.out.size))
        clear hb5
        go_wp2_with fail
        with_reducible refine (HKd.out _).mono ?_
        rintro e w' ⟨rfl, rfl⟩
        go_wp2_with fail
        with_reducible refine (HJ2.out _ HT5.out).mono ?_
        rintro e w' ⟨rfl, rfl⟩
        go_wp2_with fail
        with_reducible refine (awake_any _ _ HT5.out).mono ?_
        rintro e w6 ⟨rfl, hb6⟩
        have HT6 := Lib.hid (HT5.out.go hb6)
        have HB6 := Lib.hid (HB5.out.trans (hb6.mono HB5.out.size))
        clear hb6
        go_wp2
        go_ret
        exact ⟨rfl, HB6.out⟩
      | false =>
        clear q3
        go_enter Try.func5, Try.ntmps5
        go_wp2_with fail
        with_reducible refine (ubuild_any _).mono ?_
        rintro e w1 ⟨g, rfl, ht, hb⟩
        have HT1 := Lib.hid ht
        have HB1 := Lib.hid hb
        clear ht hb
        go_wp2_with fail
        with_reducible refine (HR1.out _).mono ?_
        rintro e w' ⟨rfl, rfl⟩
        go_wp2_with fail
        with_reducible refine (HR2.out _).mono ?_
        rintro e w' ⟨rfl, rfl⟩
        go_wp2_with fail
        with_reducible refine (HJ1.out _ HT1.out).mono ?_
        rintro e w' ⟨rfl, rfl⟩
        go_wp2_with fail
        with_reducible refine (HPc.out _ HT1.out).mono ?_
        rintro e w2 ⟨rfl, hb2⟩
        have HT2 := Lib.hid (HT1.out.go hb2)
        have HB2 := Lib.hid (HB1.out.trans (hb2.mono HB1.out.size))
        clear hb2
        go_wp2_with fail
        with_reducible refine (HSb.out _ HT2.out).mono ?_
        rintro e w3 ⟨rfl, hb3⟩
        have HT3 := Lib.hid (HT2.out.go hb3.below)
        have HB3 := Lib.hid (HB2.out.trans (hb3.below.mono HB2.out.size))
        clear hb3
        go_wp2_with fail
        with_reducible refine (HPa.out _ HT3.out).mono ?_
        rintro e w4 ⟨rfl, hb4⟩
        have HT4 := Lib.hid (HT3.out.go hb4)
        have HB4 := Lib.hid (HB3.out.trans (hb4.mono HB3.out.size))
        clear hb4
        go_wp2_with fail
        with_reducible refine (HSa.out _ HT4.out).mono ?_
        rintro e w5 ⟨rfl, hb5⟩
        have HT5 := Lib.hid (HT4.out.go hb5.below)
        have HB5 := Lib.hid (HB4.out.trans (hb5.below.mono HB4.out.size))
        clear hb5
        go_wp2_with fail
        with_reducible refine (HKd.out _).mono ?_
        rintro e w' ⟨rfl, rfl⟩
        go_wp2_with fail
        with_reducible refine (HJ2.out _ HT5.out).mono ?_
        rintro e w' ⟨rfl, rfl⟩
        go_wp2_with fail
        with_reducible refine (awake_any _ _ HT5.out).mono ?_
        rintro e w6 ⟨rfl, hb6⟩
        have HT6 := Lib.hid (HT5.out.go hb6)
        have HB6 := Lib.hid (HB5.out.trans (hb6.mono HB5.out.size))
        clear hb6
        go_wp2
        go_ret
        exact ⟨rfl, HB6.out⟩
    | false =>
      obtain ⟨rfl, rfl⟩ : x = 0 ∧ y = 0 := by simpa using q4
      clear q1 q3 q4
      cases one with
      | true =>
        have hk3 : ¬ 3 < kd := by have := q2; simp at this; omega
        clear q2
        go_enter Try.func5, Try.ntmps5
        go_wp2_with fail
        with_reducible refine (ubuild_any _).mono ?_
        rintro e w1 ⟨g, rfl, ht, hb⟩
        have HT1 := Lib.hid ht
        have HB1 := Lib.hid hb
        clear ht hb
        go_wp2_with fail
        with_reducible refine (HR1.out _).mono ?_
        rintro e w' ⟨rfl, rfl⟩
        go_wp2_with fail
        with_reducible refine (HR2.out _).mono ?_
        rintro e w' ⟨rfl, rfl⟩
        go_wp2_with fail
        with_reducible refine (HJ1.out _ HT1.out).mono ?_
        rintro e w' ⟨rfl, rfl⟩
        go_wp2_with fail
        with_reducible refine (HPc.out _ HT1.out).mono ?_
        rintro e w2 ⟨rfl, hb2⟩
        have HT2 := Lib.hid (HT1.out.go hb2)
        have HB2 := Lib.hid (HB1.out.trans (hb2.mono HB1.out.size))
        clear hb2
        go_wp2_with fail
        with_reducible refine (HSb.out _ HT2.out).mono ?_
        rintro e w3 ⟨rfl, hb3⟩
        have HT3 := Lib.hid (HT2.out.go hb3.below)
        have HB3 := Lib.hid (HB2.out.trans (hb3.below.mono HB2.out.size))
        clear hb3
        go_wp2_with fail
        with_reducible refine (HPa.out _ HT3.out).mono ?_
        rintro e w4 ⟨rfl, hb4⟩
        have HT4 := Lib.hid (HT3.out.go hb4)
        have HB4 := Lib.hid (HB3.out.trans (hb4.mono HB3.out.size))
        clear hb4
        go_wp2_with fail
        with_reducible refine (HSa.out _ HT4.out).mono ?_
        rintro e w5 ⟨rfl, hb5⟩
        have HT5 := Lib.hid (HT4.out.go hb5.below)
        have HB5 := Lib.hid (HB4.out.trans (hb5.below.mono HB4.out.size))
        clear hb5
        go_wp2_with fail
        with_reducible refine (HKd.out _).mono ?_
        rintro e w' ⟨rfl, rfl⟩
        go_wp2_with fail
        with_reducible refine (HJ2.out _ HT5.out).mono ?_
        rintro e w' ⟨rfl, rfl⟩
        go_wp2_with fail
        with_reducible refine (awake_any _ _ HT5.out).mono ?_
        rintro e w6 ⟨rfl, hb6⟩
        have HT6 := Lib.hid (HT5.out.go hb6)
        have HB6 := Lib.hid (HB5.out.trans (hb6.mono HB5.out.size))
        clear hb6
        go_wp2
        go_ret
        exact ⟨rfl, HB6.out⟩
      | false =>
        clear q2
        by_cases hk3 : 3 < kd
        · skip
          go_enter Try.func5, Try.ntmps5
          go_wp2_with fail
          with_reducible refine (ubuild_any _).mono ?_
          rintro e w1 ⟨g, rfl, ht, hb⟩
          have HT1 := Lib.hid ht
          have HB1 := Lib.hid hb
          clear ht hb
          go_wp2_with fail
          with_reducible refine (HR1.out _).mono ?_
          rintro e w' ⟨rfl, rfl⟩
          go_wp2_with fail
          with_reducible refine (HR2.out _).mono ?_
          rintro e w' ⟨rfl, rfl⟩
          go_wp2_with fail
          with_reducible refine (HJ1.out _ HT1.out).mono ?_
          rintro e w' ⟨rfl, rfl⟩
          go_wp2_with fail
          with_reducible refine (HPc.out _ HT1.out).mono ?_
          rintro e w2 ⟨rfl, hb2⟩
          have HT2 := Lib.hid (HT1.out.go hb2)
          have HB2 := Lib.hid (HB1.out.trans (hb2.mono HB1.out.size))
          clear hb2
          go_wp2_with fail
          with_reducible refine (HSb.out _ HT2.out).mono ?_
          rintro e w3 ⟨rfl, hb3⟩
          have HT3 := Lib.hid (HT2.out.go hb3.below)
          have HB3 := Lib.hid (HB2.out.trans (hb3.below.mono HB2.out.size))
          clear hb3
          go_wp2_with fail
          with_reducible refine (HPa.out _ HT3.out).mono ?_
          rintro e w4 ⟨rfl, hb4⟩
          have HT4 := Lib.hid (HT3.out.go hb4)
          have HB4 := Lib.hid (HB3.out.trans (hb4.mono HB3.out.size))
          clear hb4
          go_wp2_with fail
          with_reducible refine (HSa.out _ HT4.out).mono ?_
          rintro e w5 ⟨rfl, hb5⟩
          have HT5 := Lib.hid (HT4.out.go hb5.below)
          have HB5 := Lib.hid (HB4.out.trans (hb5.below.mono HB4.out.size))
          clear hb5
          go_wp2_with fail
          with_reducible refine (HKd.out _).mono ?_
          rintro e w' ⟨rfl, rfl⟩
          go_wp2_with fail
          with_reducible refine (HJ2.out _ HT5.out).mono ?_
          rintro e w' ⟨rfl, rfl⟩
          go_wp2_with fail
          with_reducible refine (awake_any _ _ HT5.out).mono ?_
          rintro e w6 ⟨rfl, hb6⟩
          have HT6 := Lib.hid (HT5.out.go hb6)
          have HB6 := Lib.hid (HB5.out.trans (hb6.mono HB5.out.size))
          clear hb6
          go_wp2
          go_ret
          exact ⟨rfl, HB6.out⟩
        · skip
          go_enter Try.func5, Try.ntmps5
          go_wp2_with fail
          with_reducible refine (ubuild_any _).mono ?_
          rintro e w1 ⟨g, rfl, ht, hb⟩
          have HT1 := Lib.hid ht
          have HB1 := Lib.hid hb
          clear ht hb
          go_wp2_with fail
          with_reducible refine (HR1.out _).mono ?_
          rintro e w' ⟨rfl, rfl⟩
          go_wp2_with fail
          with_reducible refine (HR2.out _).mono ?_
          rintro e w' ⟨rfl, rfl⟩
          go_wp2_with fail
          with_reducible refine (HJ1.out _ HT1.out).mono ?_
          rintro e w' ⟨rfl, rfl⟩
          go_wp2_with fail
          with_reducible refine (HPc.out _ HT1.out).mono ?_
          rintro e w2 ⟨rfl, hb2⟩
          have HT2 := Lib.hid (HT1.out.go hb2)
          have HB2 := Lib.hid (HB1.out.trans (hb2.mono HB1.out.size))
          clear hb2
          go_wp2_with fail
          with_reducible refine (HSb.out _ HT2.out).mono ?_
          rintro e w3 ⟨rfl, hb3⟩
          have HT3 := Lib.hid (HT2.out.go hb3.below)
          have HB3 := Lib.hid (HB2.out.trans (hb3.below.mono HB2.out.size))
          clear hb3
          go_wp2_with fail
          with_reducible refine (HPa.out _ HT3.out).mono ?_
          rintro e w4 ⟨rfl, hb4⟩
          have HT4 := Lib.hid (HT3.out.go hb4)
          have HB4 := Lib.hid (HB3.out.trans (hb4.mono HB3.out.size))
          clear hb4
          go_wp2_with fail
          with_reducible refine (HSa.out _ HT4.out).mono ?_
          rintro e w5 ⟨rfl, hb5⟩
          have HT5 := Lib.hid (HT4.out.go hb5.below)
          have HB5 := Lib.hid (HB4.out.trans (hb5.below.mono HB4.out.size))
          clear hb5
          go_wp2_with fail
          with_reducible refine (HKd.out _).mono ?_
          rintro e w' ⟨rfl, rfl⟩
          go_wp2_with fail
          with_reducible refine (HJ2.out _ HT5.out).mono ?_
          rintro e w' ⟨rfl, rfl⟩
          go_wp2_with fail
          with_reducible refine (awake_any _ _ HT5.out).mono ?_
          rintro e w6 ⟨rfl, hb6⟩
          have HT6 := Lib.hid (HT5.out.go hb6)
          have HB6 := Lib.hid (HB5.out.trans (hb6.mono HB5.out.size))
          clear hb6
          go_wp2
          go_ret
          exact ⟨rfl, HB6.out⟩
  · have HJ1 := Lib.hid (fun (w : World) {g : Nat} (hT : TblAt w w.heap.size g C5 P5 S5) => joined_out ha hb hm g w hT)
    clear hm
    cases is with
    | true =>
      obtain rfl : one = false := by simpa using q1
      have hk3 : ¬ 3 < kd := by have := q2; simp at this; omega
      clear q1 q2 q4
      cases jn with
      | true =>
        obtain rfl : d = a := by simpa using q3
        go_enter Try.func5, Try.ntmps5
        go_wp2_with fail
        with_reducible refine (ubuild_any _).mono ?_
        rintro e w1 ⟨g, rfl, ht, hb⟩
        have HT1 := Lib.hid ht
        have HB1 := Lib.hid hb
        clear ht hb
        go_wp2_with fail
        with_reducible refine (HR1.out _).mono ?_
        rintro e w' ⟨rfl, rfl⟩
        go_wp2_with fail
        with_reducible refine (HR2.out _).mono ?_
        rintro e w' ⟨rfl, rfl⟩
        go_wp2_with fail
        with_reducible refine (HJ1.out _ HT1.out).mono ?_
        rintro e w' ⟨rfl, rfl⟩
        go_wp2_with fail
        with_reducible refine (HPa.out _ HT1.out).mono ?_
        rintro e w2 ⟨rfl, hb2⟩
        have HT2 := Lib.hid (HT1.out.go hb2)
        have HB2 := Lib.hid (HB1.out.trans (hb2.mono HB1.out.size))
        clear hb2
        go_wp2_with fail
        with_reducible refine (HSa.out _ HT2.out).mono ?_
        rintro e w3 ⟨rfl, hb3⟩
        have HT3 := Lib.hid (HT2.out.go hb3.below)
        have HB3 := Lib.hid (HB2.out.trans (hb3.below.mono HB2.out.size))
        clear hb3
        go_wp2_with fail
        with_reducible refine (HKd.out _).mono ?_
        rintro e w' ⟨rfl, rfl⟩
        go_wp2_with fail
        with_reducible refine (HJ2.out _ HT3.out).mono ?_
        rintro e w' ⟨rfl, rfl⟩
        go_wp2_with fail
        with_reducible refine (awake_any _ _ HT3.out).mono ?_
        rintro e w4 ⟨rfl, hb4⟩
        have HT4 := Lib.hid (HT3.out.go hb4)
        have HB4 := Lib.hid (HB3.out.trans (hb4.mono HB3.out.size))
        clear hb4
        go_wp2
        go_ret
        exact ⟨rfl, HB4.out⟩
      | false =>
        clear q3
        go_enter Try.func5, Try.ntmps5
        go_wp2_with fail
        with_reducible refine (ubuild_any _).mono ?_
        rintro e w1 ⟨g, rfl, ht, hb⟩
        have HT1 := Lib.hid ht
        have HB1 := Lib.hid hb
        clear ht hb
        go_wp2_with fail
        with_reducible refine (HR1.out _).mono ?_
        rintro e w' ⟨rfl, rfl⟩
        go_wp2_with fail
        with_reducible refine (HR2.out _).mono ?_
        rintro e w' ⟨rfl, rfl⟩
        go_wp2_with fail
        with_reducible refine (HJ1.out _ HT1.out).mono ?_
        rintro e w' ⟨rfl, rfl⟩
        go_wp2_with fail
        with_reducible refine (HPa.out _ HT1.out).mono ?_
        rintro e w2 ⟨rfl, hb2⟩
        have HT2 := Lib.hid (HT1.out.go hb2)
        have HB2 := Lib.hid (HB1.out.trans (hb2.mono HB1.out.size))
        clear hb2
        go_wp2_with fail
        with_reducible refine (HSa.out _ HT2.out).mono ?_
        rintro e w3 ⟨rfl, hb3⟩
        have HT3 := Lib.hid (HT2.out.go hb3.below)
        have HB3 := Lib.hid (HB2.out.trans (hb3.below.mono HB2.out.size))
        clear hb3
        go_wp2_with fail
        with_reducible refine (HKd.out _).mono ?_
        rintro e w' ⟨rfl, rfl⟩
        go_wp2_with fail
        with_reducible refine (HJ2.out _ HT3.out).mono ?_
        rintro e w' ⟨rfl, rfl⟩
        go_wp2_with fail
        with_reducible refine (awake_any _ _ HT3.out).mono ?_
        rintro e w4 ⟨rfl, hb4⟩
        have HT4 := Lib.hid (HT3.out.go hb4)
        have HB4 := Lib.hid (HB3.out.trans (hb4.mono HB3.out.size))
        clear hb4
        go_wp2
        go_ret
        exact ⟨rfl, HB4.out⟩
    | false =>
      obtain ⟨rfl, rfl⟩ : x = 0 ∧ y = 0 := by simpa using q4
      clear q1 q3 q4
      cases one with
      | true =>
        have hk3 : ¬ 3 < kd := by have := q2; simp at this; omega
        clear q2
        go_enter Try.func5, Try.ntmps5
        go_wp2_with fail
        with_reducible refine (ubuild_any _).mono ?_
        rintro e w1 ⟨g, rfl, ht, hb⟩
        have HT1 := Lib.hid ht
        have HB1 := Lib.hid hb
        clear ht hb
        go_wp2_with fail
        with_reducible refine (HR1.out _).mono ?_
        rintro e w' ⟨rfl, rfl⟩
        go_wp2_with fail
        with_reducible refine (HR2.out _).mono ?_
        rintro e w' ⟨rfl, rfl⟩
        go_wp2_with fail
        with_reducible refine (HJ1.out _ HT1.out).mono ?_
        rintro e w' ⟨rfl, rfl⟩
        go_wp2_with fail
        with_reducible refine (HPa.out _ HT1.out).mono ?_
        rintro e w2 ⟨rfl, hb2⟩
        have HT2 := Lib.hid (HT1.out.go hb2)
        have HB2 := Lib.hid (HB1.out.trans (hb2.mono HB1.out.size))
        clear hb2
        go_wp2_with fail
        with_reducible refine (HSa.out _ HT2.out).mono ?_
        rintro e w3 ⟨rfl, hb3⟩
        have HT3 := Lib.hid (HT2.out.go hb3.below)
        have HB3 := Lib.hid (HB2.out.trans (hb3.below.mono HB2.out.size))
        clear hb3
        go_wp2_with fail
        with_reducible refine (HKd.out _).mono ?_
        rintro e w' ⟨rfl, rfl⟩
        go_wp2_with fail
        with_reducible refine (HJ2.out _ HT3.out).mono ?_
        rintro e w' ⟨rfl, rfl⟩
        go_wp2_with fail
        with_reducible refine (awake_any _ _ HT3.out).mono ?_
        rintro e w4 ⟨rfl, hb4⟩
        have HT4 := Lib.hid (HT3.out.go hb4)
        have HB4 := Lib.hid (HB3.out.trans (hb4.mono HB3.out.size))
        clear hb4
        go_wp2
        go_ret
        exact ⟨rfl, HB4.out⟩
      | false =>
        clear q2
        by_cases hk3 : 3 < kd
        · skip
          go_enter Try.func5, Try.ntmps5
          go_wp2_with fail
          with_reducible refine (ubuild_any _).mono ?_
          rintro e w1 ⟨g, rfl, ht, hb⟩
          have HT1 := Lib.hid ht
          have HB1 := Lib.hid hb
          clear ht hb
          go_wp2_with fail
          with_reducible refine (HR1.out _).mono ?_
          rintro e w' ⟨rfl, rfl⟩
          go_wp2_with fail
          with_reducible refine (HR2.out _).mono ?_
          rintro e w' ⟨rfl, rfl⟩
          go_wp2_with fail
          with_reducible refine (HJ1.out _ HT1.out).mono ?_
          rintro e w' ⟨rfl, rfl⟩
          go_wp2_with fail
          with_reducible refine (HPa.out _ HT1.out).mono ?_
          rintro e w2 ⟨rfl, hb2⟩
          have HT2 := Lib.hid (HT1.out.go hb2)
          have HB2 := Lib.hid (HB1.out.trans (hb2.mono HB1.out.size))
          clear hb2
          go_wp2_with fail
          with_reducible refine (HSa.out _ HT2.out).mono ?_
          rintro e w3 ⟨rfl, hb3⟩
          have HT3 := Lib.hid (HT2.out.go hb3.below)
          have HB3 := Lib.hid (HB2.out.trans (hb3.below.mono HB2.out.size))
          clear hb3
          go_wp2_with fail
          with_reducible refine (HKd.out _).mono ?_
          rintro e w' ⟨rfl, rfl⟩
          go_wp2_with fail
          with_reducible refine (HJ2.out _ HT3.out).mono ?_
          rintro e w' ⟨rfl, rfl⟩
          go_wp2_with fail
          with_reducible refine (awake_any _ _ HT3.out).mono ?_
          rintro e w4 ⟨rfl, hb4⟩
          have HT4 := Lib.hid (HT3.out.go hb4)
          have HB4 := Lib.hid (HB3.out.trans (hb4.mono HB3.out.size))
          clear hb4
          go_wp2
          go_ret
          exact ⟨rfl, HB4.out⟩
        · skip
          go_enter Try.func5, Try.ntmps5
          go_wp2_with fail
          with_reducible refine (ubuild_any _).mono ?_
          rintro e w1 ⟨g, rfl, ht, hb⟩
          have HT1 := Lib.hid ht
          have HB1 := Lib.hid hb
          clear ht hb
          go_wp2_with fail
          with_reducible refine (HR1.out _).mono ?_
          rintro e w' ⟨rfl, rfl⟩
          go_wp2_with fail
          with_reducible refine (HR2.out _).mono ?_
          rintro e w' ⟨rfl, rfl⟩
          go_wp2_with fail
          with_reducible refine (HJ1.out _ HT1.out).mono ?_
          rintro e w' ⟨rfl, rfl⟩
          go_wp2_with fail
          with_reducible refine (HPa.out _ HT1.out).mono ?_
          rintro e w2 ⟨rfl, hb2⟩
          have HT2 := Lib.hid (HT1.out.go hb2)
          have HB2 := Lib.hid (HB1.out.trans (hb2.mono HB1.out.size))
          clear hb2
          go_wp2_with fail
          with_reducible refine (HSa.out _ HT2.out).mono ?_
          rintro e w3 ⟨rfl, hb3⟩
          have HT3 := Lib.hid (HT2.out.go hb3.below)
          have HB3 := Lib.hid (HB2.out.trans (hb3.below.mono HB2.out.size))
          clear hb3
          go_wp2_with fail
          with_reducible refine (HKd.out _).mono ?_
          rintro e w' ⟨rfl, rfl⟩
          go_wp2_with fail
          with_reducible refine (HJ2.out _ HT3.out).mono ?_
          rintro e w' ⟨rfl, rfl⟩
          go_wp2_with fail
          with_reducible refine (awake_any _ _ HT3.out).mono ?_
          rintro e w4 ⟨rfl, hb4⟩
          have HT4 := Lib.hid (HT3.out.go hb4)
          have HB4 := Lib.hid (HB3.out.trans (hb4.mono HB3.out.size))
          clear hb4
          go_wp2
          go_ret
          exact ⟨rfl, HB4.out⟩

theorem ucdBack_walk (n m : Int) (w : World) : Calls Try.prog 5 #[.int .i64 n, .int .i64 m] w fun e w' => e = .returned (.bool true) ∧ Below w.heap.size w w' := by
  obtain ⟨a, ⟨ha0, ha1⟩, hra⟩ := rune_fn n
  obtain ⟨b, ⟨hb0, hb1⟩, hrb⟩ := rune_fn m
  obtain ⟨a, rfl⟩ := Int.eq_ofNat_of_zero_le ha0
  obtain ⟨b, rfl⟩ := Int.eq_ofNat_of_zero_le hb0
  have ha : a ≤ 1114111 := by omega
  have hb : b ≤ 1114111 := by omega
  cases hl : lastP P5 (a : Int) with
  | some p =>
    obtain ⟨hp1, hp2⟩ := lastP_some hl
    have hv : tab (castE S5) (a : Int) = 0 := by
      refine Classical.byContradiction fun h => ?_
      obtain ⟨s, hs1, hs2, _⟩ := tab_nz (fun e he => (fine5.s e he).1) h
      exact apart5 hp1 hs1 (by omega)
    have hsy := sylP hp1
    have hkd : kind6 (a : Int) ≤ 3 := by
      refine Classical.byContradiction fun h => ?_
      have := kind6_big (c := (a : Int)) (by omega)
      omega
    obtain ⟨f1, f2⟩ := (fine5.p p hp1).2
    by_cases hm : [(p.x : Int), (p.y : Int)] ∈ (jst P5).1
    · obtain ⟨q, hq, _, hk, hc⟩ := jst_in hm
      have hx : q.x = p.x ∧ q.y = p.y := by unfold key5 at hk; simp at hk; omega
      obtain rfl := keys_once hq hp1 hx.1 hx.2
      exact back_ways n m w a b ha hb (Lib.hid hra) (Lib.hid hrb) _ _ _ _ _ _ _ _ (pair_some hl) (single_z hv) (kind_any _) (joined_in f1 f2 hm hc) rfl (.inl hkd) (.inr (.inr hp2)) (.inl rfl)
    · exact back_ways n m w a b ha hb (Lib.hid hra) (Lib.hid hrb) _ _ _ _ _ _ _ _ (pair_some hl) (single_z hv) (kind_any _) (joined_out f1 f2 hm) rfl (.inl hkd) (.inr (.inl rfl)) (.inl rfl)
  | none =>
    obtain ⟨d, jn, hj⟩ := joined_some 0 0 (by omega) (by omega)
    by_cases hv : tab (castE S5) (a : Int) = 0
    · exact back_ways n m w a b ha hb (Lib.hid hra) (Lib.hid hrb) _ _ _ _ _ _ _ _ (pair_none hl) (single_z hv) (kind_any _) hj rfl (.inr ⟨rfl, rfl⟩) (.inl rfl) (.inr ⟨rfl, rfl⟩)
    · obtain ⟨s, hs1, hs2, hs3⟩ := tab_nz (fun e he => (fine5.s e he).1) hv
      have hsy := sylS hs1
      have hkd : kind6 (a : Int) ≤ 3 := by
        refine Classical.byContradiction fun h => ?_
        have := kind6_big (c := (a : Int)) (by omega)
        omega
      exact back_ways n m w a b ha hb (Lib.hid hra) (Lib.hid hrb) _ _ _ _ _ _ _ _ (pair_none hl) (single_nz hs3 (snz5 hs1)) (kind_any _) hj rfl (.inl hkd) (.inl rfl) (.inr ⟨rfl, rfl⟩)
end Go.Proofs.Ytmphfdnpnhlpjaa
