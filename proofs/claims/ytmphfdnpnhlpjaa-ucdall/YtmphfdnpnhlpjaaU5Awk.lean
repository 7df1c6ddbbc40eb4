/- The chapter's examples: awake by its contract; ucd.Build as a plain call. -/
import Derived.Test.YtmphfdnpnhlpjaaU5Bld
import Derived.Test.YtmphfdnpnhlpjaaU5K
namespace Go.Proofs.Ytmphfdnpnhlpjaa
open Go.ChangeShapes Go.WideShapes Go.ChangeAt Go.RowKit
set_option linter.unusedVariables false
set_option linter.unusedSimpArgs false

theorem ubuild_any (w : World) : Calls Try.prog 7 #[] w (TPost w C5 P5 S5) :=
  callsIn_wide.1 (ubuild_in Fence.wide wide_is 3 (by omega) K1 K2 K3 kE1 kE2 kE3 f50 f51 f52 f53 w)

theorem eq4 (w : World) : (binOp .eql 64 (.agg #[.int .i64 922, .int .i64 1026, .int .i64 1035, .int .i64 85]) (.agg #[.int .i64 922, .int .i64 1026, .int .i64 1035, .int .i64 85])).run Try.prog w = .ok (.bool true) w := by kernel_rfl
theorem eqg4 (x y : Operand) (w : World) : (eqGuard .eql 64 x y (.agg #[.int .i64 922, .int .i64 1026, .int .i64 1035, .int .i64 85]) (.agg #[.int .i64 922, .int .i64 1026, .int .i64 1035, .int .i64 85])).run Try.prog w = .ok () w := run_eqGuard_agg _ _ _ _ _ _ _ (by kernel_rfl)

theorem TblAt.go {w w' : World} {g : Nat} {C : List (Nat × Nat)} {P : List Pr5} {S : List (Nat × Nat)} (h : TblAt w w.heap.size g C P S) (hb : Below w.heap.size w w') : TblAt w' w'.heap.size g C P S := (h.below hb (Nat.le_refl _)).more hb.size

set_option maxRecDepth 100000 in
set_option maxHeartbeats 2000000 in
theorem awake_any (w : World) (g : Nat) (hT : TblAt w w.heap.size g C5 P5 S5) : Calls Try.prog 9 #[.pointer (some ⟨g, 0, none⟩)] w fun e w' => e = .returned (.bool true) ∧ Below w.heap.size w w' := by
  have kw := kAw
  simp only [Bool.and_eq_true, Nat.beq_eq] at kw
  obtain ⟨k1, k2, k3, k4, k5⟩ := kw
  have c1 : tab (castE C5) 769 = 230 := by rw [show (769 : Int) = ((769 : Nat) : Int) from rfl, tab_at (fun e he => (fine5.c e he).1), k1]; rfl
  have c2 : tab (castE C5) 1456 = 10 := by rw [show (1456 : Int) = ((1456 : Nat) : Int) from rfl, tab_at (fun e he => (fine5.c e he).1), k2]; rfl
  have c3 : tab (castE S5) 8491 = 197 := by rw [show (8491 : Int) = ((8491 : Nat) : Int) from rfl, tab_at (fun e he => (fine5.s e he).1), k3]; rfl
  have hsc : ∀ e ∈ scL P5, e.1 ≤ 1114111 := fun e he => by
    obtain ⟨p, hp, _, rfl⟩ := scL_mem.1 he
    exact (fine5.p p hp).2.2
  have c4 : tab (castE (scL P5)) 769 = 1 := by rw [show (769 : Int) = ((769 : Nat) : Int) from rfl, tab_at hsc, k4]; rfl
  have c5 : tab (castE (scL P5)) 101 = 0 := by rw [show (101 : Int) = ((101 : Nat) : Int) from rfl, tab_at hsc, k5]; rfl
  obtain ⟨p, hp, px, py⟩ : ∃ p, lastP P5 233 = some p ∧ p.x = 101 ∧ p.y = 769 := by
    have h := kAwP
    rw [show (233 : Int) = ((233 : Nat) : Int) from rfl, lastP_at]
    cases hl : lkP P5 233 none with
    | none => rw [hl] at h; cases h
    | some p => rw [hl] at h; simp at h; exact ⟨p, rfl, h.1, h.2⟩
  have x1 : pxF P5 233 = 101 := by unfold pxF; rw [hp]; simp [px]
  have x2 : pyF P5 233 = 769 := by unfold pyF; rw [hp]; simp [py]
  have x3 : pkF P5 233 = true := by unfold pkF; rw [hp]; rfl
  obtain ⟨j1, j2⟩ := joined_at P5 2325 2364
  obtain ⟨j3, j4⟩ := joined_at P5 101 769
  rw [kAwJ.1] at j1 j2
  rw [kAwJ.2] at j3 j4
  obtain ⟨l1, l2, l3, l4⟩ := len5
  have HP := Lib.hid (fun w hT => by have := pairQ (w := w) (B := w.heap.size) (g := g) hT fine5 233; rw [x1, x2, x3] at this; exact this)
  have HS := Lib.hid (fun w hT => by have := singleQ (w := w) (B := w.heap.size) (g := g) hT fine5 8491; rw [c3] at this; exact this)
  have HJ1 : Hid (∀ w, TblAt w w.heap.size g C5 P5 S5 → Calls Try.prog 15 #[.pointer (some ⟨g, 0, none⟩), .int .i32 2325, .int .i32 2364] w fun e w' => e = .returned (.tuple #[.int .i32 0, .bool false]) ∧ w = w') := Lib.hid (fun w hT => by have := joinedQ (w := w) (B := w.heap.size) (g := g) (C := C5) (P := P5) (S := S5) hT 2325 2364 (by decide) (by decide); rw [show (2325 : Int) = ((2325 : Nat) : Int) from rfl, show (2364 : Int) = ((2364 : Nat) : Int) from rfl, j1, j2] at this; exact this)
  have HJ2 : Hid (∀ w, TblAt w w.heap.size g C5 P5 S5 → Calls Try.prog 15 #[.pointer (some ⟨g, 0, none⟩), .int .i32 101, .int .i32 769] w fun e w' => e = .returned (.tuple #[.int .i32 233, .bool true]) ∧ w = w') := Lib.hid (fun w hT => by have := joinedQ (w := w) (B := w.heap.size) (g := g) (C := C5) (P := P5) (S := S5) hT 101 769 (by decide) (by decide); rw [show (101 : Int) = ((101 : Nat) : Int) from rfl, show (769 : Int) = ((769 : Nat) : Int) from rfl, j3, j4] at this; exact this)
  have HC1 := Lib.hid (fun w hT => by have := classQ (w := w) (B := w.heap.size) (g := g) (C := C5) (P := P5) (S := S5) hT 769; rw [c1] at this; exact this)
  have HC2 := Lib.hid (fun w hT => by have := classQ (w := w) (B := w.heap.size) (g := g) (C := C5) (P := P5) (S := S5) hT 1456; rw [c2] at this; exact this)
  have HS1 := Lib.hid (fun w hT => by have := secondQ (w := w) (B := w.heap.size) (g := g) (C := C5) (P := P5) (S := S5) hT 769; rw [c4] at this; exact this)
  have HS2 := Lib.hid (fun w hT => by have := secondQ (w := w) (B := w.heap.size) (g := g) (C := C5) (P := P5) (S := S5) hT 101; rw [c5] at this; exact this)
  have HN := Lib.hid (fun w hT => by have := countsQ (w := w) (B := w.heap.size) (g := g) (C := C5) (P := P5) (S := S5) hT; rw [l1, l2, l3, l4] at this; exact this)
  clear k1 k2 k3 k4 k5 c1 c2 c3 c4 c5 hsc hp px py x1 x2 x3 j1 j2 j3 j4 l1 l2 l3 l4
  have HT := Lib.hid hT
  clear hT
  have he := eq4
  have hg := eqg4
  go_enter Try.func9, Try.ntmps9
  go_wp2_with fail
  with_reducible refine (HP.out _ HT.out).mono ?_
  rintro e w1 ⟨rfl, hb1⟩
  have HT1 := Lib.hid (HT.out.go hb1)
  have HB1 := Lib.hid hb1
  clear hb1
  go_wp2_with fail
  with_reducible refine (HS.out _ HT1.out).mono ?_
  rintro e w2 ⟨rfl, hb2⟩
  have HT2 := Lib.hid (HT1.out.go hb2.below)
  have HB2 := Lib.hid (HB1.out.trans (hb2.below.mono HB1.out.size))
  clear hb2
  go_wp2_with fail
  with_reducible refine (HJ1.out _ HT2.out).mono ?_
  rintro e w3 ⟨rfl, rfl⟩
  go_wp2_with fail
  with_reducible refine (HJ2.out _ HT2.out).mono ?_
  rintro e w3 ⟨rfl, rfl⟩
  go_wp2_with fail
  with_reducible refine (HC1.out _ HT2.out).mono ?_
  rintro e w3 ⟨rfl, hb3⟩
  have HT3 := Lib.hid (HT2.out.go hb3.below)
  have HB3 := Lib.hid (HB2.out.trans (hb3.below.mono HB2.out.size))
  clear hb3
  go_wp2_with fail
  with_reducible refine (HC2.out _ HT3.out).mono ?_
  rintro e w4 ⟨rfl, hb4⟩
  have HT4 := Lib.hid (HT3.out.go hb4.below)
  have HB4 := Lib.hid (HB3.out.trans (hb4.below.mono HB3.out.size))
  clear hb4
  go_wp2_with fail
  with_reducible refine (HS1.out _ HT4.out).mono ?_
  rintro e w5 ⟨rfl, hb5⟩
  have HT5 := Lib.hid (HT4.out.go hb5.below)
  have HB5 := Lib.hid (HB4.out.trans (hb5.below.mono HB4.out.size))
  clear hb5
  go_wp2_with fail
  with_reducible refine (HS2.out _ HT5.out).mono ?_
  rintro e w6 ⟨rfl, hb6⟩
  have HT6 := Lib.hid (HT5.out.go hb6.below)
  have HB6 := Lib.hid (HB5.out.trans (hb6.below.mono HB5.out.size))
  clear hb6
  go_wp2_with fail
  with_reducible refine (HN.out _ HT6.out).mono ?_
  rintro e w7 ⟨rfl, hb7⟩
  have HB7 := Lib.hid (HB6.out.trans (hb7.mono HB6.out.size))
  clear hb7
  go_wp2
  go_ret
  exact ⟨rfl, HB7.out⟩
end Go.Proofs.Ytmphfdnpnhlpjaa
