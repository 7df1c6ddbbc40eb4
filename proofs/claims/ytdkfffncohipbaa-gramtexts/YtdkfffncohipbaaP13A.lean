/- The program's Gram: its cells and row; what only reads of it. -/
import Derived.Test.YtdkfffncohipbaaG13Math
import Derived.Test.YtdkfffncohipbaaAppL
import Derived.Test.YtdkfffncohipbaaRown
import Derived.Test.YtdkfffncohipbaaStill
import Derived.StillTailTactics
import Derived.Deep.QuietTactic
import Derived.BigQuiet
namespace Go.Proofs.Ytdkfffncohipbaa
set_option maxRecDepth 100000
open Go.ChangeShapes Go.WideShapes Go.ChangeAt Go.RowKit
set_option linter.unusedVariables false
set_option linter.unusedSimpArgs false

abbrev GBlk (w : World) (g : Nat) (p : Int) (v : Value) : Prop := Blk w g 40 #[.int .i64 p, v]
abbrev G8r (w : World) (base : Nat) (v : Value) (xs : List Int) : Prop := Own w base 5 .u8 v xs
/-- a Gram in a block of its own, the ends in a row of its own -/
structure GIs (w : World) (base g : Nat) (v : Value) (q : Gm) : Prop where
  ok : GOk q
  len : q.s.length ≤ 100000
  blk : GBlk w g q.p v
  own : G8r w base v q.s
  lg : base ≤ g
theorem GIs.go {w w' : World} {base g : Nat} {v : Value} {q : Gm} (h : GIs w base g v q) (hb : Below w.heap.size w w') : GIs w' base g v q :=
  ⟨h.ok, h.len, h.blk.below hb h.blk.lt, own_below h.own hb (Nat.le_refl _), h.lg⟩
theorem GIs.still {w w' : World} {base g : Nat} {v : Value} {q : Gm} (h : GIs w base g v q) (hs : Still w w') : GIs w' base g v q := h.go hs.below
theorem bv_any (k : Int) (w : World) : Calls Try.prog 23 #[.int .i64 k] w fun e w' => e = .returned (.bool (bvB k)) ∧ w = w' := by
  by_cases e1 : k = 1
  · subst e1
    go_enter Try.func23, Try.ntmps23
    go_wp2
    go_ret
    exact ⟨rfl, rfl⟩
  by_cases e2 : k = 2
  · subst e2
    go_enter Try.func23, Try.ntmps23
    go_wp2
    go_ret
    exact ⟨rfl, rfl⟩
  by_cases e3 : k = 3
  · subst e3
    go_enter Try.func23, Try.ntmps23
    go_wp2
    go_ret
    exact ⟨rfl, rfl⟩
  by_cases e4 : k = 4
  · subst e4
    go_enter Try.func23, Try.ntmps23
    go_wp2
    go_ret
    exact ⟨rfl, rfl⟩
  by_cases e5 : k = 5
  · subst e5
    go_enter Try.func23, Try.ntmps23
    go_wp2
    go_ret
    exact ⟨rfl, rfl⟩
  by_cases e6 : k = 6
  · subst e6
    go_enter Try.func23, Try.ntmps23
    go_wp2
    go_ret
    exact ⟨rfl, rfl⟩
  by_cases e8 : k = 8
  · subst e8
    go_enter Try.func23, Try.ntmps23
    go_wp2
    go_ret
    exact ⟨rfl, rfl⟩
  have b1 : (k == 1) = false := by simpa using e1
  have b2 : (k == 2) = false := by simpa using e2
  have b3 : (k == 3) = false := by simpa using e3
  have b4 : (k == 4) = false := by simpa using e4
  have b5 : (k == 5) = false := by simpa using e5
  have b6 : (k == 6) = false := by simpa using e6
  have b8 : (k == 8) = false := by simpa using e8
  have hv : bvB k = false := by unfold bvB; rw [b1, b2, b3, b4, b5, b6, b8]; rfl
  rw [hv]
  clear e1 e2 e3 e4 e5 e6 e8 hv
  go_enter Try.func23, Try.ntmps23
  go_wp2
  go_ret
  exact ⟨rfl, rfl⟩
theorem inner_any (base g : Nat) (v : Value) (q : Gm) (w : World) (h : GIs w base g v q) (hn : q.s ≠ []) : Calls Try.prog 24 #[.pointer (some ⟨g, 0, none⟩)] w fun e w' => e = .returned (.int .i64 (lastV q.s)) ∧ Still w w' := by
  obtain ⟨A, c, hv, hc, hcm⟩ := own_form h.own
  have hI : Ints w w.heap.size .u8 A q.s := Ints.own (by have := h.own; rw [hv] at this; exact this)
  have hp : 0 < q.s.length := List.length_pos_iff.2 hn
  obtain ⟨m, hm⟩ : ∃ m, q.s.length = m + 1 := ⟨q.s.length - 1, by omega⟩
  obtain ⟨b, o, rfl, hbl, hcell⟩ := hI.at hp
  have e0 := last_eq hn
  rw [hm, Nat.add_sub_cancel] at e0
  have hlk := last_kind h.ok hn
  have hlen := h.len
  have kx : w.cell? ⟨b, o + m, none⟩ = some (.int .u8 (lastV q.s)) := by rw [e0]; exact hcell m (by omega)
  rw [hm] at hv
  have hb := h.blk
  rw [hv] at hb
  have c1 : w.cell? ⟨g, 1, none⟩ = some (.slice (some ⟨b, o, none⟩) (m + 1) c) := hb.cell 1
  have hlt := hb.lt
  rw [hm] at hlen hc
  generalize lastV q.s = x at *
  clear hb hv hI hcell e0 hm hp hn h
  have hw1 : IntKind.i64.wrap (((m + 1 : Nat) : Int) - 1) = (m : Int) := by rw [IntWalk.i64_in _ (by omega)]; omega
  have hwx : IntKind.i64.wrap x = x := IntWalk.i64_in _ (by omega)
  go_enter Try.func24, Try.ntmps24
  go_wp2_with fail
  go_quiet (fail)
  go_wp2
  go_ret
  exact ⟨rfl, ⟨_, rfl⟩⟩
set_option maxHeartbeats 2000000 in
theorem may_any (base g : Nat) (v : Value) (q : Gm) (k : Int) (w : World) (h : GIs w base g v q) : Calls Try.prog 10 #[.pointer (some ⟨g, 0, none⟩), .int .i64 k] w fun e w' => e = .returned (.bool (mayB q k)) ∧ Still w w' := by
  have HBV := Lib.hid (fun W => bv_any k W)
  have lo := h.ok.lo
  have hi := h.ok.hi
  have c0 : w.cell? ⟨g, 0, none⟩ = some (.int .i64 q.p) := h.blk.cell 0
  have hlt := h.blk.lt
  have hp : q.p = 0 ∨ q.p = 1 ∨ q.p = 2 ∨ q.p = 3 ∨ q.p = 4 ∨ q.p = 5 := by omega
  clear lo hi
  rcases hp with hp | hp | hp | hp | hp | hp
  · have hv : mayB q k = bvB k := by unfold mayB; rw [if_pos hp]
    rw [hv]
    rw [hp] at c0
    clear h hp hv
    go_enter Try.func10, Try.ntmps10
    go_wp2_with fail
    with_reducible refine (HBV.out _).mono ?_
    rintro e w1 ⟨rfl, rfl⟩
    go_wp2
    go_ret
    exact ⟨rfl, Still.refl _⟩
  · have hv : mayB q k = (k == 7 || bvB k) := by unfold mayB; rw [if_neg (by omega), if_pos hp]
    rw [hv]
    rw [hp] at c0
    clear h hp hv
    by_cases hk : k = 7
    · subst hk
      go_enter Try.func10, Try.ntmps10
      go_wp2
      go_ret
      exact ⟨rfl, Still.refl _⟩
    · have b7 : (k == 7) = false := by simpa using hk
      rw [b7, Bool.false_or]
      clear hk
      go_enter Try.func10, Try.ntmps10
      go_wp2_with fail
      with_reducible refine (HBV.out _).mono ?_
      rintro e w1 ⟨rfl, rfl⟩
      go_wp2
      go_ret
      exact ⟨rfl, Still.refl _⟩
  · have hv : mayB q k = (k == 9 || k == 5) := by unfold mayB; rw [if_neg (by omega), if_neg (by omega), if_pos hp]
    rw [hv]
    rw [hp] at c0
    clear h hp hv
    by_cases hk : k = 9
    · subst hk
      go_enter Try.func10, Try.ntmps10
      go_wp2
      go_ret
      exact ⟨rfl, Still.refl _⟩
    · have b7 : (k == 9) = false := by simpa using hk
      rw [b7, Bool.false_or]
      clear hk
      go_enter Try.func10, Try.ntmps10
      go_wp2
      go_ret
      exact ⟨rfl, Still.refl _⟩
  · have hv : mayB q k = (k == 5) := by unfold mayB; rw [if_neg (by omega), if_neg (by omega), if_neg (by omega), if_pos hp]
    rw [hv]
    rw [hp] at c0
    clear h hp hv
    go_enter Try.func10, Try.ntmps10
    go_wp2
    go_ret
    exact ⟨rfl, Still.refl _⟩
  · have hv : mayB q k = (k == 10) := by unfold mayB; rw [if_neg (by omega), if_neg (by omega), if_neg (by omega), if_neg (by omega), if_pos hp]
    rw [hv]
    rw [hp] at c0
    clear h hp hv
    go_enter Try.func10, Try.ntmps10
    go_wp2
    go_ret
    exact ⟨rfl, Still.refl _⟩
  · have hv : mayB q k = (!q.s.isEmpty && (k == 11 || k == lastV q.s)) := by unfold mayB; rw [if_neg (by omega), if_neg (by omega), if_neg (by omega), if_neg (by omega), if_neg (by omega)]
    rw [hv]
    rw [hp] at c0
    obtain ⟨A, c, hva, hc, hcm⟩ := own_form h.own
    obtain ⟨n, hn⟩ : ∃ n, q.s.length = n := ⟨_, rfl⟩
    rw [hn] at hva
    have hb := h.blk
    rw [hva] at hb
    have c1 : w.cell? ⟨g, 1, none⟩ = some (.slice A n c) := hb.cell 1
    cases hs : q.s with
    | nil =>
      have hn0 : n = 0 := by rw [← hn, hs]; rfl
      subst hn0
      clear h hp hv hva hb hc hcm
      go_enter Try.func10, Try.ntmps10
      go_wp2
      go_ret
      exact ⟨rfl, Still.refl _⟩
    | cons y l =>
      have hne : q.s ≠ [] := by rw [hs]; simp
      have hpos : (0 : Int) < n := by rw [← hn, hs, List.length_cons]; omega
      have he : (!(y :: l).isEmpty) = true := rfl
      rw [he, Bool.true_and, ← hs]
      have HIN := Lib.hid (inner_any base g v q w h hne)
      clear h hp hv hva hb hc hcm hs hn he hne
      generalize lastV q.s = x at *
      by_cases hk : k = 11
      · subst hk
        go_enter Try.func10, Try.ntmps10
        go_wp2
        go_ret
        exact ⟨rfl, Still.refl _⟩
      · have b7 : (k == 11) = false := by simpa using hk
        rw [b7, Bool.false_or]
        clear hk
        go_enter Try.func10, Try.ntmps10
        go_wp2_with fail
        with_reducible refine HIN.out.mono ?_
        rintro e w1 ⟨rfl, hst⟩
        have HST := Lib.hid hst
        clear hst HIN
        go_wp2
        go_ret
        exact ⟨rfl, HST.out⟩
theorem name_any (base g : Nat) (v : Value) (q : Gm) (w : World) (h : GIs w base g v q) : Calls Try.prog 16 #[.pointer (some ⟨g, 0, none⟩)] w fun e w' => e = .returned (.bool (nameB q)) ∧ w = w' := by
  have c0 : w.cell? ⟨g, 0, none⟩ = some (.int .i64 q.p) := h.blk.cell 0
  have hlt := h.blk.lt
  have hv : nameB q = (q.p == 2 || q.p == 3) := rfl
  rw [hv]
  generalize q.p = p at *
  clear h hv
  by_cases hp : p = 2
  · subst hp
    go_enter Try.func16, Try.ntmps16
    go_wp2
    go_ret
    exact ⟨rfl, rfl⟩
  · have b2 : (p == 2) = false := by simpa using hp
    rw [b2, Bool.false_or]
    clear hp
    go_enter Try.func16, Try.ntmps16
    go_wp2
    go_ret
    exact ⟨rfl, rfl⟩
theorem ended_any (base g : Nat) (v : Value) (q : Gm) (w : World) (h : GIs w base g v q) : Calls Try.prog 18 #[.pointer (some ⟨g, 0, none⟩)] w fun e w' => e = .returned (.bool (endB q)) ∧ w = w' := by
  have c0 : w.cell? ⟨g, 0, none⟩ = some (.int .i64 q.p) := h.blk.cell 0
  have hlt := h.blk.lt
  obtain ⟨A, c, hva, hc, hcm⟩ := own_form h.own
  obtain ⟨n, hn⟩ : ∃ n, q.s.length = n := ⟨_, rfl⟩
  rw [hn] at hva
  have hb := h.blk
  rw [hva] at hb
  have c1 : w.cell? ⟨g, 1, none⟩ = some (.slice A n c) := hb.cell 1
  have hv : endB q = (q.p == 5 && ((n : Int) == 0)) := by
    unfold endB
    congr 1
    cases hs : q.s with
    | nil => rw [← hn, hs]; rfl
    | cons y l => symm; rw [← hn, hs, List.length_cons]; simp; omega
  rw [hv]
  clear h hva hb hc hcm hn hv
  generalize q.p = p at *
  by_cases hp : p = 5
  · subst hp
    go_enter Try.func18, Try.ntmps18
    go_wp2
    go_ret
    exact ⟨rfl, rfl⟩
  · have b2 : (p == 5) = false := by simpa using hp
    rw [b2, Bool.false_and]
    clear hp
    go_enter Try.func18, Try.ntmps18
    go_wp2
    go_ret
    exact ⟨rfl, rfl⟩
theorem depth_any (base g : Nat) (v : Value) (q : Gm) (w : World) (h : GIs w base g v q) : Calls Try.prog 15 #[.pointer (some ⟨g, 0, none⟩)] w fun e w' => e = .returned (.int .i64 (q.s.length : Int)) ∧ w = w' := by
  have c0 : w.cell? ⟨g, 0, none⟩ = some (.int .i64 q.p) := h.blk.cell 0
  have hlt := h.blk.lt
  obtain ⟨A, c, hva, hc, hcm⟩ := own_form h.own
  obtain ⟨n, hn⟩ : ∃ n, q.s.length = n := ⟨_, rfl⟩
  rw [hn] at hva
  have hb := h.blk
  rw [hva] at hb
  have c1 : w.cell? ⟨g, 1, none⟩ = some (.slice A n c) := hb.cell 1
  rw [hn]
  clear h hva hb hc hcm hn
  go_enter Try.func15, Try.ntmps15
  go_wp2
  go_ret
  exact ⟨rfl, rfl⟩
end Go.Proofs.Ytdkfffncohipbaa
