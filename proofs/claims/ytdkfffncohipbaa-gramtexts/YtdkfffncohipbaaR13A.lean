/- The document's Gram: its cells and row; what only reads of it. -/
import Derived.Test.YtdkfffncohipbaaG13Math
import Derived.Test.YtdkfffncohipbaaAppL
import Derived.Test.YtdkfffncohipbaaRown
import Derived.Test.YtdkfffncohipbaaStill
import Derived.StillTailTactics
import Derived.Deep.QuietTactic
import Derived.BigQuiet
namespace Go.Proofs.Ytdkfffncohipbaa
set_option maxRecDepth 100000
open Go.ChangeShapes Go.WideShapes Go.ChangeAt Go.RowKit
set_option linter.unusedVariables false
set_option linter.unusedSimpArgs false

/-- the document's number of a place -/
def rP (p : Int) : Int := if p = 0 then 0 else if p = 1 then 2 else if p = 2 then 3 else if p = 3 then 5 else if p = 4 then 4 else 1
/-- what was opened: one less than what ends it -/
def rS (s : List Int) : List Int := s.map (· - 1)
def rL (s : List Int) : Int := if s = [] then 0 else lastV s - 1
abbrev RBlk (w : World) (a : Nat) (v : Value) (p : Int) : Prop := Blk w a 27 #[v, .int .i64 p]
abbrev R64 (w : World) (base : Nat) (v : Value) (xs : List Int) : Prop := Own w base 3 .i64 v xs
structure RIs (w : World) (base a : Nat) (v : Value) (q : Gm) : Prop where
  ok : GOk q
  len : q.s.length ≤ 100000
  blk : RBlk w a v (rP q.p)
  own : R64 w base v (rS q.s)
  la : base ≤ a
theorem RIs.go {w w' : World} {base a : Nat} {v : Value} {q : Gm} (h : RIs w base a v q) (hb : Below w.heap.size w w') : RIs w' base a v q :=
  ⟨h.ok, h.len, h.blk.below hb h.blk.lt, own_below h.own hb (Nat.le_refl _), h.la⟩
theorem RIs.still {w w' : World} {base a : Nat} {v : Value} {q : Gm} (h : RIs w base a v q) (hs : Still w w') : RIs w' base a v q := h.go hs.below
theorem rS_len (s : List Int) : (rS s).length = s.length := by unfold rS; simp
theorem rS_last {s : List Int} (h : s ≠ []) : (rS s).getD (s.length - 1) 0 = lastV s - 1 := by
  have hp := List.length_pos_iff.2 h
  rw [last_eq h]
  unfold rS
  simp only [List.getD_eq_getElem?_getD, List.getElem?_map]
  rw [List.getElem?_eq_getElem (by omega)]
  rfl
theorem bv_in {k : Int} (h : 1 ≤ k) (h6 : k ≤ 6) : bvB k = true := by
  have : k = 1 ∨ k = 2 ∨ k = 3 ∨ k = 4 ∨ k = 5 ∨ k = 6 := by omega
  rcases this with rfl | rfl | rfl | rfl | rfl | rfl <;> rfl
theorem bv_out {k : Int} (h : ¬ (1 ≤ k ∧ k ≤ 6)) : bvB k = (k == 8) := by
  have e1 : (k == 1) = false := by simpa using (show k ≠ 1 by omega)
  have e2 : (k == 2) = false := by simpa using (show k ≠ 2 by omega)
  have e3 : (k == 3) = false := by simpa using (show k ≠ 3 by omega)
  have e4 : (k == 4) = false := by simpa using (show k ≠ 4 by omega)
  have e5 : (k == 5) = false := by simpa using (show k ≠ 5 by omega)
  have e6 : (k == 6) = false := by simpa using (show k ≠ 6 by omega)
  unfold bvB
  rw [e1, e2, e3, e4, e5, e6]
  rfl
theorem rbv_any (k : Int) (w : World) : Calls Try.prog 25 #[.int .i64 k] w fun e w' => e = .returned (.bool (bvB k)) ∧ w = w' := by
  by_cases h1 : 1 ≤ k
  · by_cases h6 : k ≤ 6
    · rw [bv_in h1 h6]
      go_enter Try.func25, Try.ntmps25
      go_wp2
      go_ret
      exact ⟨rfl, rfl⟩
    · rw [bv_out (fun h => h6 h.2)]
      go_enter Try.func25, Try.ntmps25
      go_wp2
      go_ret
      exact ⟨rfl, rfl⟩
  · rw [bv_out (fun h => h1 h.1)]
    go_enter Try.func25, Try.ntmps25
    go_wp2
    go_ret
    exact ⟨rfl, rfl⟩
theorem rlast_any (base a : Nat) (v : Value) (q : Gm) (w : World) (h : RIs w base a v q) : Calls Try.prog 26 #[.pointer (some ⟨a, 0, none⟩)] w fun e w' => e = .returned (.int .i64 (rL q.s)) ∧ Still w w' := by
  obtain ⟨A, c, hv, hc, hcm⟩ := own_form h.own
  rw [rS_len] at hv hc
  cases hs : q.s with
  | nil =>
    have hb := h.blk
    rw [hv, hs] at hb
    have c0 : w.cell? ⟨a, 0, none⟩ = some (.slice A 0 c) := hb.cell 0
    have hlt := hb.lt
    rw [show rL ([] : List Int) = 0 from rfl]
    clear h hv hb hs hc
    go_enter Try.func26, Try.ntmps26
    go_wp2
    go_ret
    exact ⟨rfl, Still.refl _⟩
  | cons y l =>
    have hn : q.s ≠ [] := by rw [hs]; simp
    rw [← hs]
    have hp : 0 < q.s.length := List.length_pos_iff.2 hn
    have hI : Ints w w.heap.size .i64 A (rS q.s) := Ints.own (by have := h.own; rw [hv, ← rS_len q.s] at this; exact this)
    obtain ⟨m, hm⟩ : ∃ m, q.s.length = m + 1 := ⟨q.s.length - 1, by omega⟩
    obtain ⟨b, o, rfl, hbl, hcell⟩ := hI.at (by rw [rS_len]; omega)
    have e0 := rS_last hn
    rw [hm, Nat.add_sub_cancel] at e0
    have e1 : rL q.s = lastV q.s - 1 := by unfold rL; rw [if_neg hn]
    have hlk := last_kind h.ok hn
    have hlen := h.len
    have kx : w.cell? ⟨b, o + m, none⟩ = some (.int .i64 (rL q.s)) := by rw [e1, ← e0]; exact hcell m (by rw [rS_len]; omega)
    rw [hm] at hv
    have hb := h.blk
    rw [hv] at hb
    have c0 : w.cell? ⟨a, 0, none⟩ = some (.slice (some ⟨b, o, none⟩) (m + 1) c) := hb.cell 0
    have hlt := hb.lt
    rw [hm] at hlen hc
    generalize rL q.s = x at *
    clear hb hv hI hcell e0 e1 hm hp hn h hs hlk
    have hw1 : IntKind.i64.wrap (((m + 1 : Nat) : Int) - 1) = (m : Int) := by rw [IntWalk.i64_in _ (by omega)]; omega
    have hwm : IntKind.i64.wrap (m : Int) = (m : Int) := IntWalk.i64_in _ (by omega)
    go_enter Try.func26, Try.ntmps26
    go_wp2_with fail
    go_quiet (fail)
    go_wp2
    go_ret
    exact ⟨rfl, ⟨_, rfl⟩⟩
theorem rname_any (base a : Nat) (v : Value) (q : Gm) (w : World) (h : RIs w base a v q) : Calls Try.prog 17 #[.pointer (some ⟨a, 0, none⟩)] w fun e w' => e = .returned (.bool (nameB q)) ∧ w = w' := by
  have c1 : w.cell? ⟨a, 1, none⟩ = some (.int .i64 (rP q.p)) := h.blk.cell 1
  have hlt := h.blk.lt
  have lo := h.ok.lo
  have hi := h.ok.hi
  have hp : q.p = 0 ∨ q.p = 1 ∨ q.p = 2 ∨ q.p = 3 ∨ q.p = 4 ∨ q.p = 5 := by omega
  have hv : nameB q = (q.p == 2 || q.p == 3) := rfl
  rw [hv]
  clear h lo hi hv
  rcases hp with hp | hp | hp | hp | hp | hp
  all_goals
    rw [hp] at c1 ⊢
    clear hp
    unfold rP at c1
    go_enter Try.func17, Try.ntmps17
    go_wp2
    go_ret
    exact ⟨rfl, rfl⟩
theorem rended_any (base a : Nat) (v : Value) (q : Gm) (w : World) (h : RIs w base a v q) : Calls Try.prog 19 #[.pointer (some ⟨a, 0, none⟩)] w fun e w' => e = .returned (.bool (endB q)) ∧ w = w' := by
  obtain ⟨A, c, hva, hc, hcm⟩ := own_form h.own
  obtain ⟨n, hn⟩ : ∃ n, q.s.length = n := ⟨_, rfl⟩
  rw [rS_len, hn] at hva
  have hb := h.blk
  rw [hva] at hb
  have c0 : w.cell? ⟨a, 0, none⟩ = some (.slice A n c) := hb.cell 0
  have c1 : w.cell? ⟨a, 1, none⟩ = some (.int .i64 (rP q.p)) := hb.cell 1
  have hlt := hb.lt
  have lo := h.ok.lo
  have hi := h.ok.hi
  have hp : q.p = 0 ∨ q.p = 1 ∨ q.p = 2 ∨ q.p = 3 ∨ q.p = 4 ∨ q.p = 5 := by omega
  have hv : endB q = (q.p == 5 && ((n : Int) == 0)) := by
    unfold endB
    congr 1
    cases hs : q.s with
    | nil => rw [← hn, hs]; rfl
    | cons y l => symm; rw [← hn, hs, List.length_cons]; simp; omega
  rw [hv]
  clear h lo hi hv hva hb hc hcm hn
  rcases hp with hp | hp | hp | hp | hp | hp
  all_goals
    rw [hp] at c1 ⊢
    clear hp
    unfold rP at c1
    go_enter Try.func19, Try.ntmps19
    go_wp2
    go_ret
    exact ⟨rfl, rfl⟩
set_option maxHeartbeats 2000000 in
theorem rmay_any (base a : Nat) (v : Value) (q : Gm) (k : Int) (w : World) (h : RIs w base a v q) : Calls Try.prog 11 #[.pointer (some ⟨a, 0, none⟩), .int .i64 k] w fun e w' => e = .returned (.bool (mayB q k)) ∧ Still w w' := by
  have HBV := Lib.hid (fun W => rbv_any k W)
  have HLA := Lib.hid (fun W hW => rlast_any base a v q W hW)
  have HR := Lib.hid h
  have lo := h.ok.lo
  have hi := h.ok.hi
  have c1 : w.cell? ⟨a, 1, none⟩ = some (.int .i64 (rP q.p)) := h.blk.cell 1
  have hlt := h.blk.lt
  have hp : q.p = 0 ∨ q.p = 1 ∨ q.p = 2 ∨ q.p = 3 ∨ q.p = 4 ∨ q.p = 5 := by omega
  clear lo hi
  rcases hp with hp | hp | hp | hp | hp | hp
  · have hv : mayB q k = bvB k := by unfold mayB; rw [if_pos hp]
    rw [hv]
    rw [hp] at c1
    unfold rP at c1
    clear h hp hv
    go_enter Try.func11, Try.ntmps11
    go_wp2_with fail
    with_reducible refine (HBV.out _).mono ?_
    rintro e w1 ⟨rfl, rfl⟩
    go_wp2
    go_ret
    exact ⟨rfl, Still.refl _⟩
  · have hv : mayB q k = (bvB k || k == 7) := by unfold mayB; rw [if_neg (by omega), if_pos hp, Bool.or_comm]
    rw [hv]
    rw [hp] at c1
    unfold rP at c1
    clear h hp hv
    generalize bvB k = b at *
    cases b with
    | true =>
      go_enter Try.func11, Try.ntmps11
      go_wp2_with fail
      with_reducible refine (HBV.out _).mono ?_
      rintro e w1 ⟨rfl, rfl⟩
      go_wp2
      go_ret
      exact ⟨rfl, Still.refl _⟩
    | false =>
      go_enter Try.func11, Try.ntmps11
      go_wp2_with fail
      with_reducible refine (HBV.out _).mono ?_
      rintro e w1 ⟨rfl, rfl⟩
      go_wp2
      go_ret
      exact ⟨rfl, Still.refl _⟩
  · have hv : mayB q k = (k == 5 || k == 9) := by unfold mayB; rw [if_neg (by omega), if_neg (by omega), if_pos hp, Bool.or_comm]
    rw [hv]
    rw [hp] at c1
    unfold rP at c1
    clear h hp hv
    by_cases hk : k = 5
    · subst hk
      go_enter Try.func11, Try.ntmps11
      go_wp2
      go_ret
      exact ⟨rfl, Still.refl _⟩
    · have b7 : (k == 5) = false := by simpa using hk
      rw [b7, Bool.false_or]
      clear hk
      go_enter Try.func11, Try.ntmps11
      go_wp2
      go_ret
      exact ⟨rfl, Still.refl _⟩
  · have hv : mayB q k = (k == 5) := by unfold mayB; rw [if_neg (by omega), if_neg (by omega), if_neg (by omega), if_pos hp]
    rw [hv]
    rw [hp] at c1
    unfold rP at c1
    clear h hp hv
    go_enter Try.func11, Try.ntmps11
    go_wp2
    go_ret
    exact ⟨rfl, Still.refl _⟩
  · have hv : mayB q k = (k == 10) := by unfold mayB; rw [if_neg (by omega), if_neg (by omega), if_neg (by omega), if_neg (by omega), if_pos hp]
    rw [hv]
    rw [hp] at c1
    unfold rP at c1
    clear h hp hv
    go_enter Try.func11, Try.ntmps11
    go_wp2
    go_ret
    exact ⟨rfl, Still.refl _⟩
  · have hv : mayB q k = (!q.s.isEmpty && (k == 11 || k == lastV q.s)) := by unfold mayB; rw [if_neg (by omega), if_neg (by omega), if_neg (by omega), if_neg (by omega), if_neg (by omega)]
    rw [hp] at c1
    unfold rP at c1
    have hx : (rL q.s = 0 ∧ mayB q k = false) ∨ (rL q.s = 6 ∧ mayB q k = (k == 11 || k == 7)) ∨ (rL q.s = 8 ∧ mayB q k = (k == 11 || k == 9)) := by
      rw [hv]
      unfold rL
      cases hs : q.s with
      | nil => exact .inl ⟨rfl, rfl⟩
      | cons y l =>
        have hne : q.s ≠ [] := by rw [hs]; simp
        rw [if_neg (by simp), ← hs]
        have he : (!q.s.isEmpty) = true := by rw [hs]; rfl
        rw [he, Bool.true_and]
        rcases last_kind h.ok hne with e | e
        · rw [e]; exact .inr (.inl ⟨rfl, rfl⟩)
        · rw [e]; exact .inr (.inr ⟨rfl, rfl⟩)
    clear hv h hp
    generalize mayB q k = mb at *
    generalize hrl : rL q.s = x at *
    clear hrl
    rcases hx with ⟨rfl, rfl⟩ | ⟨rfl, rfl⟩ | ⟨rfl, rfl⟩
    · go_enter Try.func11, Try.ntmps11
      go_wp2_with fail
      with_reducible refine (HLA.out _ HR.out).mono ?_
      rintro e w1 ⟨rfl, hst⟩
      have HST := Lib.hid hst
      have HR1 := Lib.hid (HR.out.still hst)
      clear hst
      go_wp2_with fail
      with_reducible refine (HLA.out _ HR1.out).mono ?_
      rintro e w2 ⟨rfl, hst⟩
      have HST2 := Lib.hid (HST.out.trans hst)
      clear hst
      go_wp2
      go_ret
      exact ⟨rfl, HST2.out⟩
    · by_cases hk : k = 11
      · subst hk
        go_enter Try.func11, Try.ntmps11
        go_wp2_with fail
        with_reducible refine (HLA.out _ HR.out).mono ?_
        rintro e w1 ⟨rfl, hst⟩
        have HST := Lib.hid hst
        have HR1 := Lib.hid (HR.out.still hst)
        clear hst
        go_wp2
        go_ret
        exact ⟨rfl, HST.out⟩
      · have b11 : (k == 11) = false := by simpa using hk
        clear hk
        by_cases hk : k = 7
        · subst hk
          go_enter Try.func11, Try.ntmps11
          go_wp2_with fail
          with_reducible refine (HLA.out _ HR.out).mono ?_
          rintro e w1 ⟨rfl, hst⟩
          have HST := Lib.hid hst
          have HR1 := Lib.hid (HR.out.still hst)
          clear hst
          go_wp2
          go_ret
          exact ⟨rfl, HST.out⟩
        · have b7 : (k == 7) = false := by simpa using hk
          clear hk
          rw [b11, b7]
          go_enter Try.func11, Try.ntmps11
          go_wp2_with fail
          with_reducible refine (HLA.out _ HR.out).mono ?_
          rintro e w1 ⟨rfl, hst⟩
          have HST := Lib.hid hst
          have HR1 := Lib.hid (HR.out.still hst)
          clear hst
          go_wp2_with fail
          with_reducible refine (HLA.out _ HR1.out).mono ?_
          rintro e w2 ⟨rfl, hst⟩
          have HST2 := Lib.hid (HST.out.trans hst)
          clear hst
          go_wp2
          go_ret
          exact ⟨rfl, HST2.out⟩
    · by_cases hk : k = 11
      · subst hk
        go_enter Try.func11, Try.ntmps11
        go_wp2_with fail
        with_reducible refine (HLA.out _ HR.out).mono ?_
        rintro e w1 ⟨rfl, hst⟩
        have HST := Lib.hid hst
        have HR1 := Lib.hid (HR.out.still hst)
        clear hst
        go_wp2_with fail
        with_reducible refine (HLA.out _ HR1.out).mono ?_
        rintro e w2 ⟨rfl, hst⟩
        have HST2 := Lib.hid (HST.out.trans hst)
        clear hst
        go_wp2
        go_ret
        exact ⟨rfl, HST2.out⟩
      · have b11 : (k == 11) = false := by simpa using hk
        clear hk
        rw [b11, Bool.false_or]
        go_enter Try.func11, Try.ntmps11
        go_wp2_with fail
        with_reducible refine (HLA.out _ HR.out).mono ?_
        rintro e w1 ⟨rfl, hst⟩
        have HST := Lib.hid hst
        have HR1 := Lib.hid (HR.out.still hst)
        clear hst
        go_wp2_with fail
        with_reducible refine (HLA.out _ HR1.out).mono ?_
        rintro e w2 ⟨rfl, hst⟩
        have HST2 := Lib.hid (HST.out.trans hst)
        clear hst
        go_wp2
        go_ret
        exact ⟨rfl, HST2.out⟩
end Go.Proofs.Ytdkfffncohipbaa
