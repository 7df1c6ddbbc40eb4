/- GramHopes: whatever was taken can be brought to its end. -/
import Derived.Test.YtdkfffncohipbaaN13Awk
import Derived.Test.YtdkfffncohipbaaPlace4
import Derived.Test.YtdkfffncohipbaaArg
namespace Go.Proofs.Ytdkfffncohipbaa
set_option maxRecDepth 100000
open Go.ChangeShapes Go.WideShapes Go.ChangeAt Go.RowKit
set_option linter.unusedVariables false
set_option linter.unusedSimpArgs false

/-- how many tokens end it -/
def muG (q : Gm) : Nat := q.s.length + (if q.p = 0 then 1 else if q.p = 4 then 2 else if q.p = 3 then 3 else 0)
theorem mu_le (q : Gm) : muG q ≤ q.s.length + 3 := by
  unfold muG
  repeat' split
  all_goals omega
theorem mu_drop {p : Int} {s : List Int} (hn : s ≠ []) (h0 : p ≠ 0) (h3 : p ≠ 3) (h4 : p ≠ 4) : muG ⟨5, s.dropLast⟩ + 1 ≤ muG ⟨p, s⟩ := by
  have := List.length_pos_iff.2 hn
  unfold muG
  dsimp only
  rw [if_neg h0, if_neg h4, if_neg h3, if_neg (by decide), if_neg (by decide), if_neg (by decide), List.length_dropLast]
  omega
/-- one of these is taken, and then there is less to do -/
theorem hope_step {q : Gm} (hg : GOk q) (he : endB q = false) :
    (mayB q 7 = true ∧ muG (tkG q 7) + 1 ≤ muG q) ∨ (mayB q 7 = false ∧ mayB q 9 = true ∧ muG (tkG q 9) + 1 ≤ muG q) ∨
    (mayB q 7 = false ∧ mayB q 9 = false ∧ mayB q 10 = true ∧ muG (tkG q 10) + 1 ≤ muG q) ∨
    (mayB q 7 = false ∧ mayB q 9 = false ∧ mayB q 10 = false ∧ mayB q 5 = true ∧ muG (tkG q 5) + 1 ≤ muG q) := by
  have lo := hg.lo
  have hi := hg.hi
  obtain ⟨p, s⟩ := q
  dsimp only at lo hi
  have hp : p = 0 ∨ p = 1 ∨ p = 2 ∨ p = 3 ∨ p = 4 ∨ p = 5 := by omega
  rcases hp with rfl | rfl | rfl | rfl | rfl | rfl
  · refine .inr (.inr (.inr ⟨rfl, rfl, rfl, rfl, ?_⟩))
    rw [tk_yes rfl]
    show muG ⟨5, s⟩ + 1 ≤ muG ⟨0, s⟩
    unfold muG; simp
  · have h1 := hg.li rfl
    refine .inl ⟨rfl, ?_⟩
    rw [tk_yes rfl]
    exact mu_drop (p := 1) h1.1 (by decide) (by decide) (by decide)
  · have h1 := hg.ob (.inl rfl)
    refine .inr (.inl ⟨rfl, rfl, ?_⟩)
    rw [tk_yes rfl]
    exact mu_drop (p := 2) h1.1 (by decide) (by decide) (by decide)
  · refine .inr (.inr (.inr ⟨rfl, rfl, rfl, rfl, ?_⟩))
    rw [tk_yes rfl]
    show muG ⟨4, s⟩ + 1 ≤ muG ⟨3, s⟩
    unfold muG; simp
  · refine .inr (.inr (.inl ⟨rfl, rfl, rfl, ?_⟩))
    rw [tk_yes rfl]
    show muG ⟨0, s⟩ + 1 ≤ muG ⟨4, s⟩
    unfold muG; simp
  · have hn : s ≠ [] := fun e => by subst e; exact absurd he (by decide)
    have hne : (!s.isEmpty) = true := by cases s with | nil => exact absurd rfl hn | cons => rfl
    have m : ∀ k, mayB ⟨5, s⟩ k = (k == 11 || k == lastV s) := fun k => by
      have : mayB ⟨5, s⟩ k = (!s.isEmpty && (k == 11 || k == lastV s)) := rfl
      rw [this, hne, Bool.true_and]
    rcases last_kind hg hn with e | e
    · have e : lastV s = 7 := e
      have h7 : mayB ⟨5, s⟩ 7 = true := by rw [m, e]; rfl
      refine .inl ⟨h7, ?_⟩
      rw [tk_yes h7]
      exact mu_drop (p := 5) hn (by decide) (by decide) (by decide)
    · have e : lastV s = 9 := e
      have h7 : mayB ⟨5, s⟩ 7 = false := by rw [m, e]; rfl
      have h9 : mayB ⟨5, s⟩ 9 = true := by rw [m, e]; rfl
      refine .inr (.inl ⟨h7, h9, ?_⟩)
      rw [tk_yes h9]
      exact mu_drop (p := 5) hn (by decide) (by decide) (by decide)
theorem end_len {q : Gm} (h : endB q = true) : q.s.length = 0 := by
  unfold endB at h
  have h := ((Bool.and_eq_true _ _).mp h).2
  cases hs : q.s with
  | nil => rfl
  | cons y l => rw [hs] at h; cases h
def HoL (w : World) (g : Nat) (z : List Int) (i : Value) (wr : World) : Prop := ∃ (k : Nat) (v : Value) (q : Gm), k ≤ z.length ∧ i = .int .i64 k ∧ q.s.length ≤ k ∧ GIs wr w.heap.size g v q ∧ Below w.heap.size w wr
def HeL (w : World) (g : Nat) (i : Value) (wr : World) : Prop := ∃ (j : Nat) (v : Value) (q : Gm), i = .int .i64 j ∧ muG q + j ≤ 153 ∧ GIs wr w.heap.size g v q ∧ Below w.heap.size w wr
set_option maxHeartbeats 16000000 in
theorem hopes_walk (a0 : Option Addr) (n cap : Nat) (z : List Int) (w : World) (hn : z.length = n) (hI : Ints w w.heap.size .i64 a0 z) (hm : n ≤ maxLen) :
    Calls Try.prog 5 #[.slice a0 n cap] w fun e w' => e = .returned (.bool true) ∧ Below w.heap.size w w' := by
  have HI := Lib.hid hI
  have HN := Lib.hid hn
  unfold maxLen at hm
  clear hI hn
  go_enter Try.func5, Try.ntmps5
  go_wp2_with fail
  with_reducible refine (new_any w.heap.size w (Nat.le_refl _)).mono ?_
  rintro e1 w1 ⟨g, rfl, lg, hn1, hb1⟩
  have HNW := Lib.hid hn1
  have HB1 := Lib.hid hb1
  clear hn1 hb1
  by_cases hbig : 150 < n
  · have q0 : (150 : Int) < n := by omega
    go_wp2_with fail
    with_reducible refine (awake_any _).mono ?_
    rintro e1 w2 ⟨rfl, hb2⟩
    have HB2 := Lib.hid (HB1.out.trans (hb2.mono HB1.out.size))
    clear hb2
    go_wp2
    go_ret
    exact ⟨rfl, HB2.out⟩
  have q0 : ¬ (150 : Int) < n := by omega
  go_wp2_with fail
  go_loopw [4] (fun i wr => HoL w g z i wr) (fun i _ => n - (intOf i).toNat)
  case atStart => exact ⟨0, _, gm0, by omega, rfl, by decide, HNW.out, HB1.out⟩
  case round =>
    clear HNW HB1
    obtain ⟨k, v, q, hk, rfl, hs, hpg, hbw⟩ := hrel
    have HG := Lib.hid hpg
    have HB := Lib.hid hbw
    have hzn := HN.out
    clear hpg hbw
    by_cases hlt : k < n
    · have hlt' : (k : Int) < n := by omega
      obtain ⟨b, o, rfl, hbl, hcell⟩ := HI.out.at (by omega)
      obtain ⟨x, hx⟩ : ∃ x, z.getD k 0 = x := ⟨_, rfl⟩
      have kx : wr.cell? ⟨b, o + k, none⟩ = some (.int .i64 x) := (HB.out.cell (p := ⟨b, o + k, none⟩) hbl).trans (by rw [← hx]; exact hcell k (by omega))
      have HPL := Lib.hid (fun W => place_any x 12 W (by decide) (by decide))
      clear hx hcell
      generalize x % 12 = y at *
      have HT := Lib.hid (take_any w.heap.size g v q y wr HG.out (by omega) HB.out.size)
      have hl := tk_len q y
      generalize tkG q y = q1 at *
      generalize mayB q y = mb at *
      go_wp2_with fail
      with_reducible refine (HPL.out _).mono ?_
      rintro e w3 ⟨rfl, rfl⟩
      go_wp2_with fail
      with_reducible refine HT.out.mono ?_
      rintro e w3 ⟨rfl, v3, p1, p2, p3⟩
      have HG3 := Lib.hid p1
      have HB3 : Hid (Below w.heap.size w w3) := Lib.hid (HB.out.trans (p2.ofG HG.out HB.out.size))
      clear p1 p2 p3 HT HPL HG HB
      go_wp2
      go_roundw
      case rel => exact ⟨k + 1, v3, q1, by omega, by go_num, by omega, HG3.out, HB3.out⟩
      case measure => simp [intOf]; omega
    · have hlt' : ¬ (k : Int) < n := by omega
      have hmu := mu_le q
      go_wp2_with fail
      generalize wr = wq at *
      go_loopw [5] (fun i wr => HeL w g i wr) (fun i _ => 400 - (intOf i).toNat)
      case atStart => exact ⟨0, v, q, rfl, by omega, HG.out, HB.out⟩
      case round =>
        clear HG HB hmu hs
        clear q v
        obtain ⟨j, v0, q, rfl, hmu, hpg, hbw⟩ := hrel
        have HG0 := Lib.hid hpg
        have HB0 := Lib.hid hbw
        have hj : (j : Int) < 400 := by omega
        have hln : q.s.length ≤ 153 := by have : q.s.length ≤ muG q := by unfold muG; omega
                                          omega
        have HEN := Lib.hid (ended_any w.heap.size g v0 q wr HG0.out)
        clear hpg hbw
        cases he : endB q with
        | true =>
          rw [he] at HEN
          have HDP := Lib.hid (depth_any w.heap.size g v0 q wr HG0.out)
          have hl0 := end_len he
          rw [hl0] at HDP
          clear he hl0
          go_wp2_with fail
          with_reducible refine HEN.out.mono ?_
          rintro e w2 ⟨rfl, rfl⟩
          go_wp2_with fail
          with_reducible refine HEN.out.mono ?_
          rintro e w2 ⟨rfl, rfl⟩
          go_wp2_with fail
          with_reducible refine HDP.out.mono ?_
          rintro e w2 ⟨rfl, rfl⟩
          go_wp2_with fail
          with_reducible refine (awake_any _).mono ?_
          rintro e1 w2 ⟨rfl, hb2⟩
          have HB2 := Lib.hid (HB0.out.trans (hb2.mono HB0.out.size))
          clear hb2
          go_wp2
          go_ret
          exact ⟨rfl, HB2.out⟩
        | false =>
          rw [he] at HEN
          have hst := hope_step HG0.out.ok he
          clear he
          go_wp2_with fail
          with_reducible refine HEN.out.mono ?_
          rintro e w2 ⟨rfl, rfl⟩
          clear HEN
          rcases hst with ⟨h7, hm1⟩ | ⟨h7, h9, hm1⟩ | ⟨h7, h9, h10, hm1⟩ | ⟨h7, h9, h10, h5, hm1⟩
          · have HT1 := Lib.hid (take_any w.heap.size g v0 q 7 wr HG0.out (by omega) HB0.out.size)
            rw [h7] at HT1
            generalize tkG q 7 = q1 at *
            go_wp2_with fail
            with_reducible refine HT1.out.mono ?_
            rintro e w1 ⟨rfl, v1, p1, p2, p3⟩
            have HG1 := Lib.hid p1
            have HB1 : Hid (Below w.heap.size w w1) := Lib.hid (HB0.out.trans (p2.ofG HG0.out HB0.out.size))
            clear p1 p2 p3 HT1 HG0 HB0
            go_wp2
            go_roundw
            case rel => exact ⟨j + 1, v1, q1, by go_num, by omega, HG1.out, HB1.out⟩
            case measure => simp [intOf]; omega
          · have HT1 := Lib.hid (take_any w.heap.size g v0 q 7 wr HG0.out (by omega) HB0.out.size)
            rw [h7, tk_no h7] at HT1
            go_wp2_with fail
            with_reducible refine HT1.out.mono ?_
            rintro e w1 ⟨rfl, v1, p1, p2, p3⟩
            have HG1 := Lib.hid p1
            have HB1 : Hid (Below w.heap.size w w1) := Lib.hid (HB0.out.trans (p2.ofG HG0.out HB0.out.size))
            clear p1 p2 p3 HT1 HG0 HB0
            have HT2 := Lib.hid (take_any w.heap.size g v1 q 9 w1 HG1.out (by omega) HB1.out.size)
            rw [h9] at HT2
            generalize tkG q 9 = q1 at *
            go_wp2_with fail
            with_reducible refine HT2.out.mono ?_
            rintro e w2 ⟨rfl, v2, p1, p2, p3⟩
            have HG2 := Lib.hid p1
            have HB2 : Hid (Below w.heap.size w w2) := Lib.hid (HB1.out.trans (p2.ofG HG1.out HB1.out.size))
            clear p1 p2 p3 HT2 HG1 HB1
            go_wp2
            go_roundw
            case rel => exact ⟨j + 1, v2, q1, by go_num, by omega, HG2.out, HB2.out⟩
            case measure => simp [intOf]; omega
          · have HT1 := Lib.hid (take_any w.heap.size g v0 q 7 wr HG0.out (by omega) HB0.out.size)
            rw [h7, tk_no h7] at HT1
            go_wp2_with fail
            with_reducible refine HT1.out.mono ?_
            rintro e w1 ⟨rfl, v1, p1, p2, p3⟩
            have HG1 := Lib.hid p1
            have HB1 : Hid (Below w.heap.size w w1) := Lib.hid (HB0.out.trans (p2.ofG HG0.out HB0.out.size))
            clear p1 p2 p3 HT1 HG0 HB0
            have HT2 := Lib.hid (take_any w.heap.size g v1 q 9 w1 HG1.out (by omega) HB1.out.size)
            rw [h9, tk_no h9] at HT2
            go_wp2_with fail
            with_reducible refine HT2.out.mono ?_
            rintro e w2 ⟨rfl, v2, p1, p2, p3⟩
            have HG2 := Lib.hid p1
            have HB2 : Hid (Below w.heap.size w w2) := Lib.hid (HB1.out.trans (p2.ofG HG1.out HB1.out.size))
            clear p1 p2 p3 HT2 HG1 HB1
            have HT3 := Lib.hid (take_any w.heap.size g v2 q 10 w2 HG2.out (by omega) HB2.out.size)
            rw [h10] at HT3
            generalize tkG q 10 = q1 at *
            go_wp2_with fail
            with_reducible refine HT3.out.mono ?_
            rintro e w3 ⟨rfl, v3, p1, p2, p3⟩
            have HG3 := Lib.hid p1
            have HB3 : Hid (Below w.heap.size w w3) := Lib.hid (HB2.out.trans (p2.ofG HG2.out HB2.out.size))
            clear p1 p2 p3 HT3 HG2 HB2
            go_wp2
            go_roundw
            case rel => exact ⟨j + 1, v3, q1, by go_num, by omega, HG3.out, HB3.out⟩
            case measure => simp [intOf]; omega
          · have HT1 := Lib.hid (take_any w.heap.size g v0 q 7 wr HG0.out (by omega) HB0.out.size)
            rw [h7, tk_no h7] at HT1
            go_wp2_with fail
            with_reducible refine HT1.out.mono ?_
            rintro e w1 ⟨rfl, v1, p1, p2, p3⟩
            have HG1 := Lib.hid p1
            have HB1 : Hid (Below w.heap.size w w1) := Lib.hid (HB0.out.trans (p2.ofG HG0.out HB0.out.size))
            clear p1 p2 p3 HT1 HG0 HB0
            have HT2 := Lib.hid (take_any w.heap.size g v1 q 9 w1 HG1.out (by omega) HB1.out.size)
            rw [h9, tk_no h9] at HT2
            go_wp2_with fail
            with_reducible refine HT2.out.mono ?_
            rintro e w2 ⟨rfl, v2, p1, p2, p3⟩
            have HG2 := Lib.hid p1
            have HB2 : Hid (Below w.heap.size w w2) := Lib.hid (HB1.out.trans (p2.ofG HG1.out HB1.out.size))
            clear p1 p2 p3 HT2 HG1 HB1
            have HT3 := Lib.hid (take_any w.heap.size g v2 q 10 w2 HG2.out (by omega) HB2.out.size)
            rw [h10, tk_no h10] at HT3
            go_wp2_with fail
            with_reducible refine HT3.out.mono ?_
            rintro e w3 ⟨rfl, v3, p1, p2, p3⟩
            have HG3 := Lib.hid p1
            have HB3 : Hid (Below w.heap.size w w3) := Lib.hid (HB2.out.trans (p2.ofG HG2.out HB2.out.size))
            clear p1 p2 p3 HT3 HG2 HB2
            have HT4 := Lib.hid (take_any w.heap.size g v3 q 5 w3 HG3.out (by omega) HB3.out.size)
            rw [h5] at HT4
            generalize tkG q 5 = q1 at *
            go_wp2_with fail
            with_reducible refine HT4.out.mono ?_
            rintro e w4 ⟨rfl, v4, p1, p2, p3⟩
            have HG4 := Lib.hid p1
            have HB4 : Hid (Below w.heap.size w w4) := Lib.hid (HB3.out.trans (p2.ofG HG3.out HB3.out.size))
            clear p1 p2 p3 HT4 HG3 HB3
            go_wp2
            go_roundw
            case rel => exact ⟨j + 1, v4, q1, by go_num, by omega, HG4.out, HB4.out⟩
            case measure => simp [intOf]; omega
end Go.Proofs.Ytdkfffncohipbaa
