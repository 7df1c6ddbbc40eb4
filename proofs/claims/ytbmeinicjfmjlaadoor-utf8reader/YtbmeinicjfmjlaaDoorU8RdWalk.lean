/- The walk of Utf8Reader. -/
import Derived.Test.YtbmeinicjfmjlaaDoorU8RdLaw
namespace Go.Proofs.YtbmeinicjfmjlaaDoor
open Go.ChangeShapes Go.WideShapes Go.ChangeAt Go.RowKit
set_option linter.unusedVariables false

theorem RefAt.but_rd {w w' : World} {g g' : Nat} {bs cs : List Int} (h : RefAt w g' bs) (hR : RdAt w g cs) (hb : But g w w') : RefAt w' g' bs := by
  obtain ⟨A, c, hk, hn, hI⟩ := h
  have hne : g' ≠ g := by
    rintro rfl
    have h1 := hk.cell 0
    have h2 := hR.cell 0
    rw [h1] at h2
    simp at h2
  refine ⟨A, c, hb.blk hk hne, hn, ?_⟩
  rcases Nat.eq_zero_or_pos bs.length with h0 | h0
  · exact .inl (List.eq_nil_of_length_eq_zero h0)
  · obtain ⟨b, o, rfl, hl, hc⟩ := hI.at h0
    have hne2 : b ≠ g := by
      rintro rfl
      have h1 := hc 0 h0
      rw [hR.cell, Nat.add_zero] at h1
      match o, h1 with
      | 0, h1 => simp at h1
      | 1, h1 => simp at h1
      | 2, h1 => simp at h1
      | o + 3, h1 => simp at h1
    exact .inr ⟨b, o, rfl, Nat.lt_of_lt_of_le hl hb.size, fun j hj => (hb.cell (p := ⟨b, o + j, none⟩) hl hne2).trans (hc j hj)⟩
theorem RdAt.but_ref {w w' : World} {g g' : Nat} {bs cs : List Int} (h : RdAt w g cs) (hR : RefAt w g' bs) (hb : But g' w w') : RdAt w' g cs := by
  obtain ⟨A, c, hk, hn, hI⟩ := hR
  have hne : g ≠ g' := by
    rintro rfl
    have h1 := hk.cell 0
    have h2 := h.cell 0
    rw [h1] at h2
    simp at h2
  exact hb.blk h hne
theorem RefAt.tab {w : World} {g : Nat} {bs : List Int} (h : RefAt w g bs) (hT : Tab w) : g ≠ 0 := by
  obtain ⟨A, c, hk, hn, hI⟩ := h
  rintro rfl
  have h1 := hT.cell 0
  rw [hk.cell 0] at h1
  simp [leadsArr] at h1
/-- a reader's bytes -/
structure Begun (bs : List Int) : Prop where
  how : bs = [] ∨ how bs = 1
  bts : Bts bs
  len : bs.length ≤ 4
theorem Begun.nil : Begun [] := ⟨.inl rfl, (fun _ h => (by cases h)), (by simp)⟩
theorem Begun.push {bs : List Int} (h : Begun bs) {x : Int} (h0 : 0 ≤ x) (h1 : x ≤ 255) : Begun (pS bs x) := by
  unfold pS
  split
  · exact Begun.nil
  · split
    · rename_i hh
      refine ⟨.inr hh, fun y hy => ?_, by have := (how_len1 hh).2; omega⟩
      rcases List.mem_append.1 hy with h' | h'
      · exact h.bts y h'
      · simp at h'; subst h'; exact ⟨h0, h1⟩
    · exact h
def RdLoop (w : World) (n g g' : Nat) (s5 : Value) (w1 : World) : Prop :=
  ∃ (k : Nat) (bs : List Int), k ≤ n ∧ s5 = .int .i64 k ∧ RdAt w1 g bs ∧ RefAt w1 g' bs ∧ Tab w1 ∧ Begun bs ∧ Below w.heap.size w w1

theorem left_rd_n {w : World} {g : Nat} {bs : List Int} (h : RdAt w g bs) (n : Nat) :
    Calls Tryd.prog 23 #[.pointer (some ⟨g, 0, none⟩)] (w.drewN n) fun e w' => e = .returned (.int .i64 (bs.length : Int)) ∧ w.drewN n = w' := left_rd (w := w.drewN n) h
theorem push_gen {g : Nat} {bs : List Int} {x : Int} {w : World} (h : PushIs g bs x w) (c d : Int) (bs' : List Int) (hc : pC bs x = c) (hd : pH bs x = d) (hs : pS bs x = bs') :
    Calls Tryd.prog 21 #[.pointer (some ⟨g, 0, none⟩), .int .u8 x] w fun e w' => e = .returned (.tuple #[.int .i32 c, .int .i64 d]) ∧ RdAt w' g bs' ∧ But g w w' := by
  subst hc hd hs; exact h
theorem r_push_gen {g : Nat} {bs : List Int} {x : Int} {w : World} (hB : Begun bs) (hx0 : 0 ≤ x) (hx1 : x ≤ 255) (hR : RefAt w g bs) (c d : Int) (bs' : List Int) (hc : pC bs x = c) (hd : pH bs x = d) (hs : pS bs x = bs') :
    Calls Tryd.prog 22 #[.pointer (some ⟨g, 0, none⟩), .int .u8 x] w fun e w' => e = .returned (.tuple #[.int .i32 c, .int .i64 d]) ∧ RefAt w' g bs' ∧ But g w w' := by
  subst hc hd hs; exact r_push_any g bs x w hx0 hx1 hB.bts hB.len hR

set_option maxHeartbeats 4000000 in
theorem reader_walk (a : Option Addr) (len cap : Nat) (z : List Int) (w : World) (hT : Tab w) (r : ArgRow .u8 w a len cap z) :
    Calls Tryd.prog 6 #[.slice a len cap] w fun e w' => e = .returned (.bool true) ∧ Below w.heap.size w w' := by
  have hB := u8_bts r.wf
  obtain ⟨hz, hle, hmx, _, hI, _⟩ := r
  subst hz
  unfold maxLen at hmx
  have HI := Lib.hid hI
  have HB := Lib.hid hB
  clear hI hB
  by_cases hbig : 300 < z.length
  · have hbig' : decide (300 < (z.length : Int)) = true := decide_eq_true (by omega)
    go_enter Tryd.func6, Tryd.ntmps6
    go_wp2_with fail
    with_reducible refine (new_any _).mono ?_
    rintro e w1 ⟨rfl, rfl⟩
    have hb1 := (Below.refl w.heap.size w).alloc (Nat.le_refl _) (.cells #[.int .i64 0, .int .i64 0, .int .i32 0] 53)
    generalize w.alloc (.cells #[.int .i64 0, .int .i64 0, .int .i32 0] 53) = w1 at hb1 ⊢
    go_wp2_with fail
    with_reducible refine (awake_any _ (hT.below' hb1)).mono ?_
    rintro e w2 ⟨rfl, hb2⟩
    have hb3 := hb1.trans (hb2.mono hb1.size)
    clear hb2
    go_wp2
    go_ret
    exact ⟨rfl, hb3⟩
  · have hbig' : decide (300 < (z.length : Int)) = false := decide_eq_false (by omega)
    go_enter Tryd.func6, Tryd.ntmps6
    go_wp2_with fail
    with_reducible refine (new_any _).mono ?_
    rintro e w1 ⟨rfl, rfl⟩
    have hR1 := rd_new w
    have hb1 := (Below.refl w.heap.size w).alloc (Nat.le_refl _) (.cells #[.int .i64 0, .int .i64 0, .int .i32 0] 53)
    generalize w.alloc (.cells #[.int .i64 0, .int .i64 0, .int .i32 0] 53) = w1 at hR1 hb1 ⊢
    go_wp2_with fail
    have hR2 : RdAt (w1.alloc (.cells #[.slice none 0 0] 42)) w.heap.size [] := hR1.alloc _
    have hF2 : RefAt (w1.alloc (.cells #[.slice none 0 0] 42)) w1.heap.size [] := ⟨none, 0, Blk.new w1 _ _, fun _ => rfl, .inl rfl⟩
    have hb2 := hb1.alloc hb1.size (.cells #[.slice none 0 0] 42)
    have hz1 := hb1.size
    generalize w1.alloc (.cells #[.slice none 0 0] 42) = w2 at hR2 hF2 hb2 ⊢
    clear hR1 hb1
    generalize w1.heap.size = g' at hF2 hz1 ⊢
    have st : RdLoop w z.length w.heap.size g' (.int .i64 0) w2 := ⟨0, [], by omega, rfl, hR2, hF2, hT.below' hb2, Begun.nil, hb2⟩
    clear hR2 hF2 hb2
    go_loopw [5] (fun s5 w1 => RdLoop w z.length w.heap.size g' s5 w1) (fun i _ => z.length - (intOf i).toNat)
    case atStart => exact st
    case round =>
      obtain ⟨k, bs, hk, rfl, hR, hF, hT1, hBg, hb⟩ := hrel
      clear st
      by_cases hlt : k < z.length
      · obtain ⟨b, o, rfl, hbl, hc⟩ := HI.out.at (by omega)
        have hlt' : (k : Int) < z.length := by omega
        have HC : Hid (∀ W : World, Below w.heap.size w W → W.cell? ⟨b, o + k, none⟩ = some (.int .u8 (z.getD k 0))) := fun W hW => (hW.cell (p := ⟨b, o + k, none⟩) hbl).trans (hc k hlt)
        obtain ⟨x0, x1⟩ := HB.out.at hlt
        generalize z.getD k 0 = x at HC x0 x1
        clear hc
        have hcell := HC.out wr hb
        have hBg' := hBg.push x0 x1
        obtain ⟨c, hpc⟩ : ∃ c, pC bs x = c := ⟨_, rfl⟩
        obtain ⟨d, hph⟩ : ∃ d, pH bs x = d := ⟨_, rfl⟩
        obtain ⟨bs', hps⟩ : ∃ bs', pS bs x = bs' := ⟨_, rfl⟩
        rw [hps] at hBg'
        have hq1 := push_gen (push_any w.heap.size bs x wr x0 x1 hBg.how hT1 hR) c d bs' hpc hph hps
        have HQ2 : Hid (∀ W : World, RefAt W g' bs → Calls Tryd.prog 22 #[.pointer (some ⟨g', 0, none⟩), .int .u8 x] W fun e w' => e = .returned (.tuple #[.int .i32 c, .int .i64 d]) ∧ RefAt w' g' bs' ∧ But g' W w') := fun W hW => r_push_gen hBg x0 x1 hW c d bs' hpc hph hps
        have hn1 := hR.ne hT1
        have hn2 := hF.tab hT1
        have hzr := hR.lt
        have hzf := hF.lt
        clear hpc hph hps hBg
        go_wp2_with fail
        with_reducible refine hq1.mono ?_
        rintro e w3 ⟨rfl, hR3, hbt3⟩
        have hF3 := hF.but_rd hR hbt3
        have hT3 := hT1.but hbt3 hn1
        have hb3 := hb.trans (hbt3.below (Nat.le_refl _) (by omega))
        have hcell3 := HC.out w3 hb3
        have hzf3 := hF3.lt
        clear hcell hq1 hR hF hbt3 hb
        go_wp2_with fail
        with_reducible refine (HQ2.out w3 hF3).mono ?_
        rintro e w4 ⟨rfl, hF4, hbt4⟩
        have hR4 := hR3.but_ref hF3 hbt4
        have hT4 := hT3.but hbt4 hn2
        have hb4 := hb3.trans (hbt4.below hz1 hb3.size)
        clear hcell3 hR3 hF3 hbt4 hb3 hT3
        have HF4 := Lib.hid hF4
        obtain ⟨A5, c5, hk5, _, _⟩ := hF4
        have hc5 : w4.cell? ⟨g', 0, none⟩ = some (.slice A5 bs'.length c5) := hk5.cell 0
        clear hk5
        have hc1 : (c != c) = false := by simp
        have hd1 : (d != d) = false := by simp
        have hl1 : ((bs'.length : Int) != bs'.length) = false := by simp
        go_wp2_with fail
        go_quiet ((go_at_call 23; exact quiet_left' (left_rd_n hR4 _)))
        go_wp2
        go_roundw
        case rel => exact ⟨k + 1, bs', by omega, by go_num, hR4, HF4.out, hT4, hBg', below_drewN' hb4 _⟩
        case measure => simp [intOf]; omega
      · have hlt' : ¬ (k : Int) < z.length := by omega
        go_wp2_with fail
        with_reducible refine (awake_any _ hT1).mono ?_
        rintro e w5 ⟨rfl, hb5⟩
        have hb6 := hb.trans (hb5.mono hb.size)
        clear hb5
        go_wp2
        go_ret
        exact ⟨rfl, hb6⟩
end Go.Proofs.YtbmeinicjfmjlaaDoor
