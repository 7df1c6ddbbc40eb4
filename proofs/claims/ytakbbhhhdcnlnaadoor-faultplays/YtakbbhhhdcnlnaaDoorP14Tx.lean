/- fault.Text by its contract. -/
import Derived.Test.YtakbbhhhdcnlnaaDoorP14Wd
import Derived.Test.YtakbbhhhdcnlnaaDoorP14Bl
namespace Go.Proofs.YtakbbhhhdcnlnaaDoor
set_option maxRecDepth 100000
open Go.RowKit
set_option linter.unusedVariables false
set_option linter.unusedSimpArgs false

def txt : List Lay → List UInt8
  | [] => []
  | x :: l => wdS x ++ txt l
def TxL (w : World) (B : Nat) (R : List UInt8) (k : Nat) (v : Value) (wr : World) : Prop :=
  ∃ (M : List Lay) (d : List UInt8), v = hdV M ∧ Lies w M ∧ (∀ x ∈ M, szL x) ∧ R = d ++ txt M ∧ M.length = k ∧ Bld B B d wr ∧ Below B w wr
theorem text_nil (w : World) : Calls Tryd.prog 15 #[.nilIface] w fun e w' => e = .returned (.string ⟨#[]⟩) ∧ Below w.heap.size w w' := by
  have ho := Lib.hid (fun w => own_any [] w)
  obtain ⟨w1, hw1⟩ : ∃ w1, Hid (w.alloc (.cells #[.pointer none, .slice none 0 0] 63) = w1) := ⟨_, Lib.hid rfl⟩
  have hB : Hid (Below w.heap.size w w1) := Lib.hid (by rw [← hw1.out]; exact (Below.refl _ _).alloc (Nat.le_refl _) _)
  have hX : Hid (Blk w1 w.heap.size 63 #[.pointer none, .slice none 0 0]) := Lib.hid (by rw [← hw1.out]; exact Blk.new w _ _)
  have hS := Lib.hid (string_nil w1 w.heap.size hX.out)
  simp only [List.isEmpty_nil, hdV] at ho
  go_enter Tryd.func15, Tryd.ntmps15
  go_wp2_with fail
  rw [hw1.out]
  refine wp_loop_rounds 1 ?_
  rw [rounds_succ]
  go_wp2_with (go_at_call 22; refine (ho.out _).mono ?_; rintro e w' ⟨rfl, rfl⟩)
  refine (hS.out).mono ?_
  rintro e w2 ⟨rfl, h2⟩
  replace h2 := Lib.hid h2
  go_wp2_with fail
  go_ret
  exact ⟨rfl, hB.out.trans (h2.out.mono (Nat.le_of_lt hX.out.lt))⟩
set_option maxHeartbeats 8000000 in
theorem text_any (L : List Lay) (w : World) (hL : Lies w L) (hs : ∀ x ∈ L, szL x) (hN : NmT w) (hne : txt L ≠ []) (hlen : (txt L).length ≤ 100000000000) :
    Calls Tryd.prog 15 #[hdV L] w fun e w' => e = .returned (.string (bs (txt L))) ∧ Below w.heap.size w w' := by
  obtain ⟨w1, hw1⟩ : ∃ w1, Hid (w.alloc (.cells #[.pointer none, .slice none 0 0] 63) = w1) := ⟨_, Lib.hid rfl⟩
  have hB : Below w.heap.size w w1 := by rw [← hw1.out]; exact (Below.refl _ _).alloc (Nat.le_refl _) _
  have hX : Bld w.heap.size w.heap.size [] w1 := by rw [← hw1.out]; exact Bld.new w
  obtain ⟨R, hR⟩ : ∃ R, R = txt L := ⟨_, rfl⟩
  have hS : Hid (TxL w w.heap.size R L.length (hdV L) w1) := Lib.hid ⟨L, [], rfl, hL, hs, hR, rfl, hX, hB⟩
  rw [← hR] at hne hlen ⊢
  have hlen' := Lib.hid hlen
  have hne' := Lib.hid hne
  have hN' := Lib.hid hN
  clear hL hs hB hX hR hlen hne hN
  generalize hdV L = v0 at *
  go_enter Tryd.func15, Tryd.ntmps15
  go_wp2_with fail
  rw [hw1.out]
  clear hw1
  obtain ⟨x0, hx⟩ : ∃ x0, Hid (x0 = w.heap.size) := ⟨_, Lib.hid rfl⟩
  rw [← hx.out] at hS ⊢
  go_loopg [0] L.length (TxL w x0 R)
  case atStart => exact hS.out
  case round =>
    obtain ⟨M, d, rfl, hM, hs, hR, hk, hb, hB⟩ := hrel
    have hBw : Below w.heap.size w wr := by rw [← hx.out]; exact hB
    have ho := Lib.hid (own_any M wr)
    cases M with
    | nil =>
      have hRd : R = d := by rw [hR]; simp [txt]
      subst hRd
      have hst := Lib.hid (string_any x0 x0 R wr hb hne'.out)
      have hB' := Lib.hid hB
      simp only [List.isEmpty_nil, Bool.not_true] at ho
      clear hM hs hR hk hb hB hBw hS
      generalize hdV [] = v1 at *
      go_wp2_with (first | (go_at_call 22; refine (ho.out).mono ?_; rintro e w' ⟨rfl, rfl⟩) | (go_at_call 26; refine (hst.out).mono ?_; rintro e w2 ⟨rfl, h2⟩; replace h2 := Lib.hid h2))
      go_ret
      exact ⟨rfl, by rw [← hx.out]; exact hB'.out.trans h2.out⟩
    | cons x l =>
      have hsx := hs x List.mem_cons_self
      have hwd := Lib.hid (words_any x l hsx wr (hN'.out.go hBw) (hM.go hBw))
      have hdl : d.length + (bs (wdS x)).size ≤ 140737488355328 := by
        have h1 := hlen'.out
        rw [hR] at h1
        simp only [txt, List.length_append] at h1
        rw [bs_size]
        omega
      have hx0 : x0 < wr.heap.size := hb.lt
      have hNext : Hid (∀ w3, Bld x0 x0 (d ++ L8 (bs (wdS x))) w3 → Below x0 wr w3 → TxL w x0 R l.length (hdV l) w3) := Lib.hid fun w3 h3 h4 =>
        ⟨l, d ++ L8 (bs (wdS x)), rfl, hM.tail, fun y hy => hs y (List.mem_cons_of_mem _ hy), by rw [hR, L8_bs, txt, List.append_assoc], rfl, h3, hB.trans h4⟩
      have hUn : Hid (∀ w3, Below x0 wr w3 → Calls Tryd.prog 23 #[hdV (x :: l)] w3 fun e w' => e = .returned (hdV l) ∧ w' = w3) := Lib.hid fun w3 h4 => unwrap_any (x :: l) w3 (hM.go (by have := hB.trans h4; rw [hx.out] at this; exact this))
      have hk2 : l.length < gk := by rw [← hk]; simp
      have hb' := Lib.hid hb
      simp only [List.isEmpty_cons, Bool.not_false] at ho
      clear hM hs hR hk hb hB hBw hsx hS
      generalize hdV (x :: l) = v1 at *
      generalize hdV l = v2 at *
      generalize bs (wdS x) = D at *
      have hdl' := Lib.hid hdl
      clear hdl
      go_wp2_with (first
        | (go_at_call 22; refine (ho.out).mono ?_; rintro e w' ⟨rfl, rfl⟩)
        | (go_at_call 25; refine (hwd.out).mono ?_; rintro e w2 ⟨rfl, h2⟩; have hb2 := Lib.hid (hb'.out.go h2); have hw2 := Lib.hid (h2.mono (Nat.le_of_lt hx0)); have hx2 := hb2.out.lt; clear h2)
        | (go_at_call 24; refine (write_any x0 x0 d D _ hb2.out hdl'.out (Nat.le_of_lt hx2)).mono ?_; rintro e w3 ⟨rfl, hb3, h3⟩; have hw3 := Lib.hid (hw2.out.trans h3); replace hb3 := Lib.hid hb3; clear h3)
        | (go_at_call 23; refine (hUn.out _ hw3.out).mono ?_; rintro e w4 ⟨rfl, rfl⟩))
      go_roundg l.length
      case measure => exact hk2
      case rel => exact hNext.out _ hb3.out hw3.out
end Go.Proofs.YtakbbhhhdcnlnaaDoor
