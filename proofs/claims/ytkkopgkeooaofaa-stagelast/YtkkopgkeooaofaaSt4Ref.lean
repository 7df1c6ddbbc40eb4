/- The document's layer 4: Build and Get by contracts. -/
import Derived.Test.YtkkopgkeooaofaaSt4Build
namespace Go.Proofs.Ytkkopgkeooaofaa
open Go.ChangeShapes Go.WideShapes Go.ChangeAt Go.RowKit
set_option linter.unusedVariables false
set_option linter.unusedSimpArgs false

/-- block g is the document's table of these entries -/
structure RTab (w : World) (B g m : Nat) (l : List (Int × Int)) : Prop where
  lt : g < B
  mlt : m < B
  cell : w.cell? ⟨g, 0, none⟩ = some (.map (some m))
  map : MapIs w m (Value.int .i32) (Value.int .i64) D32 (rks l) (tab l)
theorem RTab.below {w w' : World} {B B' g m : Nat} {l : List (Int × Int)} (h : RTab w B g m l) (hb : Below B' w w') (hB : B ≤ B') : RTab w' B g m l :=
  ⟨h.lt, h.mlt, (hb.cell (p := ⟨g, 0, none⟩) (show g < B' by have := h.lt; omega)).trans h.cell, h.map.below hb (by have := h.mlt; omega)⟩
theorem RTab.more {w : World} {B B' g m : Nat} {l : List (Int × Int)} (h : RTab w B g m l) (hB : B ≤ B') : RTab w B' g m l := ⟨by have := h.lt; omega, by have := h.mlt; omega, h.cell, h.map⟩
theorem zero_int (w : World) : (zeroValue 3).run Try.prog w = .ok (.int .i64 0) w := by kernel_rfl

theorem r_get_any (c : Int) (w : World) (B g m : Nat) (l : List (Int × Int)) (hc : D32 c) (ht : RTab w B g m l) :
    Calls Try.prog 10 #[.pointer (some ⟨g, 0, none⟩), .int .i32 c] w fun e w' => e = .returned (.int .i64 (tab l c)) ∧ w = w' := by
  have h0 := ht.cell
  have HT := Lib.hid ht
  have HC := Lib.hid hc
  have HV : Hid ((if c ∈ rks l then Value.int .i64 (tab l c) else .int .i64 0) = .int .i64 (tab l c)) := Lib.hid (by
    split
    · rfl
    · rename_i h; rw [rks_out l c h])
  clear ht hc
  go_enter Try.func10, Try.ntmps10
  go_wp2_with (at_lookup; refine wpList_mlook rfl _ _ 52 false rfl 21 3 kv32 Try.underlying52 (zero_int _) m rfl HT.out.map c rfl HC.out (.int .i64 (tab l c)) HV.out ?_)
  go_ret
  exact ⟨rfl, rfl⟩

structure RRel (w : World) (p : List (Int × Int)) (wr : World) : Prop where
  below : Below w.heap.size w wr
  box : Blk wr (w.heap.size + 1) 54 #[.map (some w.heap.size)]
  map : MapIs wr w.heap.size (Value.int .i32) (Value.int .i64) D32 (rks p) (tab p)
theorem rr_none {w wr : World} {p : List (Int × Int)} {c v : Int} (h : RRel w p wr) (hp : isPl c = false) : RRel w (p ++ [(c, v)]) wr := by
  have h1 : rks (p ++ [(c, v)]) = rks p := by rw [rks_snoc, if_neg (by simp [hp])]
  have h2 : tab (p ++ [(c, v)]) = tab p := by rw [tab_snoc]; unfold tstep; rw [if_neg (by simp [hp])]
  exact ⟨h.below, h.box, by rw [h1, h2]; exact h.map⟩
theorem rr_place {w wr w2 : World} {p : List (Int × Int)} {c v : Int} (h : RRel w p wr) (hp : isPl c = true) (hm : MapIs w2 w.heap.size (Value.int .i32) (Value.int .i64) D32 (kput (rks p) c) (upd (tab p) c v)) (hb : But w.heap.size wr w2) : RRel w (p ++ [(c, v)]) w2 := by
  have h1 : rks (p ++ [(c, v)]) = kput (rks p) c := by rw [rks_snoc, if_pos hp]
  have h2 : tab (p ++ [(c, v)]) = upd (tab p) c v := by rw [tab_snoc]; unfold tstep; rw [if_pos hp]
  have hl := h.box.lt
  exact ⟨h.below.trans (hb.below (Nat.le_refl _) (by omega)), hb.blk h.box (by omega), by rw [h1, h2]; exact hm⟩
theorem rr_drew {w wr : World} {p : List (Int × Int)} (h : RRel w p wr) : RRel w p wr.drew := ⟨h.below.drew, h.box, h.map⟩
def RBuildPost (w : World) (l : List (Int × Int)) (e : Ending) (w' : World) : Prop :=
  ∃ g m, e = .returned (.pointer (some ⟨g, 0, none⟩)) ∧ RTab w' w'.heap.size g m l ∧ Below w.heap.size w w'
theorem rr_end {w wr : World} {l : List (Int × Int)} (h : RRel w l wr) : RBuildPost w l (.returned (.pointer (some ⟨w.heap.size + 1, 0, none⟩))) wr :=
  ⟨_, _, rfl, ⟨h.box.lt, h.map.lt, h.box.cell 0, h.map⟩, h.below⟩

set_option maxHeartbeats 1000000 in
theorem r_build_any (w : World) (A : Option Addr) (n cap : Nat) (l : List (Int × Int)) (hn : l.length = n) (hm : n ≤ 1099511627776) (hE : Ents w w.heap.size A l) (hf : FitE l) :
    Calls Try.prog 8 #[.slice A n cap] w (RBuildPost w l) := by
  have hmm := @run_makeMap Try.prog
  have HN := Lib.hid hn
  have HE := Lib.hid hE
  have HF := Lib.hid hf
  clear hn hE hf
  go_enter Try.func8, Try.ntmps8
  go_wp2_with fail
  go_loopw [4] (fun i wr => ∃ k : Nat, k ≤ n ∧ i = .int .i64 k ∧ RRel w (l.take k) wr) (fun i _ => n - (intOf i).toNat)
  case atStart => exact ⟨0, by omega, rfl, ((Below.refl _ _).alloc (Nat.le_refl _) _).alloc (by simp) _, by simpa using Blk.new (w.alloc (.map #[] 0)) 54 #[.map (some w.heap.size)], (MapIs.made _ _ _ _ _).alloc _⟩
  case round =>
    obtain ⟨k, hk, rfl, hR⟩ := hrel
    by_cases hlt : k < n
    · have HR := Lib.hid hR
      clear hR hmm
      obtain ⟨b, o, rfl, hbl, hc⟩ := HE.out.at (by rw [HN.out]; omega)
      obtain ⟨c0, c1⟩ := hc k (by rw [HN.out]; omega)
      clear hc
      have c0 : wr.cell? ⟨b, o + k * 2, none⟩ = _ := (HR.out.below.cell (p := ⟨b, o + k * 2, none⟩) hbl).trans c0
      have c1 : wr.cell? ⟨b, o + k * 2 + 1, none⟩ = _ := (HR.out.below.cell (p := ⟨b, o + k * 2 + 1, none⟩) hbl).trans c1
      have HT : Hid (l.take (k + 1) = l.take k ++ [l.getD k (0, 0)]) := Lib.hid (by
        rw [List.take_succ_eq_append_getElem (by rw [HN.out]; omega), List.getD_eq_getElem?_getD, List.getElem?_eq_getElem (by rw [HN.out]; omega)]; rfl)
      have HW : Hid (D32 ((l.getD k (0, 0)).1)) := Lib.hid (HF.out _ (by rw [List.getD_eq_getElem?_getD, List.getElem?_eq_getElem (by rw [HN.out]; omega)]; exact List.getElem_mem _)).1
      generalize l.getD k (0, 0) = e at c0 c1 HT HW
      obtain ⟨c, v⟩ := e
      dsimp only at c0 c1 HW
      have b0 : wr.cell? ⟨w.heap.size + 1, 0, none⟩ = some (.map (some w.heap.size)) := HR.out.box.cell 0
      by_cases hp : isPl c = true
      · obtain ⟨hp0, hp1⟩ := isPl_iff.1 hp
        have HP := Lib.hid hp
        clear hp
        go_wp2_with fail
        refine wp_region_still_tail 14 (by kernel_rfl) (by kernel_rfl) ?_
        simp only [List.take_succ_cons, List.take_zero, List.drop_succ_cons, List.drop_zero]
        generalize hW1 : ({ wr with drawn := wr.drawn + 1 } : World) = W1
        have e0 : W1.cell? ⟨b, o + k * 2, none⟩ = some (.int .i32 c) := by rw [← hW1]; exact c0
        have e1 : W1.cell? ⟨b, o + k * 2 + 1, none⟩ = some (.int .i64 v) := by rw [← hW1]; exact c1
        have e2 : W1.cell? ⟨w.heap.size + 1, 0, none⟩ = some (.map (some w.heap.size)) := by rw [← hW1]; exact b0
        have HR1 : Hid (RRel w (l.take k) W1) := Lib.hid (by rw [← hW1]; exact rr_drew HR.out)
        clear hW1 c0 c1 b0 HR
        repeat still_step
        refine wpStill_nil ?_
        go_wp2_with (at_mapUpdate; refine wpList_mput rfl _ _ _ 52 rfl 21 3 kv32 Try.underlying52 w.heap.size rfl HR1.out.map c rfl HW.out v rfl ?_; intro w2 hm2 hb2)
        have HQ := Lib.hid (rr_place (v := v) HR1.out HP.out hm2 hb2)
        clear hm2 hb2
        try go_wp2
        go_roundw
        case rel => exact ⟨k + 1, by omega, by go_num, by rw [HT.out]; exact HQ.out⟩
        case measure => simp [intOf]; omega
      · have hp' : isPl c = false := by simpa using hp
        have HQ := Lib.hid (rr_none (v := v) HR.out hp')
        have hno := isPl_no.1 hp'
        clear hp hp'
        by_cases h0 : 0 ≤ c
        · have h1 : ¬ c ≤ 1114111 := fun h => hno ⟨h0, h⟩
          clear hno
          go_wp2
          go_roundw
          case rel => exact ⟨k + 1, by omega, by go_num, by rw [HT.out]; exact HQ.out⟩
          case measure => simp [intOf]; omega
        · clear hno
          go_wp2
          go_roundw
          case rel => exact ⟨k + 1, by omega, by go_num, by rw [HT.out]; exact HQ.out⟩
          case measure => simp [intOf]; omega
    · have hkk : k = n := by omega
      subst hkk
      have HR : Hid (RRel w l wr) := Lib.hid (by have := hR; rwa [List.take_of_length_le (by rw [HN.out]; omega)] at this)
      have HQ := Lib.hid (rr_end HR.out)
      clear hR hmm
      have hlt' : ¬ (k : Int) < k := by omega
      go_wp2
      go_ret
      exact HQ.out
end Go.Proofs.Ytkkopgkeooaofaa
