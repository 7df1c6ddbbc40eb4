/- Package stage: gather by its contract: the blocks that entries name, by their numbers. -/
import Derived.Test.YtmphfdnpnhlpjaaSt4Add
import Derived.StillTailTactics
namespace Go.Proofs.Ytmphfdnpnhlpjaa
open Go.ChangeShapes Go.WideShapes Go.ChangeAt Go.RowKit
set_option linter.unusedVariables false
set_option linter.unusedSimpArgs false

/-- a row of entries: it lies below block B -/
def Ents (w : World) (B : Nat) (A : Option Addr) (l : List (Int × Int)) : Prop :=
  l = [] ∨ ∃ b o, A = some ⟨b, o, none⟩ ∧ b < B ∧ ∀ j, j < l.length → w.cell? ⟨b, o + j * 2, none⟩ = some (.int .i32 (l.getD j (0, 0)).1) ∧ w.cell? ⟨b, o + j * 2 + 1, none⟩ = some (.int .i64 (l.getD j (0, 0)).2)
theorem Ents.at {w : World} {B : Nat} {A : Option Addr} {l : List (Int × Int)} (h : Ents w B A l) (hp : 0 < l.length) :
    ∃ b o, A = some ⟨b, o, none⟩ ∧ b < B ∧ ∀ j, j < l.length → w.cell? ⟨b, o + j * 2, none⟩ = some (.int .i32 (l.getD j (0, 0)).1) ∧ w.cell? ⟨b, o + j * 2 + 1, none⟩ = some (.int .i64 (l.getD j (0, 0)).2) := by
  rcases h with h | h
  · subst h; simp at hp
  · exact h
theorem Ents.below {w w' : World} {B B' : Nat} {A : Option Addr} {l : List (Int × Int)} (h : Ents w B A l) (hb : Below B' w w') (hB : B ≤ B') : Ents w' B A l := by
  rcases h with h | ⟨b, o, e, hl, hc⟩
  · exact .inl h
  · exact .inr ⟨b, o, e, hl, fun j hj => ⟨(hb.cell (p := ⟨b, o + j * 2, none⟩) (show b < B' by omega)).trans (hc j hj).1, (hb.cell (p := ⟨b, o + j * 2 + 1, none⟩) (show b < B' by omega)).trans (hc j hj).2⟩⟩
theorem Ents.more {w : World} {B B' : Nat} {A : Option Addr} {l : List (Int × Int)} (h : Ents w B A l) (hB : B ≤ B') : Ents w B' A l := by
  rcases h with h | ⟨b, o, e, hl, hc⟩
  · exact .inl h
  · exact .inr ⟨b, o, e, by omega, hc⟩
/-- entries as cells -/
def entsV (l : List (Int × Int)) : List Value := l.flatMap fun e => [.int .i32 e.1, .int .i64 e.2]
theorem entsV_len (l : List (Int × Int)) : (entsV l).length = l.length * 2 := by
  induction l with
  | nil => rfl
  | cons e r ih => unfold entsV at *; rw [List.flatMap_cons, List.length_append, ih, List.length_cons]; simp; omega
theorem entsV_app (a b : List (Int × Int)) : entsV (a ++ b) = entsV a ++ entsV b := by unfold entsV; rw [List.flatMap_append]
theorem entsV_at : ∀ (l : List (Int × Int)) (j : Nat), j < l.length → (entsV l)[j * 2]? = some (.int .i32 (l.getD j (0, 0)).1) ∧ (entsV l)[j * 2 + 1]? = some (.int .i64 (l.getD j (0, 0)).2)
  | [], j, h => by simp at h
  | e :: r, 0, _ => by simp [entsV]
  | e :: r, j + 1, h => by
    have ih := entsV_at r j (by simpa using h)
    have e1 : entsV (e :: r) = .int .i32 e.1 :: .int .i64 e.2 :: entsV r := by simp [entsV]
    have e2 : (j + 1) * 2 = j * 2 + 1 + 1 := by omega
    rw [e1, e2, List.getElem?_cons_succ, List.getElem?_cons_succ, List.getElem?_cons_succ, List.getElem?_cons_succ, List.getD_cons_succ]
    exact ih
theorem entsV_one (l : List (Int × Int)) : ∀ u ∈ entsV l, u.oneCell' = true := by
  intro u hu
  unfold entsV at hu
  obtain ⟨e, _, he⟩ := List.mem_flatMap.1 hu
  simp only [List.mem_cons, List.not_mem_nil, or_false] at he
  rcases he with rfl | rfl <;> rfl
theorem Ents.blk {w : World} {g : Nat} {t : TypeId} {l : List (Int × Int)} (h : Blk w g t (entsV l).toArray) {B : Nat} (hB : g < B) : Ents w B (some ⟨g, 0, none⟩) l := by
  refine .inr ⟨g, 0, rfl, hB, fun j hj => ?_⟩
  obtain ⟨h1, h2⟩ := entsV_at l j hj
  rw [h.cell, h.cell, Nat.zero_add]
  exact ⟨by simpa using h1, by simpa using h2⟩
theorem Ents.own {w : World} {base : Nat} {e : TypeId} {A : Option Addr} {n c : Nat} {l : List (Int × Int)} (h : w.ownsRow base e 2 (.slice A n c) n (entsV l)) : Ents w w.heap.size A l := by
  rcases h.2 with ⟨e1, e2⟩ | ⟨g, cap, cur, hv, hb, hh, hnc, hm, hcs, ht⟩
  · have hl := h.1; rw [e2, entsV_len] at hl; exact .inl (List.eq_nil_of_length_eq_zero (by omega))
  · injection hv with hA
    have hgl : g < w.heap.size := (Array.getElem?_eq_some_iff.1 hh).1
    have hcell : ∀ j u, (entsV l)[j]? = some u → w.cell? ⟨g, j, none⟩ = some u := fun j u hu => by
      rw [cell_of_row w g j cur e (0, 0) hh]
      rw [← ht, List.getElem?_take] at hu
      split at hu
      · simpa using hu
      · cases hu
    refine .inr ⟨g, 0, hA, hgl, fun j hj => ?_⟩
    obtain ⟨h1, h2⟩ := entsV_at l j hj
    rw [Nat.zero_add]
    exact ⟨hcell _ _ h1, hcell _ _ h2⟩
/-- their numbers are numbers of their kinds -/
def FitE (l : List (Int × Int)) : Prop := ∀ e ∈ l, (Lit.int .i32 e.1).wf = true ∧ (Lit.int .i64 e.2).wf = true

abbrev D32 (k : Int) : Prop := (Lit.int .i32 k).wf = true
def ptrV (g : Nat) : Value := .pointer (some ⟨g, 0, none⟩)
theorem kv32 : Kv Try.prog 21 (Value.int .i32) D32 := int_kv Try.underlying21
theorem zero_ptr (w : World) : (zeroValue 91).run Try.prog w = .ok (.pointer none) w := by kernel_rfl
theorem zero_blk (w : World) : (zeroValue 81).run Try.prog w = .ok (.agg zvals.toArray) w := by kernel_rfl
theorem built_blk : Try.prog.built 81 [] = some zvals.toArray := by kernel_rfl
theorem zvals_at (j : Nat) (h : j < 256) : zvals.toArray[j]? = some (.int .i64 0) := by
  rw [List.getElem?_toArray]; unfold zvals; rw [List.getElem?_replicate, if_pos h]
theorem zvals_eq : zvals = zblk.map (Value.int .i64) := by unfold zvals zblk; rw [List.map_replicate]

/-- the blocks that these entries name -/
structure GRel (w : World) (p : List (Int × Int)) (wr : World) (g : Int → Nat) : Prop where
  below : Below w.heap.size w wr
  map : MapIs wr w.heap.size (Value.int .i32) ptrV D32 (gks p) g
  blks : ∀ k ∈ gks p, w.heap.size < g k ∧ Blk wr (g k) 81 ((blk (tab p) k).map (Value.int .i64)).toArray
  apart : ∀ a ∈ gks p, ∀ b ∈ gks p, g a = g b → a = b
def GRel' (w : World) (p : List (Int × Int)) (wr : World) : Prop := ∃ g, GRel w p wr g
def GPost (w : World) (l : List (Int × Int)) (e : Ending) (w' : World) : Prop := e = .returned (.map (some w.heap.size)) ∧ GRel' w l w'

theorem tab_place {p : List (Int × Int)} {c v : Int} (hp : isPl c = true) (k : Int) : blk (tab (p ++ [(c, v)])) k = if k = c / 256 then (blk (tab p) k).set (c % 256).toNat v else blk (tab p) k := by
  rw [tab_snoc]
  have : tstep (tab p) (c, v) = upd (tab p) c v := by unfold tstep; rw [if_pos hp]
  rw [this, blk_upd]
theorem gks_place {p : List (Int × Int)} {c v : Int} (hp : isPl c = true) : gks (p ++ [(c, v)]) = kput (gks p) (c / 256) := by
  rw [gks_snoc]; unfold gstep; rw [if_pos hp]
theorem g_none {w wr W : World} {g : Int → Nat} {p : List (Int × Int)} {c v : Int} (HG : GRel w p wr g) (hp : isPl c = false) (hW : Below wr.heap.size wr W) : GRel w (p ++ [(c, v)]) W g := by
  have h1 : gks (p ++ [(c, v)]) = gks p := by rw [gks_snoc]; unfold gstep; rw [if_neg (by simp [hp])]
  have h2 : tab (p ++ [(c, v)]) = tab p := by rw [tab_snoc]; unfold tstep; rw [if_neg (by simp [hp])]
  have hs := HG.below.size
  refine ⟨HG.below.trans (hW.mono hs), ?_, ?_, ?_⟩
  · rw [h1]; exact HG.map.below hW HG.map.lt
  · rw [h1, h2]; exact fun k hk => ⟨(HG.blks k hk).1, (HG.blks k hk).2.below hW (HG.blks k hk).2.lt⟩
  · rw [h1]; exact HG.apart
theorem set_vals (l : List Int) (i : Nat) (v : Int) : (l.map (Value.int .i64)).toArray.setIfInBounds i (.int .i64 v) = ((l.set i v).map (Value.int .i64)).toArray := by simp [List.map_set]
theorem g_old {w wr W : World} {g : Int → Nat} {p : List (Int × Int)} {c v : Int} (HG : GRel w p wr g) (hp : isPl c = true) (hin : c / 256 ∈ gks p) (hW : Below wr.heap.size wr W) :
    GRel w (p ++ [(c, v)]) (W.setCell ⟨g (c / 256), (c % 256).toNat, none⟩ (.int .i64 v)) g := by
  have hs := HG.below.size
  obtain ⟨hb0, hb1⟩ := HG.blks _ hin
  have h1 : gks (p ++ [(c, v)]) = gks p := by rw [gks_place hp]; unfold kput; rw [if_pos hin]
  refine ⟨(HG.below.trans (hW.mono hs)).setCell (by show _ ≤ g (c / 256); omega) _, ?_, ?_, ?_⟩
  · rw [h1]; exact (HG.map.below hW HG.map.lt).far (show w.heap.size ≠ g (c / 256) by omega) _
  · rw [h1]
    intro k hk
    obtain ⟨hk0, hk1⟩ := HG.blks k hk
    refine ⟨hk0, ?_⟩
    rw [tab_place hp]
    split
    · rename_i e
      subst e
      rw [← set_vals]
      exact (hk1.below hW hk1.lt).set _ _
    · rename_i e
      exact (hk1.below hW hk1.lt).far (show g k ≠ g (c / 256) from fun h => e (HG.apart _ hk _ hin h)) _
  · rw [h1]; exact HG.apart
theorem g_new {w wr W W2 : World} {g : Int → Nat} {p : List (Int × Int)} {c v : Int} {β : Nat} (HG : GRel w p wr g) (hp : isPl c = true) (hin : c / 256 ∉ gks p) (hW : Below wr.heap.size wr W) (hβ : wr.heap.size ≤ β) (hB : Blk W β 81 zvals.toArray)
    (hm : MapIs W2 w.heap.size (Value.int .i32) ptrV D32 (kput (gks p) (c / 256)) (upd g (c / 256) β)) (hbut : But w.heap.size W W2) :
    GRel w (p ++ [(c, v)]) (W2.setCell ⟨β, (c % 256).toNat, none⟩ (.int .i64 v)) (upd g (c / 256) β) := by
  have hs := HG.below.size
  have hml := HG.map.lt
  have hWs := hW.size
  have hne : ∀ k ∈ gks p, k ≠ c / 256 := fun k hk e => hin (e ▸ hk)
  have hgl : ∀ k ∈ gks p, g k < wr.heap.size := fun k hk => (HG.blks k hk).2.lt
  refine ⟨?_, ?_, ?_, ?_⟩
  · exact ((HG.below.trans (hW.mono hs)).trans (hbut.below (Nat.le_refl _) (by omega))).setCell (by show _ ≤ β; omega) _
  · rw [gks_place hp]; exact hm.far (show w.heap.size ≠ β by omega) _
  · rw [gks_place hp]
    intro k hk
    rw [tab_place hp]
    by_cases e : k = c / 256
    · subst e
      rw [if_pos rfl]
      unfold upd
      rw [if_pos rfl, gks_empty p _ hin, ← set_vals, ← zvals_eq]
      exact ⟨by omega, (hbut.blk hB (by omega)).set _ _⟩
    · rw [if_neg e]
      unfold upd
      rw [if_neg e]
      have hk' : k ∈ gks p := (kput_mem.1 hk).resolve_right e
      obtain ⟨hk0, hk1⟩ := HG.blks k hk'
      exact ⟨hk0, (hbut.blk (hk1.below hW hk1.lt) (by omega)).far (show g k ≠ β by have := hk1.lt; omega) _⟩
  · rw [gks_place hp]
    intro a ha b hb
    unfold upd
    split
    · rename_i ea
      split
      · rename_i eb; intro _; rw [ea, eb]
      · rename_i eb
        have := hgl b ((kput_mem.1 hb).resolve_right eb)
        intro h; omega
    · rename_i ea
      have hga := hgl a ((kput_mem.1 ha).resolve_right ea)
      split
      · intro h; omega
      · rename_i eb
        exact HG.apart a ((kput_mem.1 ha).resolve_right ea) b ((kput_mem.1 hb).resolve_right eb)

theorem gdrew {w W : World} {p : List (Int × Int)} {g : Int → Nat} {a : Addr} {u : Value} (h : GRel w p (W.setCell a u) g) : GRel w p (W.drew.setCell a u) g := ⟨h.below.drew, h.map, h.blks, h.apart⟩
set_option maxHeartbeats 1000000 in
theorem gather_any (w : World) (A : Option Addr) (n cap : Nat) (l : List (Int × Int)) (hn : l.length = n) (hm : n ≤ 1099511627776) (hE : Ents w w.heap.size A l) (hf : FitE l) :
    Calls Try.prog 32 #[.slice A n cap] w (GPost w l) := by
  have hmm := @run_makeMap Try.prog
  have HN := Lib.hid hn
  have HE := Lib.hid hE
  have HF := Lib.hid hf
  clear hn hE hf
  go_enter Try.func32, Try.ntmps32
  go_wp2_with fail
  go_loopw [11] (fun i wr => ∃ k : Nat, k ≤ n ∧ i = .int .i64 k ∧ GRel' w (l.take k) wr) (fun i _ => n - (intOf i).toNat)
  case atStart => exact ⟨0, by omega, rfl, fun _ => 0, (Below.refl _ _).alloc (Nat.le_refl _) _, MapIs.made _ _ _ _ _, fun k hk => (by cases hk), fun a ha => (by cases ha)⟩
  case round =>
    obtain ⟨k, hk, rfl, hR⟩ := hrel
    by_cases hlt : k < n
    · have HR := Lib.hid hR
      clear hR hmm
      obtain ⟨b, o, rfl, hbl, hc⟩ := HE.out.at (by rw [HN.out]; omega)
      obtain ⟨c0, c1⟩ := hc k (by rw [HN.out]; omega)
      clear hc
      obtain ⟨g, HG⟩ := HR.out
      have c0 : wr.cell? ⟨b, o + k * 2, none⟩ = _ := (HG.below.cell (p := ⟨b, o + k * 2, none⟩) hbl).trans c0
      have c1 : wr.cell? ⟨b, o + k * 2 + 1, none⟩ = _ := (HG.below.cell (p := ⟨b, o + k * 2 + 1, none⟩) hbl).trans c1
      have HT : Hid (l.take (k + 1) = l.take k ++ [l.getD k (0, 0)]) := Lib.hid (by
        rw [List.take_succ_eq_append_getElem (by rw [HN.out]; omega), List.getD_eq_getElem?_getD, List.getElem?_eq_getElem (by rw [HN.out]; omega)]; rfl)
      have HW : Hid (D32 ((l.getD k (0, 0)).1)) := Lib.hid (HF.out _ (by rw [List.getD_eq_getElem?_getD, List.getElem?_eq_getElem (by rw [HN.out]; omega)]; exact List.getElem_mem _)).1
      generalize l.getD k (0, 0) = e at c0 c1 HT HW
      obtain ⟨c, v⟩ := e
      dsimp only at c0 c1 HW
      have hg0 := HG.below.size
      have hgm := HG.map.lt
      have HGM := Lib.hid (HG.map.alloc (.cells #[.int .i32 c, .int .i64 v] 78))
      have HG := Lib.hid HG
      have hWW : Below wr.heap.size wr (wr.alloc (.cells #[.int .i32 c, .int .i64 v] 78)) := (Below.refl _ _).alloc (Nat.le_refl _) _
      have HWW := Lib.hid hWW
      clear hWW
      by_cases hp : isPl c = true
      · have HP : Hid (∀ w, Calls Try.prog 31 #[.int .i32 c] w fun e w' => e = .returned (.bool true) ∧ w = w') := Lib.hid fun w => by
          have := isPlace_any c w
          rwa [hp] at this
        have HPL := Lib.hid hp
        obtain ⟨hp0, hp1⟩ := isPl_iff.1 hp
        have HK : Hid (D32 (c / 256)) := Lib.hid (WalkArith.wf_i32 (by omega))
        clear hp
        by_cases hin : c / 256 ∈ gks (l.take k)
        · have HI := Lib.hid hin
          obtain ⟨hb0, hb1⟩ := HG.out.blks _ hin
          have hb1 := hb1.below HWW.out hb1.lt
          have hbl1 : g (c / 256) < wr.heap.size := (HG.out.blks _ hin).2.lt
          have x0 : (wr.alloc (.cells #[.int .i32 c, .int .i64 v] 78)).cell? ⟨g (c / 256), (c % 256).toNat, none⟩ = some (.int .i64 ((blk (tab (l.take k)) (c / 256)).getD (c % 256).toNat 0)) := by
            rw [hb1.cell, blk_at _ _ _ (by omega)]
            simp [blk_get, show (c % 256).toNat < 256 by omega]
          have x1 : (wr.alloc (.cells #[.int .i32 c, .int .i64 v] 78)).frozen? ⟨g (c / 256), (c % 256).toNat, none⟩ = false := hb1.frozen _
          have X0 := Lib.hid x0
          have X1 := Lib.hid x1
          have HQ := Lib.hid (g_old (v := v) HG.out HPL.out HI.out (HWW.out.drew))
          generalize hgk : g (c / 256) = gk at *
          have HGK := Lib.hid hgk
          clear hb1 hin hgk x0 x1
          go_wp2_with fail
          with_reducible refine (HP.out _).mono ?_
          rintro e w' ⟨rfl, rfl⟩
          go_wp2_with (at_lookup; refine wpList_mlook rfl _ _ 87 true rfl 21 91 kv32 Try.underlying87 (zero_ptr _) w.heap.size rfl HGM.out (c / 256) rfl HK.out (.tuple #[.pointer (some ⟨gk, 0, none⟩), .bool true]) (by simp [HI.out, ptrV, HGK.out]) ?_)
          refine wp_region_still_tail 8 (by kernel_rfl) (by kernel_rfl) ?_
          simp only [List.take_succ_cons, List.take_zero, List.drop_succ_cons, List.drop_zero]
          generalize hW1 : ({ wr.alloc (.cells #[.int .i32 c, .int .i64 v] 78) with drawn := (wr.alloc (.cells #[.int .i32 c, .int .i64 v] 78)).drawn + 1 } : World) = W1
          have e0 : W1.cell? ⟨wr.heap.size, 0, none⟩ = some (.int .i32 c) := by rw [← hW1]; exact (Blk.new wr 78 #[.int .i32 c, .int .i64 v]).cell 0
          have e1 : W1.cell? ⟨wr.heap.size, 1, none⟩ = some (.int .i64 v) := by rw [← hW1]; exact (Blk.new wr 78 #[.int .i32 c, .int .i64 v]).cell 1
          have x0 : W1.cell? ⟨gk, (c % 256).toNat, none⟩ = some (.int .i64 ((blk (tab (l.take k)) (c / 256)).getD (c % 256).toNat 0)) := by rw [← hW1]; exact X0.out
          have x1 : W1.frozen? ⟨gk, (c % 256).toNat, none⟩ = false := by rw [← hW1]; exact X1.out
          have HQ : GRel w (List.take k l ++ [(c, v)]) (W1.setCell ⟨gk, (c % 256).toNat, none⟩ (.int .i64 v)) g := by rw [← hW1]; exact HQ.out
          clear hW1
          have hmod : c.tmod 256 = c % 256 := Int.tmod_eq_emod_of_nonneg hp0
          have hm0 : 0 ≤ c % 256 := by omega
          have hm1 : c % 256 < 256 := by omega
          repeat still_step
          refine wpStill_nil ?_
          go_wp2
          go_roundw
          case rel => exact ⟨k + 1, by omega, by go_num, _, by rw [HT.out]; exact HQ⟩
          case measure => simp [intOf]; omega
        · have HI := Lib.hid hin
          have KE := Lib.hid ((Blk.new wr 78 #[.int .i32 c, .int .i64 v]).alloc (.cells zvals.toArray 81))
          have KZ := Lib.hid (Blk.new (wr.alloc (.cells #[.int .i32 c, .int .i64 v] 78)) 81 zvals.toArray)
          have HWZ := Lib.hid (HWW.out.alloc (by simp) (.cells zvals.toArray 81))
          have HGM2 := Lib.hid (HGM.out.alloc (.cells zvals.toArray 81))
          have hsz2 : (wr.alloc (.cells #[.int .i32 c, .int .i64 v] 78)).heap.size = wr.heap.size + 1 := by simp
          have hzb := zero_blk
          clear hin
          go_wp2_with fail
          with_reducible refine (HP.out _).mono ?_
          rintro e w' ⟨rfl, rfl⟩
          go_wp2_with (first
            | (at_lookup; refine wpList_mlook rfl _ _ 87 true rfl 21 91 kv32 Try.underlying87 (zero_ptr _) w.heap.size rfl HGM.out (c / 256) rfl HK.out (.tuple #[.pointer none, .bool false]) (by simp [HI.out]) ?_)
            | (at_mapUpdate; refine wpList_mput rfl _ _ _ 87 rfl 21 91 kv32 Try.underlying87 w.heap.size rfl HGM2.out (c / 256) rfl HK.out (wr.heap.size + 1) rfl ?_; intro w2 hm2 hb2))
          simp only [Act.put]
          clear hzb
          have KE2 := Lib.hid (hb2.blk KE.out (by simp; omega))
          have KZ2 : Hid (Blk w2 (wr.heap.size + 1) 81 zvals.toArray) := Lib.hid (by have := hb2.blk KZ.out (by simp; omega); rwa [hsz2] at this)
          have HQ := Lib.hid (g_new (v := v) (β := wr.heap.size + 1) HG.out HPL.out HI.out HWZ.out (by omega) (by have := KZ.out; rwa [hsz2] at this) hm2 hb2)
          refine wp_region_still_tail 8 (by kernel_rfl) (by kernel_rfl) ?_
          simp only [List.take_succ_cons, List.take_zero, List.drop_succ_cons, List.drop_zero]
          generalize hW1 : ({ w2 with drawn := w2.drawn + 1 } : World) = W1
          have e0 : W1.cell? ⟨wr.heap.size, 0, none⟩ = some (.int .i32 c) := by rw [← hW1]; exact KE2.out.cell 0
          have e1 : W1.cell? ⟨wr.heap.size, 1, none⟩ = some (.int .i64 v) := by rw [← hW1]; exact KE2.out.cell 1
          have x0 : W1.cell? ⟨wr.heap.size + 1, (c % 256).toNat, none⟩ = some (.int .i64 0) := by
            rw [← hW1]
            refine (KZ2.out.drew.cell _).trans ?_
            exact zvals_at _ (by omega)
          have x1 : W1.frozen? ⟨wr.heap.size + 1, (c % 256).toNat, none⟩ = false := by rw [← hW1]; exact KZ2.out.drew.frozen _
          have HQ : GRel' w (List.take k l ++ [(c, v)]) (W1.setCell ⟨wr.heap.size + 1, (c % 256).toNat, none⟩ (.int .i64 v)) := by rw [← hW1]; exact ⟨_, gdrew HQ.out⟩
          clear hW1
          have hmod : c.tmod 256 = c % 256 := Int.tmod_eq_emod_of_nonneg hp0
          have hm0 : 0 ≤ c % 256 := by omega
          have hm1 : c % 256 < 256 := by omega
          repeat still_step
          refine wpStill_nil ?_
          go_wp2
          go_roundw
          case rel => exact ⟨k + 1, by omega, by go_num, by rw [HT.out]; exact HQ⟩
          case measure => simp [intOf]; omega
      · have hp' : isPl c = false := by simpa using hp
        have HP : Hid (∀ w, Calls Try.prog 31 #[.int .i32 c] w fun e w' => e = .returned (.bool false) ∧ w = w') := Lib.hid fun w => by
          have := isPlace_any c w
          rwa [hp'] at this
        have HQ := Lib.hid (g_none (v := v) HG.out hp' HWW.out)
        clear hp hp'
        go_wp2_with fail
        with_reducible refine (HP.out _).mono ?_
        rintro e w' ⟨rfl, rfl⟩
        go_wp2
        go_roundw
        case rel => exact ⟨k + 1, by omega, by go_num, _, by rw [HT.out]; exact HQ.out⟩
        case measure => simp [intOf]; omega
    · have hkk : k = n := by omega
      subst hkk
      have HR : Hid (GRel' w l wr) := Lib.hid (by have := hR; rwa [List.take_of_length_le (by rw [HN.out]; omega)] at this)
      clear hR hmm
      have hlt' : ¬ (k : Int) < k := by omega
      go_wp2
      go_ret
      exact ⟨rfl, HR.out⟩
end Go.Proofs.Ytmphfdnpnhlpjaa
