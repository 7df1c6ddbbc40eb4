/- The document's layer 4: Blocks by its contract. -/
import Derived.Test.YtkkopgkeooaofaaSt4Ref
namespace Go.Proofs.Ytkkopgkeooaofaa
open Go.ChangeShapes Go.WideShapes Go.ChangeAt Go.RowKit
set_option linter.unusedVariables false
set_option linter.unusedSimpArgs false

theorem bkv' : Kv Try.prog 48 bV BD := arr_kv laidOut4 (of_decide_eq_true (by kernel_rfl)) ts4 Try.underlying48 Try.underlying3 (by kernel_rfl) (by kernel_rfl) (by kernel_rfl)
theorem zero_arr (w : World) : (zeroValue 48).run Try.prog w = .ok (.agg zvals.toArray) w := by kernel_rfl
theorem zero_bool (w : World) : (zeroValue 4).run Try.prog w = .ok (.bool false) w := by kernel_rfl
theorem info_arr : (Try.prog.info? 48).map (·.size) = some 256 := by kernel_rfl
theorem rof_len (f : Int → Int) (l : List (Int × Int)) (k : Int) : (rof f l k).length = 256 := by rw [rof_seen, blk_len]
theorem rof_out (f : Int → Int) (l : List (Int × Int)) : ∀ k, k ∉ gks l → rof f l k = zblk := by
  refine snoc_ind (p := fun l => ∀ k, k ∉ gks l → rof f l k = zblk) (fun _ _ => rfl) (fun l e ih k hk => ?_) l
  rw [gks_snoc] at hk
  rw [rof_snoc]
  unfold gstep at hk
  unfold rstep
  split
  · rename_i h
    rw [if_pos h] at hk
    unfold upd
    rw [if_neg (fun e => hk (kput_mem.2 (.inr e)))]
    exact ih k (fun h' => hk (kput_mem.2 (.inl h')))
  · rename_i h
    rw [if_neg h] at hk
    exact ih k hk

theorem below_setRow {B g : Nat} {a b : World} (h : Below B a b) (hB : B ≤ g) (cs : Array Value) : Below B a (b.setRow g cs) :=
  ⟨h.os, h.tape, h.output, by rw [size_setRow]; exact h.size, fun i hi => (setRow_other b g i cs (by omega)).trans (h.block i hi)⟩
structure ORel (w1 : World) (l p : List (Int × Int)) (wr : World) : Prop where
  below : Below w1.heap.size w1 wr
  map : MapIs wr w1.heap.size (Value.int .i32) bV D32 (gks p) (rof (tab l) p)
theorem o_none {w1 wr : World} {l p : List (Int × Int)} {c v : Int} (h : ORel w1 l p wr) (hp : isPl c = false) : ORel w1 l (p ++ [(c, v)]) wr := by
  have h1 : gks (p ++ [(c, v)]) = gks p := by rw [gks_snoc]; unfold gstep; rw [if_neg (by simp [hp])]
  have h2 : rof (tab l) (p ++ [(c, v)]) = rof (tab l) p := by rw [rof_snoc]; unfold rstep; rw [if_neg (by simp [hp])]
  exact ⟨h.below, by rw [h1, h2]; exact h.map⟩
theorem o_place {w1 wr W w2 : World} {l p : List (Int × Int)} {c v : Int} (h : ORel w1 l p wr) (hp : isPl c = true) (hW : Below wr.heap.size wr W)
    (hm : MapIs w2 w1.heap.size (Value.int .i32) bV D32 (kput (gks p) (c / 256)) (upd (rof (tab l) p) (c / 256) ((rof (tab l) p (c / 256)).set (c % 256).toNat (tab l c)))) (hb : But w1.heap.size W w2) : ORel w1 l (p ++ [(c, v)]) w2 := by
  have h1 : gks (p ++ [(c, v)]) = kput (gks p) (c / 256) := gks_place hp
  have h2 : rof (tab l) (p ++ [(c, v)]) = upd (rof (tab l) p) (c / 256) ((rof (tab l) p (c / 256)).set (c % 256).toNat (tab l c)) := by rw [rof_snoc]; unfold rstep; rw [if_pos hp]
  have hl := h.map.lt
  have hs := h.below.size
  have hWs := hW.size
  exact ⟨(h.below.trans (hW.mono (by omega))).trans (hb.below (Nat.le_refl _) (by omega)), by rw [h1, h2]; exact hm⟩

def boolV (b : Bool) : Value := .bool b
structure KRel (w1 w2 : World) (l : List (Int × Int)) (k : Nat) (wr : World) : Prop where
  below : Below w2.heap.size w2 wr
  map : MapIs wr w2.heap.size bV boolV BD (kinds (tab l) k) (fun _ => true)
theorem k_step {w1 w2 wr w3 : World} {l : List (Int × Int)} {k : Nat} (h : KRel w1 w2 l k wr) (hm : MapIs w3 w2.heap.size bV boolV BD (kput (kinds (tab l) k) (blk (tab l) k)) (upd (fun _ => true) (blk (tab l) k) true)) (hb : But w2.heap.size wr w3) : KRel w1 w2 l (k + 1) w3 := by
  have hl := h.map.lt
  refine ⟨h.below.trans (hb.below (Nat.le_refl _) (by omega)), ?_⟩
  rw [kinds_succ]
  exact hm.congr (fun x _ => by unfold upd; split <;> rfl)

def RBlocksPost (w : World) (l : List (Int × Int)) (e : Ending) (w' : World) : Prop := e = .returned (.int .i64 (kinds (tab l) 4352).length) ∧ Below w.heap.size w w'

set_option maxRecDepth 100000 in
set_option maxHeartbeats 2000000 in
theorem r_blocks_any (w : World) (A : Option Addr) (n cap : Nat) (l : List (Int × Int)) (hn : l.length = n) (hm : n ≤ 1099511627776) (hE : Ents w w.heap.size A l) (hf : FitE l) :
    Calls Try.prog 12 #[.slice A n cap] w (RBlocksPost w l) := by
  have HRB := Lib.hid (r_build_any w A n cap l hn hm hE hf)
  have hmm := @run_makeMap Try.prog
  have hza := zero_arr
  have HN := Lib.hid hn
  have HE := Lib.hid hE
  have HF := Lib.hid hf
  clear hn hE hf
  go_enter Try.func12, Try.ntmps12
  go_wp2_with fail
  with_reducible refine HRB.out.mono ?_
  rintro e w1 ⟨g, m, rfl, hT, hb1⟩
  have HT1 := Lib.hid hT
  have HB1 := Lib.hid hb1
  have hs1 := hb1.size
  clear hT hb1 HRB
  go_wp2_with fail
  go_loopw [5] (fun i wr => ∃ k : Nat, k ≤ n ∧ i = .int .i64 k ∧ ORel w1 l (l.take k) wr) (fun i _ => n - (intOf i).toNat)
  case atStart => exact ⟨0, by omega, rfl, (Below.refl _ _).alloc (Nat.le_refl _) _, MapIs.made _ _ _ _ _⟩
  case round =>
    obtain ⟨k, hk, rfl, hR⟩ := hrel
    by_cases hlt : k < n
    · have HR := Lib.hid hR
      clear hR hmm
      obtain ⟨b, o, rfl, hbl, hc⟩ := HE.out.at (by rw [HN.out]; omega)
      obtain ⟨c0, c1⟩ := hc k (by rw [HN.out]; omega)
      clear hc
      have c0 : wr.cell? ⟨b, o + k * 2, none⟩ = _ := (HR.out.below.cell (p := ⟨b, o + k * 2, none⟩) (show b < _ by omega)).trans ((HB1.out.cell (p := ⟨b, o + k * 2, none⟩) hbl).trans c0)
      clear c1
      have HT : Hid (l.take (k + 1) = l.take k ++ [l.getD k (0, 0)]) := Lib.hid (by
        rw [List.take_succ_eq_append_getElem (by rw [HN.out]; omega), List.getD_eq_getElem?_getD, List.getElem?_eq_getElem (by rw [HN.out]; omega)]; rfl)
      have HW : Hid (D32 ((l.getD k (0, 0)).1)) := Lib.hid (HF.out _ (by rw [List.getD_eq_getElem?_getD, List.getElem?_eq_getElem (by rw [HN.out]; omega)]; exact List.getElem_mem _)).1
      generalize l.getD k (0, 0) = e at c0 HT HW
      obtain ⟨c, v⟩ := e
      dsimp only at c0 HW
      by_cases hp : isPl c = true
      · obtain ⟨hp0, hp1⟩ := isPl_iff.1 hp
        have HP := Lib.hid hp
        have HK : Hid (D32 (c / 256)) := Lib.hid (WalkArith.wf_i32 (by omega))
        clear hp
        have HV : Hid ((if c / 256 ∈ gks (l.take k) then bV (rof (tab l) (l.take k) (c / 256)) else .agg zvals.toArray) = .agg ((rof (tab l) (l.take k) (c / 256)).map (Value.int .i64)).toArray) := Lib.hid (by
          split
          · rfl
          · rename_i h; rw [rof_out _ _ _ h, zvals_eq])
        have HL := Lib.hid (rof_len (tab l) (l.take k) (c / 256))
        have KZ := Lib.hid (Blk.new wr 48 zvals.toArray)
        go_wp2_with (first
          | (at_lookup; refine wpList_mlook rfl _ _ 56 false rfl 21 48 kv32 Try.underlying56 (zero_arr _) w1.heap.size rfl HR.out.map (c / 256) rfl HK.out (.agg ((rof (tab l) (l.take k) (c / 256)).map (Value.int .i64)).toArray) HV.out ?_)
          | (refine wpList_store_row rfl 48 _ _ rfl wr.heap.size ((rof (tab l) (l.take k) (c / 256)).map (Value.int .i64)).toArray rfl rfl 48 zvals.toArray KZ.out (by rw [info_arr]; simp [HL.out]) (by simp [HL.out]; exact zvals_size) (all_oneCell_toArray (ints_oneCell _ _)) ?_))
        have HBW : Hid (Below wr.heap.size wr ((wr.alloc (.cells zvals.toArray 48)).setRow wr.heap.size ((rof (tab l) (l.take k) (c / 256)).map (Value.int .i64)).toArray)) := Lib.hid (below_setRow ((Below.refl _ _).alloc (Nat.le_refl _) _) (Nat.le_refl _) _)
        have HKW : Hid (Blk ((wr.alloc (.cells zvals.toArray 48)).setRow wr.heap.size ((rof (tab l) (l.take k) (c / 256)).map (Value.int .i64)).toArray) wr.heap.size 48 ((rof (tab l) (l.take k) (c / 256)).map (Value.int .i64)).toArray) := Lib.hid (setRow_heap _ _ _ _ _ _ KZ.out)
        have hsr := HR.out.below.size
        have HTW : Hid (RTab ((wr.alloc (.cells zvals.toArray 48)).setRow wr.heap.size ((rof (tab l) (l.take k) (c / 256)).map (Value.int .i64)).toArray) w1.heap.size g m l) := Lib.hid ((HT1.out.below HR.out.below (Nat.le_refl _)).below HBW.out hsr)
        have hmod : c.tmod 256 = c % 256 := Int.tmod_eq_emod_of_nonneg hp0
        have hm0 : 0 ≤ c % 256 := by omega
        have hm1 : c % 256 < 256 := by omega
        have x0 : ((wr.alloc (.cells zvals.toArray 48)).setRow wr.heap.size ((rof (tab l) (l.take k) (c / 256)).map (Value.int .i64)).toArray).cell? ⟨wr.heap.size, (c % 256).toNat, none⟩ = some (.int .i64 ((rof (tab l) (l.take k) (c / 256)).getD (c % 256).toNat 0)) := by
          rw [HKW.out.cell]
          simp [List.getD_eq_getElem?_getD, List.getElem?_eq_getElem (show (c % 256).toNat < (rof (tab l) (l.take k) (c / 256)).length by rw [HL.out]; omega)]
        have x1 : ((wr.alloc (.cells zvals.toArray 48)).setRow wr.heap.size ((rof (tab l) (l.take k) (c / 256)).map (Value.int .i64)).toArray).frozen? ⟨wr.heap.size, (c % 256).toNat, none⟩ = false := HKW.out.frozen _
        have HBS := Lib.hid (HBW.out.setCell (p := ⟨wr.heap.size, (c % 256).toNat, none⟩) (Nat.le_refl _) (.int .i64 (tab l c)))
        have HKS := Lib.hid (HKW.out.set (c % 256).toNat (.int .i64 (tab l c)))
        have HMS := Lib.hid (HR.out.map.below HBS.out HR.out.map.lt)
        have hmr := HR.out.map.lt
        generalize ((wr.alloc (.cells zvals.toArray 48)).setRow wr.heap.size ((rof (tab l) (l.take k) (c / 256)).map (Value.int .i64)).toArray) = WW at *
        with_reducible refine (r_get_any c WW w1.heap.size g m l HW.out HTW.out).mono ?_
        rintro e w' ⟨rfl, rfl⟩
        go_wp2_with (first
          | (refine wpList_load_row rfl 48 _ rfl wr.heap.size rfl 48 (((rof (tab l) (l.take k) (c / 256)).set (c % 256).toNat (tab l c)).map (Value.int .i64)).toArray (0, 0) _ (by rw [← set_vals]; exact HKS.out) Try.underlying48 rfl (by rw [info_arr]; simp [HL.out]) ?_)
          | (at_mapUpdate; refine wpList_mput rfl _ _ _ 56 rfl 21 48 kv32 Try.underlying56 w1.heap.size rfl HMS.out (c / 256) rfl HK.out ((rof (tab l) (l.take k) (c / 256)).set (c % 256).toNat (tab l c)) rfl ?_; intro w2 hm2 hb2))
        have HQ := Lib.hid (o_place (v := v) HR.out HP.out HBS.out hm2 hb2)
        clear hm2 hb2
        try go_wp2
        go_roundw
        case rel => exact ⟨k + 1, by omega, by go_num, by rw [HT.out]; exact HQ.out⟩
        case measure => simp [intOf]; omega
      · have hp' : isPl c = false := by simpa using hp
        have HQ := Lib.hid (o_none (v := v) HR.out hp')
        have hno := isPl_no.1 hp'
        clear hp hp'
        by_cases h0 : 0 ≤ c
        · have h1 : ¬ c ≤ 1114111 := fun h => hno ⟨h0, h⟩
          have h0' : ¬ c < 0 := by omega
          clear hno
          go_wp2
          go_roundw
          case rel => exact ⟨k + 1, by omega, by go_num, by rw [HT.out]; exact HQ.out⟩
          case measure => simp [intOf]; omega
        · have h0' : c < 0 := by omega
          clear hno
          go_wp2
          go_roundw
          case rel => exact ⟨k + 1, by omega, by go_num, by rw [HT.out]; exact HQ.out⟩
          case measure => simp [intOf]; omega
    · have hkk : k = n := by omega
      subst hkk
      have HO : Hid (ORel w1 l l wr) := Lib.hid (by have := hR; rwa [List.take_of_length_le (by rw [HN.out]; omega)] at this)
      clear hR
      have hlt' : ¬ (k : Int) < k := by omega
      have hsr := HO.out.below.size
      have hmr := HO.out.map.lt
      generalize wr = wo at *
      go_wp2_with fail
      go_loopw [9] (fun i w3 => ∃ j : Nat, j ≤ 4352 ∧ i = .int .i32 j ∧ KRel w1 wo l j w3) (fun i _ => 4352 - (intOf i).toNat)
      case atStart => exact ⟨0, by omega, rfl, (Below.refl _ _).alloc (Nat.le_refl _) _, MapIs.made _ _ _ _ _⟩
      case round =>
        obtain ⟨j, hj, rfl, hR⟩ := hrel
        have HR := Lib.hid hR
        clear hR hmm
        by_cases hlj : j < 4352
        · have HK : Hid (D32 (j : Int)) := Lib.hid (WalkArith.wf_i32 (by omega))
          have HV : Hid ((if (j : Int) ∈ gks l then bV (rof (tab l) l j) else .agg zvals.toArray) = .agg ((blk (tab l) j).map (Value.int .i64)).toArray) := Lib.hid (by
            split
            · rw [rof_all]; rfl
            · rename_i h; rw [← rof_all, rof_out _ _ _ h, zvals_eq])
          have HMO : Hid (MapIs wr w1.heap.size (Value.int .i32) bV D32 (gks l) (rof (tab l) l)) := Lib.hid (HO.out.map.below HR.out.below hmr)
          have HBD := Lib.hid (blkBD HF.out j)
          clear hza
          go_wp2_with (first
            | (at_lookup; refine wpList_mlook rfl _ _ 56 false rfl 21 48 kv32 Try.underlying56 (zero_arr _) w1.heap.size rfl HMO.out (j : Int) rfl HK.out (.agg ((blk (tab l) j).map (Value.int .i64)).toArray) HV.out ?_)
            | (at_mapUpdate; refine wpList_mput (vv := boolV) rfl _ _ _ 57 rfl 48 4 bkv' Try.underlying57 wo.heap.size rfl HR.out.map (blk (tab l) j) rfl HBD.out true rfl ?_; intro w4 hm4 hb4))
          have HQ := Lib.hid (k_step HR.out hm4 hb4)
          clear hm4 hb4
          try go_wp2
          go_roundw
          case rel => exact ⟨j + 1, by omega, by go_num, HQ.out⟩
          case measure => simp [intOf]; omega
        · have hjj : j = 4352 := by omega
          subst hjj
          have HQ : Hid (Below w.heap.size w wr) := Lib.hid ((HB1.out.trans (HO.out.below.mono hs1)).trans (HR.out.below.mono (by omega)))
          clear hza
          go_wp2_with (at_len; refine wpList_mlen rfl _ 57 rfl 48 4 Try.underlying57 wo.heap.size rfl HR.out.map ?_)
          go_ret
          exact ⟨rfl, HQ.out⟩
end Go.Proofs.Ytkkopgkeooaofaa
