/- Package stage: Build by its contract: a table that has what the entries say. -/
import Derived.Test.YtmphfdnpnhlpjaaSt4Gath
namespace Go.Proofs.Ytmphfdnpnhlpjaa
open Go.ChangeShapes Go.WideShapes Go.ChangeAt Go.RowKit
set_option linter.unusedVariables false
set_option linter.unusedSimpArgs false

def tvals : List Value := List.replicate 4352 (Value.int .u16 0) ++ [.slice none 0 0]
theorem zero_tab (w : World) : (zeroValue 86).run Try.prog w = .ok (.agg tvals.toArray) w := by kernel_rfl
def U4 (l : List (Int × Int)) (k : Nat) : List (List Int) := uall (tab l) (gks l) k
/-- the numbers after k rounds -/
def N4 (l : List (Int × Int)) (k : Nat) : List Value := (List.range 4352).map fun (i : Nat) => if i < k then u16V (pos (U4 l 4352) (blk (tab l) i)) else u16V 0
theorem N4_len (l : List (Int × Int)) (k : Nat) : (N4 l k).length = 4352 := by unfold N4; rw [List.length_map, List.length_range]
theorem N4_get (l : List (Int × Int)) (k i : Nat) : (N4 l k)[i]? = if i < 4352 then some (if i < k then u16V (pos (U4 l 4352) (blk (tab l) i)) else u16V 0) else none := by
  unfold N4
  rw [List.getElem?_map]
  by_cases h : i < 4352
  · rw [if_pos h, List.getElem?_range h]; rfl
  · rw [if_neg h, List.getElem?_eq_none (by rw [List.length_range]; omega)]; rfl
theorem N4_zero (l : List (Int × Int)) : N4 l 0 = List.replicate 4352 (Value.int .u16 0) := by
  apply List.ext_getElem?; intro i
  rw [N4_get, List.getElem?_replicate]
  by_cases h : i < 4352
  · rw [if_pos h, if_pos h, if_neg (by omega)]; rfl
  · rw [if_neg h, if_neg h]
theorem pos_grow {f : Int → Int} {ks : List Int} {x : List Int} : ∀ (m n : Nat), x ∈ uall f ks n → pos (uall f ks (n + m)) x = pos (uall f ks n) x ∧ x ∈ uall f ks (n + m)
  | 0, _, h => ⟨rfl, h⟩
  | m + 1, n, h => by
    obtain ⟨h1, h2⟩ := pos_grow m n h
    rw [← Nat.add_assoc, uall_succ]; unfold ustep; split
    · exact ⟨by rw [pos_kput h2, h1], kput_mem.2 (.inl h2)⟩
    · exact ⟨h1, h2⟩
theorem U4_pos {l : List (Int × Int)} {x : List Int} {k : Nat} (hk : k ≤ 4352) (h : x ∈ U4 l k) : pos (U4 l k) x = pos (U4 l 4352) x := by
  have := (pos_grow (f := tab l) (ks := gks l) (x := x) (4352 - k) k h).1
  rw [Nat.add_sub_cancel' hk] at this
  exact this.symm
theorem N4_set (l : List (Int × Int)) (k : Nat) (hk : k < 4352) : (N4 l k).set k (u16V (pos (U4 l 4352) (blk (tab l) k))) = N4 l (k + 1) := by
  apply List.ext_getElem?; intro i
  rw [List.getElem?_set, N4_get, N4_get, N4_len]
  by_cases h : k = i
  · subst h; rw [if_pos rfl, if_pos hk, if_pos hk, if_pos (by omega)]
  · rw [if_neg h]
    by_cases h2 : i < 4352
    · rw [if_pos h2, if_pos h2]
      by_cases h3 : i < k
      · rw [if_pos h3, if_pos (by omega)]
      · rw [if_neg h3, if_neg (by omega)]
    · rw [if_neg h2, if_neg h2]
theorem N4_stay (l : List (Int × Int)) (k : Nat) (hk : k < 4352) (h : (k : Int) ∉ gks l) : N4 l (k + 1) = N4 l k := by
  rw [← N4_set l k hk]
  apply List.ext_getElem?; intro i
  rw [List.getElem?_set, N4_get, N4_len]
  by_cases e : k = i
  · subst e
    rw [if_pos rfl, if_pos hk, if_pos hk, if_neg (by omega), gks_empty l _ h]
    have := (zblk_in (f := tab l) (ks_room (gks_nodup l) (gks_bd l) hk h) 4352).2
    unfold U4; rw [this]
  · rw [if_neg e]
theorem found_set {w : World} {B : Nat} {U : List (List Int)} {N : List Value} (h : Found w B U N) (k : Nat) (hk : k < 4352) (u : Value) : Found (w.setCell ⟨B + 1, k, none⟩ u) B U (N.set k u) := by
  obtain ⟨v, h1, h2⟩ := h.tab
  refine ⟨h.known.far (by simp) u, ⟨v, ?_, own_kept h2 (g := B + 1) (by omega) ((But.refl _ _).set _ _)⟩, by rw [List.length_set]; exact h.len⟩
  have := h1.set k u
  have e : (N.toArray.push v).setIfInBounds k u = (N.set k u).toArray.push v := by
    apply Array.ext_getElem?
    intro i
    have hs : N.toArray.size = 4352 := by simp [h.len]
    have hs' : (N.set k u).toArray.size = 4352 := by simp [h.len]
    rw [Array.getElem?_setIfInBounds, Array.getElem?_push, Array.getElem?_push, hs, hs', Array.size_push, hs]
    by_cases hi : k = i
    · subst hi
      rw [if_pos rfl, if_pos (by omega), if_neg (by omega)]
      simp [h.len, hk]
    · rw [if_neg hi]
      split
      · rfl
      · simp [List.getElem?_set, hi]
  rw [e] at this
  exact this
theorem found_drew {w : World} {B : Nat} {U : List (List Int)} {N : List Value} (h : Found w B U N) : Found w.drew B U N := ⟨h.known, h.tab, h.len⟩
theorem blkBD {l : List (Int × Int)} (hf : FitE l) (k : Int) : BD (blk (tab l) k) := ⟨blk_len _ _, blk_fits (tab_fits (by decide) l (fun e he => (hf e he).2)) k⟩
theorem zBD : BD zblk := ⟨zblk_len, fun x hx => by unfold zblk at hx; rw [List.eq_of_mem_replicate hx]; decide⟩
theorem flat_at : ∀ (U : List (List Int)) (m j : Nat) (u : List Int), (∀ u ∈ U, u.length = 256) → U[m]? = some u → j < 256 → U.flatten[m * 256 + j]? = u[j]?
  | [], m, _, _, _, h, _ => by simp at h
  | x :: r, 0, j, u, hl, h, hj => by
    simp only [List.getElem?_cons_zero, Option.some.injEq] at h
    subst h
    rw [List.flatten_cons, Nat.zero_mul, Nat.zero_add, List.getElem?_append_left (by rw [hl x (by simp)]; exact hj)]
  | x :: r, m + 1, j, u, hl, h, hj => by
    simp only [List.getElem?_cons_succ] at h
    have hx : x.length = 256 := hl x (by simp)
    rw [List.flatten_cons, List.getElem?_append_right (by rw [hx, Nat.add_mul]; omega), hx]
    have : (m + 1) * 256 + j - 256 = m * 256 + j := by omega
    rw [this]
    exact flat_at r m j u (fun y hy => hl y (by simp [hy])) h hj
theorem U4_len256 (l : List (Int × Int)) (k : Nat) : ∀ u ∈ U4 l k, u.length = 256 := fun u hu => by
  rcases uall_block (tab l) (gks l) k u hu with rfl | ⟨i, rfl⟩
  · exact zblk_len
  · exact blk_len _ _
theorem U4_dist (l : List (Int × Int)) : Dist (tab l) (U4 l 4352) := uall_dist (gks_nodup l) (gks_bd l) (gks_empty l)
/-- what Found is when all is done -/
theorem found_tab {w : World} {B : Nat} {l : List (Int × Int)} (h : Found w B (U4 l 4352) (N4 l 4352)) : TabAt w w.heap.size (B + 1) (tab l) (U4 l 4352).length := by
  obtain ⟨v, h1, h2⟩ := h.tab
  have hd := U4_dist l
  have h0 := hd.all 0 (by omega)
  have hpos : 0 < (U4 l 4352).length := List.length_pos_of_mem h0
  rcases h2.2 with ⟨_, e2⟩ | ⟨g, cap, cur, hv, hb, hh, hnc, hm, hcs, ht⟩
  · omega
  · have hgl : g < w.heap.size := (h2.lt g (by rw [hv]; rfl)).2
    refine ⟨h1.lt, g, cap, fun i => pos (U4 l 4352) (blk (tab l) i), hgl, uall_len (tab l) (gks l) 4352, hnc, ?_, fun i hi => ⟨pos_lt (hd.all i hi), ?_, fun j hj => ?_⟩⟩
    · rw [h1.cell, Array.getElem?_push, if_pos (by simp [N4_len]), hv]
    · rw [h1.cell, Array.getElem?_push, if_neg (by simp [N4_len]; omega), List.getElem?_toArray, N4_get, if_pos hi, if_pos hi]; rfl
    · have hc := h2.cells (g := g) (by rw [hv]; rfl) (pos (U4 l 4352) (blk (tab l) i) * 256 + j) (.int .i64 (tab l (256 * (i : Int) + (j : Int)))) (by
        unfold flat
        rw [List.getElem?_map, flat_at _ _ _ _ (U4_len256 l 4352) (pos_get _ (hd.all i hi)) hj, blk_get, if_pos hj]; rfl)
      have ha : (⟨g, 0, none⟩ : Addr).add (pos (U4 l 4352) (blk (tab l) i) * 256 + j) = ⟨g, pos (U4 l 4352) (blk (tab l) i) * 256 + j, none⟩ := by unfold Addr.add; split <;> simp_all
      rwa [ha] at hc
/-- where it begins -/
theorem found_start (w1 : World) (l : List (Int × Int)) : Found ((w1.alloc (.map #[] 0)).alloc (.cells tvals.toArray 86)) w1.heap.size [] (N4 l 0) := by
  refine ⟨((MapIs.made w1 bV u16V BD (pos [])).alloc _), ⟨.slice none 0 0, ?_, World.ownsRow_nil _ _ _ _⟩, N4_len l 0⟩
  have := Blk.new (w1.alloc (.map #[] 0)) 86 tvals.toArray
  have e : (N4 l 0).toArray.push (.slice none 0 0) = tvals.toArray := by
    rw [N4_zero]; unfold tvals
    rw [List.push_toArray]
  rw [e]
  simpa using this

def BuildPost (w : World) (l : List (Int × Int)) (e : Ending) (w' : World) : Prop :=
  ∃ (g : Nat) (U : List (List Int)), e = .returned (.pointer (some ⟨g, 0, none⟩)) ∧ Dist (tab l) U ∧ TabAt w' w'.heap.size g (tab l) U.length ∧ Below w.heap.size w w'
structure BRel (w1 : World) (l : List (Int × Int)) (k : Nat) (wr : World) : Prop where
  found : Found wr w1.heap.size (U4 l k) (N4 l k)
  below : Below w1.heap.size w1 wr
theorem U4_in {l : List (Int × Int)} {k : Nat} (h : (k : Int) ∈ gks l) : U4 l (k + 1) = kput (U4 l k) (blk (tab l) k) := by unfold U4; rw [uall_succ]; unfold ustep; rw [if_pos h]
theorem U4_out {l : List (Int × Int)} {k : Nat} (h : (k : Int) ∉ gks l) : U4 l (k + 1) = U4 l k := by unfold U4; rw [uall_succ]; unfold ustep; rw [if_neg h]
theorem b_in {w1 wr w3 : World} {l : List (Int × Int)} {k : Nat} (hR : BRel w1 l k wr) (hk : k < 4352) (hin : (k : Int) ∈ gks l) (hF : Found w3 w1.heap.size (kput (U4 l k) (blk (tab l) k)) (N4 l k)) (hb : Below w1.heap.size wr w3) :
    w3.cell? ⟨w1.heap.size + 1, k, none⟩ = some (.int .u16 0) ∧ w3.frozen? ⟨w1.heap.size + 1, k, none⟩ = false ∧
      Hid (BRel w1 l (k + 1) (w3.setCell ⟨w1.heap.size + 1, k, none⟩ (.int .u16 (pos (kput (U4 l k) (blk (tab l) k)) (blk (tab l) k))))) := by
  obtain ⟨v, h1, h2⟩ := hF.tab
  refine ⟨?_, h1.frozen _, Lib.hid ⟨?_, ?_⟩⟩
  · rw [h1.cell, Array.getElem?_push, if_neg (by simp [N4_len]; omega), List.getElem?_toArray, N4_get, if_pos hk, if_neg (by omega)]; rfl
  · have := found_set hF k hk (.int .u16 (pos (kput (U4 l k) (blk (tab l) k)) (blk (tab l) k)))
    rw [← U4_in hin] at this ⊢
    rw [U4_pos (by omega) (by rw [U4_in hin]; exact kput_mem.2 (.inr rfl))] at this ⊢
    rw [← N4_set l k hk]
    exact this
  · exact (hR.below.trans hb).setCell (by show _ ≤ _ + 1; omega) _
theorem b_out {w1 wr : World} {l : List (Int × Int)} {k : Nat} (hR : BRel w1 l k wr) (hk : k < 4352) (hin : (k : Int) ∉ gks l) : BRel w1 l (k + 1) wr :=
  ⟨by rw [U4_out hin, N4_stay l k hk hin]; exact hR.found, hR.below⟩
theorem b_end {w w1 wr : World} {l : List (Int × Int)} {g : Int → Nat} (hG : GRel w l w1 g) (hR : BRel w1 l 4352 wr) : BuildPost w l (.returned (.pointer (some ⟨w1.heap.size + 1, 0, none⟩))) wr :=
  ⟨_, _, rfl, U4_dist l, found_tab hR.found, hG.below.trans (hR.below.mono hG.below.size)⟩

set_option maxRecDepth 100000 in
set_option maxHeartbeats 2000000 in
theorem build_any (w : World) (A : Option Addr) (n cap : Nat) (l : List (Int × Int)) (hn : l.length = n) (hm : n ≤ 1099511627776) (hE : Ents w w.heap.size A l) (hf : FitE l) :
    Calls Try.prog 29 #[.slice A n cap] w (BuildPost w l) := by
  have HG := Lib.hid (gather_any w A n cap l hn hm hE hf)
  have HF := Lib.hid hf
  clear hn hE hf
  have hmm := @run_makeMap Try.prog
  have hzb := zero_blk
  have hzt := zero_tab
  go_enter Try.func29, Try.ntmps29
  go_wp2_with fail
  with_reducible refine HG.out.mono ?_
  rintro e w1 ⟨rfl, g, hG⟩
  have HGR := Lib.hid hG
  have HM := Lib.hid ((hG.map.alloc (.map #[] 0)).alloc (.cells tvals.toArray 86))
  have hs1 := hG.below.size
  have HS := Lib.hid (found_start w1 l)
  have HSB : Hid (Below w1.heap.size w1 ((w1.alloc (.map #[] 0)).alloc (.cells tvals.toArray 86))) := Lib.hid (((Below.refl _ _).alloc (Nat.le_refl _) _).alloc (by simp) _)
  clear hG HG
  by_cases hks : (gks l).length < 4352
  · have HU : Hid (U4 l 0 = [zblk]) := Lib.hid (by unfold U4; rw [uall_zero]; unfold ustart; rw [if_pos hks])
    have hd : decide ((gks l).length < 4352) = true := by simpa using hks
    have hd' : decide (((gks l).length : Int) < 4352) = true := by simp; omega
    clear hks
    go_wp2_with (at_len; refine wpList_mlen rfl _ 87 rfl 21 91 Try.underlying87 w.heap.size rfl HM.out ?_)
    have HADD : Hid (Calls Try.prog 33 #[.pointer (some ⟨w1.heap.size + 1, 0, none⟩), .agg zvals.toArray, .map (some w1.heap.size)] ((w1.alloc (.map #[] 0)).alloc (.cells tvals.toArray 86)) (AddPost ((w1.alloc (.map #[] 0)).alloc (.cells tvals.toArray 86)) w1.heap.size [] (N4 l 0) zblk)) := Lib.hid (by
      rw [zvals_eq]; exact add_any _ _ _ _ _ HS.out zBD (by simp))
    with_reducible refine HADD.out.mono ?_
    rintro e w2 ⟨rfl, hF2, hb2⟩
    have HF2 : Hid (Found w2 w1.heap.size (U4 l 0) (N4 l 0)) := Lib.hid (by rw [HU.out]; exact hF2)
    have HB2 := Lib.hid (HSB.out.trans hb2)
    clear hF2 hb2 HADD HU
    generalize u16V (pos (kput [] zblk) zblk) = uu
    go_wp2_with fail
    go_loopw [21] (fun i wr => ∃ k : Nat, k ≤ 4352 ∧ i = .int .i64 k ∧ BRel w1 l k wr) (fun i _ => 4352 - (intOf i).toNat)
    case atStart => exact ⟨0, by omega, rfl, HF2.out, HB2.out⟩
    case round =>
      obtain ⟨k, hk, rfl, hR⟩ := hrel
      have HR := Lib.hid hR
      clear hR HF2 HB2 HS HSB HM
      have HM : Hid (MapIs wr w.heap.size (Value.int .i32) ptrV D32 (gks l) g) := Lib.hid (HGR.out.map.below HR.out.below HGR.out.map.lt)
      have hsw := HR.out.below.size
      have hgm := HGR.out.map.lt
      by_cases hlt : k < 4352
      · have HK : Hid (D32 (k : Int)) := Lib.hid (WalkArith.wf_i32 (by omega))
        by_cases hin : (k : Int) ∈ gks l
        · have HI := Lib.hid hin
          obtain ⟨hg1, hg2⟩ := HGR.out.blks _ hin
          have hg3 := hg2.lt
          have HB3 : Hid (Blk wr (g k) 81 ((blk (tab l) k).map (Value.int .i64)).toArray) := Lib.hid (hg2.below HR.out.below hg3)
          have HUL : Hid ((U4 l k).length ≤ 4353) := Lib.hid (by have := uall_len (tab l) (gks l) k; unfold U4; omega)
          have HA : Hid (∀ W, Found W w1.heap.size (U4 l k) (N4 l k) → Calls Try.prog 33 #[.pointer (some ⟨w1.heap.size + 1, 0, none⟩), .agg ((blk (tab l) k).map (Value.int .i64)).toArray, .map (some w1.heap.size)] W (AddPost W w1.heap.size (U4 l k) (N4 l k) (blk (tab l) k))) :=
            Lib.hid fun W hW => add_any W w1.heap.size (U4 l k) (N4 l k) (blk (tab l) k) hW (blkBD HF.out k) HUL.out
          generalize hgk : g k = gk at *
          have HGK := Lib.hid hgk
          clear hgk hin hg2 hmm hzb hzt
          go_wp2_with (at_lookup; refine wpList_mlook rfl _ _ 87 true rfl 21 91 kv32 Try.underlying87 (zero_ptr _) w.heap.size rfl HM.out (k : Int) rfl HK.out (.tuple #[.pointer (some ⟨gk, 0, none⟩), .bool true]) (by simp [HI.out, ptrV, HGK.out]) ?_)
          refine wp_region_A (by kernel_rfl) ?_
          refine wpA_take 0 32 (v := ?v0a) rfl rfl (by kernel_rfl) (by kernel_rfl) (by kernel_rfl) (fun _ _ _ h => h) (Or.inl ⟨by rfl, ?y0a⟩) ?r0a
          case y0a => (intro W; go_simp; try with_reducible rfl)
          simp only [Act.put, List.setIfInBounds_toArray, List.set_cons_zero, List.set_cons_succ]
          refine wpA_take 1 33 (v := ?v1a) rfl rfl (by kernel_rfl) (by kernel_rfl) (by kernel_rfl) (fun _ _ _ h => h) (Or.inl ⟨by rfl, ?y1a⟩) ?r1a
          case y1a => (intro W; go_simp; try with_reducible rfl)
          simp only [Act.put, List.setIfInBounds_toArray, List.set_cons_zero, List.set_cons_succ]
          refine wpA_take 2 34 (v := ?v2a) rfl rfl (by kernel_rfl) (by kernel_rfl) (by kernel_rfl) (fun _ _ _ h => h) (Or.inl ⟨by rfl, ?y2a⟩) ?r2a
          case y2a => (intro W; go_simp; try with_reducible rfl)
          simp only [Act.put, List.setIfInBounds_toArray, List.set_cons_zero, List.set_cons_succ]
          refine wpA_take 3 35 (v := ?v3a) rfl rfl (by kernel_rfl) (by kernel_rfl) (by kernel_rfl) (fun _ _ _ h => h) (Or.inl ⟨by rfl, ?y3a⟩) ?r3a
          case y3a => (intro W; go_simp; try with_reducible rfl)
          simp only [Act.put, List.setIfInBounds_toArray, List.set_cons_zero, List.set_cons_succ]
          refine wpA_take 4 36 (v := ?v4a) rfl rfl (by kernel_rfl) (by kernel_rfl) (by kernel_rfl) (fun _ _ _ h => h) (Or.inl ⟨by rfl, ?y4a⟩) ?r4a
          case y4a => (intro W; go_simp; try with_reducible rfl)
          simp only [Act.put, List.setIfInBounds_toArray, List.set_cons_zero, List.set_cons_succ]
          refine wpA_take 6 38 (v := ?v6a) rfl rfl (by kernel_rfl) (by kernel_rfl) (by kernel_rfl) (fun _ _ _ h => h) (Or.inl ⟨by rfl, ?y6a⟩) ?r6a
          case y6a => (intro W; go_simp; try with_reducible rfl)
          simp only [Act.put, List.setIfInBounds_toArray, List.set_cons_zero, List.set_cons_succ]
          refine wpA_take 8 40 (v := ?v8a) rfl rfl (by kernel_rfl) (by kernel_rfl) (by kernel_rfl) (fun _ _ _ h => h) (Or.inl ⟨by rfl, ?y8a⟩) ?r8a
          case y8a => (intro W; go_simp; try with_reducible rfl)
          simp only [Act.put, List.setIfInBounds_toArray, List.set_cons_zero, List.set_cons_succ]
          refine wpA_take 9 41 (v := ?v9a) rfl rfl (by kernel_rfl) (by kernel_rfl) (by kernel_rfl) (fun _ _ _ h => h) (Or.inl ⟨by rfl, ?y9a⟩) ?r9a
          case y9a => (intro W; go_simp; try with_reducible rfl)
          simp only [Act.put, List.setIfInBounds_toArray, List.set_cons_zero, List.set_cons_succ]
          refine wpA_one 5 (by kernel_rfl) rfl (fun K hK => ?_)
          refine wpA_if (by rfl) ?_
          refine wp_load_row 81 _ rfl gk rfl 81 ((blk (tab l) k).map (Value.int .i64)).toArray (0, 0) _ HB3.out.drew Try.underlying81 rfl (by rw [info_blk]; simp [blk_len]) ?_
          refine hK.out _ _ ?_
          clear hK K
          try simp only [Act.put, List.setIfInBounds_toArray, List.set_cons_zero, List.set_cons_succ]
          refine wpA_one 7 (by kernel_rfl) rfl (fun K hK => ?_)
          go_simp
          with_reducible refine (HA.out _ (found_drew HR.out.found)).mono ?_
          rintro e w3 ⟨rfl, hF3, hb3⟩
          refine hK.out _ _ ?_
          clear hK K
          try simp only [Act.put, List.setIfInBounds_toArray, List.set_cons_zero, List.set_cons_succ]
          obtain ⟨c3, f3, HQ⟩ := b_in (w3 := w3) HR.out hlt HI.out hF3 ((Below.refl _ _).drew.trans hb3)
          have HF3 := Lib.hid hF3
          clear hF3 hb3
          unfold u16V
          generalize pos (kput (U4 l k) (blk (tab l) k)) (blk (tab l) k) = m at *
          refine wpA_take 10 42 (v := ?v10a) rfl rfl (by kernel_rfl) (by kernel_rfl) (by kernel_rfl) (fun _ _ _ h => h) (Or.inl ⟨by rfl, ?y10a⟩) ?r10a
          case y10a => (intro W; go_simp; try with_reducible rfl)
          simp only [Act.put, List.setIfInBounds_toArray, List.set_cons_zero, List.set_cons_succ]
          refine wpA_one 11 (by kernel_rfl) rfl (fun K hK => ?_)
          go_simp
          refine hK.out _ _ ?_
          clear hK K
          try simp only [Act.put, List.setIfInBounds_toArray, List.set_cons_zero, List.set_cons_succ]
          refine wpA_done (by kernel_rfl) ?_ _
          go_wp2
          go_roundw
          case rel => exact ⟨k + 1, by omega, by go_num, HQ.out⟩
          case measure => simp [intOf]; omega
        · have HI := Lib.hid hin
          have HQ := Lib.hid (b_out HR.out hlt hin)
          clear hin hmm hzb hzt
          go_wp2_with (at_lookup; refine wpList_mlook rfl _ _ 87 true rfl 21 91 kv32 Try.underlying87 (zero_ptr _) w.heap.size rfl HM.out (k : Int) rfl HK.out (.tuple #[.pointer none, .bool false]) (by simp [HI.out]) ?_)
          go_roundw
          case rel => exact ⟨k + 1, by omega, by go_num, HQ.out⟩
          case measure => simp [intOf]; omega
      · have hkk : k = 4352 := by omega
        subst hkk
        have HQ := Lib.hid (b_end HGR.out HR.out)
        clear hmm hzb hzt
        go_wp2
        go_ret
        exact HQ.out
  · have HF2 : Hid (Found ((w1.alloc (.map #[] 0)).alloc (.cells tvals.toArray 86)) w1.heap.size (U4 l 0) (N4 l 0)) := Lib.hid (by
      have : U4 l 0 = [] := by unfold U4; rw [uall_zero]; unfold ustart; rw [if_neg hks]
      rw [this]; exact HS.out)
    have HB2 := HSB
    have hd : decide ((gks l).length < 4352) = false := by simpa using hks
    have hd' : decide (((gks l).length : Int) < 4352) = false := by simp; omega
    clear hks
    go_wp2_with (at_len; refine wpList_mlen rfl _ 87 rfl 21 91 Try.underlying87 w.heap.size rfl HM.out ?_)
    go_loopw [21] (fun i wr => ∃ k : Nat, k ≤ 4352 ∧ i = .int .i64 k ∧ BRel w1 l k wr) (fun i _ => 4352 - (intOf i).toNat)
    case atStart => exact ⟨0, by omega, rfl, HF2.out, HB2.out⟩
    case round =>
      obtain ⟨k, hk, rfl, hR⟩ := hrel
      have HR := Lib.hid hR
      clear hR HF2 HB2 HS HSB HM
      have HM : Hid (MapIs wr w.heap.size (Value.int .i32) ptrV D32 (gks l) g) := Lib.hid (HGR.out.map.below HR.out.below HGR.out.map.lt)
      have hsw := HR.out.below.size
      have hgm := HGR.out.map.lt
      by_cases hlt : k < 4352
      · have HK : Hid (D32 (k : Int)) := Lib.hid (WalkArith.wf_i32 (by omega))
        by_cases hin : (k : Int) ∈ gks l
        · have HI := Lib.hid hin
          obtain ⟨hg1, hg2⟩ := HGR.out.blks _ hin
          have hg3 := hg2.lt
          have HB3 : Hid (Blk wr (g k) 81 ((blk (tab l) k).map (Value.int .i64)).toArray) := Lib.hid (hg2.below HR.out.below hg3)
          have HUL : Hid ((U4 l k).length ≤ 4353) := Lib.hid (by have := uall_len (tab l) (gks l) k; unfold U4; omega)
          have HA : Hid (∀ W, Found W w1.heap.size (U4 l k) (N4 l k) → Calls Try.prog 33 #[.pointer (some ⟨w1.heap.size + 1, 0, none⟩), .agg ((blk (tab l) k).map (Value.int .i64)).toArray, .map (some w1.heap.size)] W (AddPost W w1.heap.size (U4 l k) (N4 l k) (blk (tab l) k))) :=
            Lib.hid fun W hW => add_any W w1.heap.size (U4 l k) (N4 l k) (blk (tab l) k) hW (blkBD HF.out k) HUL.out
          generalize hgk : g k = gk at *
          have HGK := Lib.hid hgk
          clear hgk hin hg2 hmm hzb hzt
          go_wp2_with (at_lookup; refine wpList_mlook rfl _ _ 87 true rfl 21 91 kv32 Try.underlying87 (zero_ptr _) w.heap.size rfl HM.out (k : Int) rfl HK.out (.tuple #[.pointer (some ⟨gk, 0, none⟩), .bool true]) (by simp [HI.out, ptrV, HGK.out]) ?_)
          refine wp_region_A (by kernel_rfl) ?_
          refine wpA_take 0 32 (v := ?w0a) rfl rfl (by kernel_rfl) (by kernel_rfl) (by kernel_rfl) (fun _ _ _ h => h) (Or.inl ⟨by rfl, ?z0a⟩) ?s0a
          case z0a => (intro W; go_simp; try with_reducible rfl)
          simp only [Act.put, List.setIfInBounds_toArray, List.set_cons_zero, List.set_cons_succ]
          refine wpA_take 1 33 (v := ?w1a) rfl rfl (by kernel_rfl) (by kernel_rfl) (by kernel_rfl) (fun _ _ _ h => h) (Or.inl ⟨by rfl, ?z1a⟩) ?s1a
          case z1a => (intro W; go_simp; try with_reducible rfl)
          simp only [Act.put, List.setIfInBounds_toArray, List.set_cons_zero, List.set_cons_succ]
          refine wpA_take 2 34 (v := ?w2a) rfl rfl (by kernel_rfl) (by kernel_rfl) (by kernel_rfl) (fun _ _ _ h => h) (Or.inl ⟨by rfl, ?z2a⟩) ?s2a
          case z2a => (intro W; go_simp; try with_reducible rfl)
          simp only [Act.put, List.setIfInBounds_toArray, List.set_cons_zero, List.set_cons_succ]
          refine wpA_take 3 35 (v := ?w3a) rfl rfl (by kernel_rfl) (by kernel_rfl) (by kernel_rfl) (fun _ _ _ h => h) (Or.inl ⟨by rfl, ?z3a⟩) ?s3a
          case z3a => (intro W; go_simp; try with_reducible rfl)
          simp only [Act.put, List.setIfInBounds_toArray, List.set_cons_zero, List.set_cons_succ]
          refine wpA_take 4 36 (v := ?w4a) rfl rfl (by kernel_rfl) (by kernel_rfl) (by kernel_rfl) (fun _ _ _ h => h) (Or.inl ⟨by rfl, ?z4a⟩) ?s4a
          case z4a => (intro W; go_simp; try with_reducible rfl)
          simp only [Act.put, List.setIfInBounds_toArray, List.set_cons_zero, List.set_cons_succ]
          refine wpA_take 6 38 (v := ?w6a) rfl rfl (by kernel_rfl) (by kernel_rfl) (by kernel_rfl) (fun _ _ _ h => h) (Or.inl ⟨by rfl, ?z6a⟩) ?s6a
          case z6a => (intro W; go_simp; try with_reducible rfl)
          simp only [Act.put, List.setIfInBounds_toArray, List.set_cons_zero, List.set_cons_succ]
          refine wpA_take 8 40 (v := ?w8a) rfl rfl (by kernel_rfl) (by kernel_rfl) (by kernel_rfl) (fun _ _ _ h => h) (Or.inl ⟨by rfl, ?z8a⟩) ?s8a
          case z8a => (intro W; go_simp; try with_reducible rfl)
          simp only [Act.put, List.setIfInBounds_toArray, List.set_cons_zero, List.set_cons_succ]
          refine wpA_take 9 41 (v := ?w9a) rfl rfl (by kernel_rfl) (by kernel_rfl) (by kernel_rfl) (fun _ _ _ h => h) (Or.inl ⟨by rfl, ?z9a⟩) ?s9a
          case z9a => (intro W; go_simp; try with_reducible rfl)
          simp only [Act.put, List.setIfInBounds_toArray, List.set_cons_zero, List.set_cons_succ]
          refine wpA_one 5 (by kernel_rfl) rfl (fun K hK => ?_)
          refine wpA_if (by rfl) ?_
          refine wp_load_row 81 _ rfl gk rfl 81 ((blk (tab l) k).map (Value.int .i64)).toArray (0, 0) _ HB3.out.drew Try.underlying81 rfl (by rw [info_blk]; simp [blk_len]) ?_
          refine hK.out _ _ ?_
          clear hK K
          try simp only [Act.put, List.setIfInBounds_toArray, List.set_cons_zero, List.set_cons_succ]
          refine wpA_one 7 (by kernel_rfl) rfl (fun K hK => ?_)
          go_simp
          with_reducible refine (HA.out _ (found_drew HR.out.found)).mono ?_
          rintro e w3 ⟨rfl, hF3, hb3⟩
          refine hK.out _ _ ?_
          clear hK K
          try simp only [Act.put, List.setIfInBounds_toArray, List.set_cons_zero, List.set_cons_succ]
          obtain ⟨c3, f3, HQ⟩ := b_in (w3 := w3) HR.out hlt HI.out hF3 ((Below.refl _ _).drew.trans hb3)
          have HF3 := Lib.hid hF3
          clear hF3 hb3
          unfold u16V
          generalize pos (kput (U4 l k) (blk (tab l) k)) (blk (tab l) k) = m at *
          refine wpA_take 10 42 (v := ?w10a) rfl rfl (by kernel_rfl) (by kernel_rfl) (by kernel_rfl) (fun _ _ _ h => h) (Or.inl ⟨by rfl, ?z10a⟩) ?s10a
          case z10a => (intro W; go_simp; try with_reducible rfl)
          simp only [Act.put, List.setIfInBounds_toArray, List.set_cons_zero, List.set_cons_succ]
          refine wpA_one 11 (by kernel_rfl) rfl (fun K hK => ?_)
          go_simp
          refine hK.out _ _ ?_
          clear hK K
          try simp only [Act.put, List.setIfInBounds_toArray, List.set_cons_zero, List.set_cons_succ]
          refine wpA_done (by kernel_rfl) ?_ _
          go_wp2
          go_roundw
          case rel => exact ⟨k + 1, by omega, by go_num, HQ.out⟩
          case measure => simp [intOf]; omega
        · have HI := Lib.hid hin
          have HQ := Lib.hid (b_out HR.out hlt hin)
          clear hin hmm hzb hzt
          go_wp2_with (at_lookup; refine wpList_mlook rfl _ _ 87 true rfl 21 91 kv32 Try.underlying87 (zero_ptr _) w.heap.size rfl HM.out (k : Int) rfl HK.out (.tuple #[.pointer none, .bool false]) (by simp [HI.out]) ?_)
          go_roundw
          case rel => exact ⟨k + 1, by omega, by go_num, HQ.out⟩
          case measure => simp [intOf]; omega
      · have hkk : k = 4352 := by omega
        subst hkk
        have HQ := Lib.hid (b_end HGR.out HR.out)
        clear hmm hzb hzt
        go_wp2
        go_ret
        exact HQ.out
end Go.Proofs.Ytmphfdnpnhlpjaa
