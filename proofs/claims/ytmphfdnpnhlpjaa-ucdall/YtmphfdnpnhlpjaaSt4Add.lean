/- Package stage: add by its contract: where a block is among the unlike ones; one more if it is new. -/
import Derived.Test.YtmphfdnpnhlpjaaSt4Get
import Derived.Test.YtmphfdnpnhlpjaaAny
import Derived.Deep.MidRow
namespace Go.Proofs.Ytmphfdnpnhlpjaa
open Go.ChangeShapes Go.WideShapes Go.ChangeAt Go.RowKit
set_option linter.unusedVariables false
set_option linter.unusedSimpArgs false

/-- a block as a value, and what blocks are keys -/
abbrev BD (b : List Int) : Prop := b.length = 256 ∧ ∀ x ∈ b, (Lit.int .i64 x).wf = true
def bV (b : List Int) : Value := arrV .i64 b
def u16V (n : Nat) : Value := .int .u16 n
theorem laidOut4 : laidOutB Try.prog = true := by kernel_rfl
theorem ts4 : Try.prog.types.size + 2 ≤ 10000 := of_decide_eq_true (by kernel_rfl)
theorem bkv : Kv Try.prog 81 bV BD := arr_kv laidOut4 (of_decide_eq_true (by kernel_rfl)) ts4 Try.underlying81 Try.underlying3 (by kernel_rfl) (by kernel_rfl) (by kernel_rfl)
theorem zero_u16 (w : World) : (zeroValue 82).run Try.prog w = .ok (.int .u16 0) w := by kernel_rfl
theorem info_blk : (Try.prog.info? 81).map (·.size) = some 256 := by kernel_rfl
def zvals : List Value := List.replicate 256 (Value.int .i64 0)
theorem zvals_size : (Value.agg zvals.toArray).cells.size = 256 := List.length_replicate
theorem info_blk' : (Try.prog.info? 81).map (fun i => (i.zero, i.size, i.bytes)) = some (some (.agg zvals.toArray), 256, 2048) := by kernel_rfl

/-- the cells of blocks, one behind the other -/
def flat (U : List (List Int)) : List Value := (U.flatten).map (Value.int .i64)
theorem flat_app (U V : List (List Int)) : flat (U ++ V) = flat U ++ flat V := by simp [flat]

/-- what has been found so far: the map of all blocks that are there, the numbers, the unlike blocks -/
structure Found (w : World) (B : Nat) (U : List (List Int)) (N : List Value) : Prop where
  known : MapIs w B bV u16V BD U (pos U)
  tab : ∃ v, Blk w (B + 1) 86 (N.toArray.push v) ∧ w.ownsRow (B + 2) 81 256 v U.length (flat U)
  len : N.length = 4352

def AddPost (w : World) (B : Nat) (U : List (List Int)) (N : List Value) (b : List Int) (e : Ending) (w' : World) : Prop :=
  e = .returned (u16V (pos (kput U b) b)) ∧ Found w' B (kput U b) N ∧ Below B w w'

theorem own_form' {w : World} {base s : Nat} {e : TypeId} {v : Value} {n : Nat} {xs : List Value} (h : w.ownsRow base e s v n xs) : ∃ A c, v = .slice A n c ∧ n ≤ c ∧ c ≤ maxLen := by
  rcases h.2 with ⟨e1, e2⟩ | ⟨g, cap, cur, hv, hb, hh, hnc, hm, hcs, ht⟩
  · exact ⟨none, 0, by rw [e1, e2], by omega, by simp [maxLen]⟩
  · exact ⟨_, cap, hv, hnc, hm⟩

theorem cells_new (w : World) (t : TypeId) (vs : List Value) : ∀ j u, vs[j]? = some u → (w.alloc (.cells vs.toArray t)).cell? ((⟨w.heap.size, 0, none⟩ : Addr).add j) = some u := by
  intro j u hj
  have hadd : (⟨w.heap.size, 0, none⟩ : Addr).add j = ⟨w.heap.size, j, none⟩ := by unfold Addr.add; split <;> simp_all
  rw [hadd, (Blk.new w t vs.toArray).cell]
  simpa using hj
theorem own_ne {w : World} {base e s n : Nat} {v : Value} {xs : List Value} (h : w.ownsRow base e s v n xs) {g : Nat} (hg : g < base) : some g ≠ v.ownBlock := by
  intro e
  have := (h.lt g e.symm).1
  omega
theorem own_kept {w w' : World} {base e s n : Nat} {v : Value} {xs : List Value} (h : w.ownsRow base e s v n xs) {g : Nat} (hg : g < base) (hb : But g w w') : w'.ownsRow base e s v n xs :=
  World.ownsRow.kept h hb (.inr (fun e => own_ne h hg e.symm))
theorem kput_new {α : Type} [DecidableEq α] {U : List α} {b : α} (h : b ∉ U) : kput U b = U ++ [b] := by unfold kput; rw [if_neg h]
theorem pos_upd {α : Type} [DecidableEq α] {U : List α} {b : α} (h : b ∉ U) : ∀ k ∈ kput U b, upd (pos U) b U.length k = pos (kput U b) k := by
  intro k hk
  rw [kput_new h] at hk ⊢
  unfold upd
  split
  · rename_i e; subst e; exact (pos_last U h).symm
  · rename_i e
    rcases List.mem_append.1 hk with hk | hk
    · exact (pos_app U _ hk).symm
    · simp at hk; exact absurd hk e
/-- what add leaves -/
theorem add_facts (w w2 w3 : World) (B : Nat) (U : List (List Int)) (N : List Value) (b : List Int) (A : Option Addr) (cap : Nat) (v3 : Value) (hlt : B < w.heap.size) (HB : Hid (b.length = 256)) (HI : Hid ¬ b ∈ U) (HN : Hid (N.length = 4352)) (HBW : Hid (Below B w w2))
    (K2 : Hid (Blk w2 (B + 1) 86 (N.toArray.push (Value.slice A U.length cap)))) (K3 : Hid (w2.ownsRow (B + 2) 81 256 (.slice A U.length cap) U.length (flat U))) (K4 : Hid (MapIs w2 B bV u16V BD (kput U b) (upd (pos U) b U.length)))
    (ho3 : w3.ownsRow (B + 2) 81 256 v3 (U.length + 1) (flat U ++ b.map (Value.int .i64))) (hg3 : (w2.alloc (.cells (b.map (Value.int .i64)).toArray 81)).grownBy w3 (Value.slice A U.length cap).ownBlock) :
    w3.cell? ⟨B + 1, 4352, none⟩ = some (.slice A U.length cap) ∧ w3.frozen? ⟨B + 1, 4352, none⟩ = false ∧
      Hid (pos (kput U b) b = U.length ∧ Found (w3.setCell ⟨B + 1, 4352, none⟩ v3) B (kput U b) N ∧ Below B w (w3.setCell ⟨B + 1, 4352, none⟩ v3)) := by
  have ka := K2.out.alloc (.cells (b.map (Value.int .i64)).toArray 81)
  have hn1 : some (B + 1) ≠ (Value.slice A U.length cap).ownBlock := own_ne K3.out (by omega)
  have hn0 : some B ≠ (Value.slice A U.length cap).ownBlock := own_ne K3.out (by omega)
  have k3 : Blk w3 (B + 1) 86 (N.toArray.push (Value.slice A U.length cap)) := (hg3.block (B + 1) ka.lt hn1).trans ka
  have km := K4.out.alloc (.cells (b.map (Value.int .i64)).toArray 81)
  have km3 : MapIs w3 B bV u16V BD (kput U b) (upd (pos U) b U.length) := km.block (hg3.block B km.lt hn0)
  refine ⟨by rw [k3.cell, Array.getElem?_push, if_pos (by simp [HN.out])], k3.frozen _, Lib.hid ⟨?_, ⟨?_, ?_, HN.out⟩, ?_⟩⟩
  · rw [kput_new HI.out]; exact pos_last U HI.out
  · exact (km3.far (by simp) v3).congr (pos_upd HI.out)
  · refine ⟨v3, ?_, ?_⟩
    · have := k3.set 4352 v3
      have e : (N.toArray.push (Value.slice A U.length cap)).setIfInBounds 4352 v3 = N.toArray.push v3 := by
        apply Array.ext_getElem?
        intro i
        rw [Array.getElem?_setIfInBounds, Array.getElem?_push, Array.getElem?_push]
        have : N.toArray.size = 4352 := by simp [HN.out]
        rw [this, Array.size_push, this]
        by_cases hi : i = 4352
        · subst hi; simp
        · rw [if_neg (fun h => hi h.symm), if_neg hi, if_neg hi]
      rw [e] at this
      exact this
    · rw [kput_new HI.out, flat_app, List.length_append]
      have e2 : flat [b] = b.map (Value.int .i64) := by simp [flat]
      rw [e2]
      exact own_kept ho3 (g := B + 1) (by omega) ((But.refl _ _).set _ _)
  · have h1 : Below B w (w2.alloc (.cells (b.map (Value.int .i64)).toArray 81)) := HBW.out.alloc (by have := HBW.out.size; omega) _
    have h2 : Below B w w3 := h1.grown hg3 (by have := h1.size; omega) (fun g hv => by have := (K3.out.lt g hv).1; omega)
    exact h2.setCell (by simp) _

set_option maxHeartbeats 1000000 in
theorem add_old (w : World) (B : Nat) (U : List (List Int)) (N : List Value) (b : List Int) (hF : Found w B U N) (hb : BD b) (hin : b ∈ U) :
    Calls Try.prog 33 #[.pointer (some ⟨B + 1, 0, none⟩), bV b, .map (some B)] w (AddPost w B U N b) := by
  have hlt := hF.known.lt
  have hb2 : Below B w (w.alloc (.cells (b.map (Value.int .i64)).toArray 81)) := (Below.refl _ _).alloc (by omega) _
  have HB := Lib.hid hb.1
  have HL := Lib.hid (Blk.new w 81 (b.map (Value.int .i64)).toArray)
  have HM := Lib.hid (hF.known.alloc (.cells (b.map (Value.int .i64)).toArray 81))
  have HF := Lib.hid hF
  have HD := Lib.hid hb
  have HI := Lib.hid hin
  clear hF hb hin
  unfold bV arrV
  go_enter Try.func33, Try.ntmps33
  go_wp2_with (first
    | (refine wpList_load_row rfl 81 _ rfl w.heap.size rfl 81 (b.map (Value.int .i64)).toArray (0, 0) _ HL.out Try.underlying81 rfl (by rw [info_blk]; simp [HB.out]) ?_)
    | (at_lookup; refine wpList_mlook rfl _ _ 89 true rfl 81 82 bkv Try.underlying89 (zero_u16 _) B rfl HM.out b rfl HD.out (.tuple #[u16V (pos U b), .bool true]) (by simp [HI.out]) ?_))
  go_ret
  have hk : kput U b = U := by unfold kput; rw [if_pos HI.out]
  unfold AddPost
  rw [hk]
  refine ⟨rfl, ⟨HM.out, ?_, HF.out.len⟩, hb2⟩
  obtain ⟨v, h1, h2⟩ := HF.out.tab
  exact ⟨v, h1.alloc _, h2.alloc _⟩

set_option maxHeartbeats 1000000 in
theorem add_new (w : World) (B : Nat) (U : List (List Int)) (N : List Value) (b : List Int) (hF : Found w B U N) (hb : BD b) (hin : b ∉ U) (hU : U.length ≤ 4353) :
    Calls Try.prog 33 #[.pointer (some ⟨B + 1, 0, none⟩), bV b, .map (some B)] w (AddPost w B U N b) := by
  have hlt := hF.known.lt
  have hb2 : Below B w (w.alloc (.cells (b.map (Value.int .i64)).toArray 81)) := (Below.refl _ _).alloc (by omega) _
  have HB := Lib.hid hb.1
  have HL := Lib.hid (Blk.new w 81 (b.map (Value.int .i64)).toArray)
  have HM := Lib.hid (hF.known.alloc (.cells (b.map (Value.int .i64)).toArray 81))
  obtain ⟨v, ht, ho⟩ := hF.tab
  have hlen := hF.len
  obtain ⟨A, cap, hv, hc1, hc2⟩ := own_form' ho
  subst hv
  have hl1 := ht.lt
  have c0 : (w.alloc (.cells (b.map (Value.int .i64)).toArray 81)).cell? ⟨B + 1, 4352, none⟩ = some (.slice A U.length cap) := by
    rw [(ht.alloc _).cell, Array.getElem?_push, if_pos (by simp [hlen])]
  have HF := Lib.hid hF
  have HT := Lib.hid (ht.alloc (.cells (b.map (Value.int .i64)).toArray 81))
  have HO := Lib.hid (ho.alloc (.cells (b.map (Value.int .i64)).toArray 81))
  have HD := Lib.hid hb
  have HI := Lib.hid hin
  have HN := Lib.hid hlen
  clear hF hb hin ht ho hlen
  unfold bV arrV
  go_enter Try.func33, Try.ntmps33
  go_wp2_with (first
    | (refine wpList_load_row rfl 81 _ rfl w.heap.size rfl 81 (b.map (Value.int .i64)).toArray (0, 0) _ HL.out Try.underlying81 rfl (by rw [info_blk]; simp [HB.out]) ?_)
    | (at_lookup; refine wpList_mlook rfl _ _ 89 true rfl 81 82 bkv Try.underlying89 (zero_u16 _) B rfl HM.out b rfl HD.out (.tuple #[.int .u16 0, .bool false]) (by simp [HI.out]) ?_)
    | (at_mapUpdate; refine wpList_mput rfl _ _ _ 89 rfl 81 82 bkv Try.underlying89 B rfl HM.out b rfl HD.out U.length rfl ?_; intro w1 hm1 hb1))
  simp only [Act.put]
  have K1 := Lib.hid (hb1.blk HL.out (by omega)).drew
  have K2 := Lib.hid (hb1.blk HT.out (by omega)).drew
  have K3 := Lib.hid (World.ownsRow.kept HO.out hb1 (by
    cases hv : Value.ownBlock (Value.slice A U.length cap) with
    | none => exact .inl rfl
    | some g => exact .inr (by
        have := (HO.out.lt g hv).1
        intro e; injection e with e; omega)))
  have K4 := Lib.hid hm1.drew
  have hsz := hb1.size
  have hbw : Below B w w1.drew := ((Below.trans hb2 (hb1.below (Nat.le_refl _) (by simp; omega))).drew)
  have hsw : w.heap.size + 1 ≤ w1.drew.heap.size := by simpa using hsz
  have c1 : w1.drew.cell? ⟨B + 1, 4352, none⟩ = some (.slice A U.length cap) := by
    rw [K2.out.cell, Array.getElem?_push, if_pos (by simp [HN.out])]
  have f1 : w1.drew.frozen? ⟨B + 1, 4352, none⟩ = false := K2.out.frozen _
  have HBW := Lib.hid hbw
  have K3 : Hid (w1.drew.ownsRow (B + 2) 81 256 (.slice A U.length cap) U.length (flat U)) := K3
  clear hbw hb1 hb2 c0 HL HT HO HM hm1 hsz
  refine wp_region_A (by kernel_rfl) ?_
  generalize w1.drew = w2 at *
  refine wpA_take 0 26 (v := ?v0) rfl rfl (by kernel_rfl) (by kernel_rfl) (by kernel_rfl) (fun _ _ _ h => h) (Or.inl ⟨by rfl, ?y0⟩) ?r0
  case y0 => (intro W; go_simp; try with_reducible rfl)
  simp only [Act.put, List.setIfInBounds_toArray, List.set_cons_zero, List.set_cons_succ]
  refine wpA_take 1 27 (v := ?v1) rfl rfl (by kernel_rfl) (by kernel_rfl) (by kernel_rfl) (fun _ _ _ h => h) (Or.inl ⟨by rfl, ?y1⟩) ?r1
  case y1 => (intro W; go_simp; try with_reducible rfl)
  simp only [Act.put, List.setIfInBounds_toArray, List.set_cons_zero, List.set_cons_succ]
  refine wpA_take 2 28 (v := ?v2) rfl rfl (by kernel_rfl) (by kernel_rfl) (by kernel_rfl) (fun _ _ _ h => h) (Or.inl ⟨by rfl, ?y2⟩) ?r2
  case y2 => (intro W; go_simp; try with_reducible rfl)
  simp only [Act.put, List.setIfInBounds_toArray, List.set_cons_zero, List.set_cons_succ]
  refine wpA_take 3 29 (v := ?v3) rfl rfl (by kernel_rfl) (by kernel_rfl) (by kernel_rfl) (fun _ _ _ h => h) (Or.inl ⟨by rfl, ?y3⟩) ?r3
  case y3 => (intro W; go_simp; try with_reducible rfl)
  simp only [Act.put, List.setIfInBounds_toArray, List.set_cons_zero, List.set_cons_succ]
  have c2 : (w2.alloc (.cells (b.map (Value.int .i64)).toArray 81)).cell? ⟨B + 1, 4352, none⟩ = some (.slice A U.length cap) :=
    (World.cell?_alloc_lt _ _ _ (by show B + 1 < _; omega)).trans c1
  refine wpA_two 4 5 (by kernel_rfl) rfl rfl (fun K hK => ?_) (fun K hK => ?_)
  · go_simp
    refine hK.out _ _ ?_
    clear hK K
    try simp only [Act.put, List.setIfInBounds_toArray, List.set_cons_zero, List.set_cons_succ]
    refine wpA_one 5 (by kernel_rfl) rfl (fun K hK => ?_)
    refine wpA_if (by rfl) ?_
    refine wp_load_row 81 _ rfl w.heap.size rfl 81 (b.map (Value.int .i64)).toArray (0, 0) _ K1.out Try.underlying81 rfl (by rw [info_blk]; simp [HB.out]) ?_
    refine hK.out _ _ ?_
    clear hK K
    try simp only [Act.put, List.setIfInBounds_toArray, List.set_cons_zero, List.set_cons_succ]
    refine wpA_one 6 (by kernel_rfl) rfl (fun K hK => ?_)
    refine wpA_if (by rfl) ?_
    refine wpO_lit 84 81 1 _ rfl (.agg zvals.toArray) 256 2048 Try.underlying84 info_blk' (by decide) (by decide) (by decide) [.agg (b.map (Value.int .i64)).toArray] (by simp [Act.eval]) (by simp [Value.cells, HB.out]) rfl (b.map (Value.int .i64)).toArray (by simp [Value.cells]) ?_
    refine hK.out _ _ ?_
    clear hK K
    try simp only [Act.put, List.setIfInBounds_toArray, List.set_cons_zero, List.set_cons_succ]
    refine wpA_one 7 (by kernel_rfl) rfl (fun K hK => ?_)
    refine wpA_if (by rfl) ?_
    refine wpO_append _ _ 84 rfl (B + 2) 81 (.agg zvals.toArray) 256 2048 Try.underlying84 info_blk' zvals_size (by decide) _ U.length (flat U) rfl (K3.out.alloc _) ⟨w2.heap.size, 0, none⟩ 1 1 (b.map (Value.int .i64)) rfl (by simp [HB.out]) (cells_new w2 _ _) (ints_oneCell _ _) (by simp only [maxLen]; omega) (by omega) (by simp; omega) ?_
    intro v3 w3 ho3 hg3 hloc; obtain ⟨A3, cap3, rfl, hq1, hq2⟩ := own_form' ho3; clear hloc
    refine hK.out _ _ ?_
    clear hK K
    try simp only [Act.put, List.setIfInBounds_toArray, List.set_cons_zero, List.set_cons_succ]
    obtain ⟨c3, f3, HP⟩ := add_facts w w2 w3 B U N b A cap _ hlt HB HI HN HBW K2 K3 K4 ho3 hg3
    refine wpA_take 8 34 (v := ?v8a) rfl rfl (by kernel_rfl) (by kernel_rfl) (by kernel_rfl) (fun _ _ _ h => h) (Or.inl ⟨by rfl, ?y8a⟩) ?r8a
    case y8a => (intro W; go_simp; try with_reducible rfl)
    simp only [Act.put, List.setIfInBounds_toArray, List.set_cons_zero, List.set_cons_succ]
    refine wpA_take 9 35 (v := ?v9a) rfl rfl (by kernel_rfl) (by kernel_rfl) (by kernel_rfl) (fun _ _ _ h => h) (Or.inl ⟨by rfl, ?y9a⟩) ?r9a
    case y9a => (intro W; go_simp; try with_reducible rfl)
    simp only [Act.put, List.setIfInBounds_toArray, List.set_cons_zero, List.set_cons_succ]
    refine wpA_one 10 (by kernel_rfl) rfl (fun K hK => ?_)
    go_simp
    refine hK.out _ _ ?_
    clear hK K
    try simp only [Act.put, List.setIfInBounds_toArray, List.set_cons_zero, List.set_cons_succ]
    refine wpA_done (by kernel_rfl) ?_ _
    go_wp2
    go_ret
    exact ⟨by rw [HP.out.1]; rfl, HP.out.2⟩
  · refine wpA_if (by rfl) ?_
    refine wp_load_row 81 _ rfl w.heap.size rfl 81 (b.map (Value.int .i64)).toArray (0, 0) _ K1.out Try.underlying81 rfl (by rw [info_blk]; simp [HB.out]) ?_
    refine hK.out _ _ ?_
    clear hK K
    try simp only [Act.put, List.setIfInBounds_toArray, List.set_cons_zero, List.set_cons_succ]
    refine wpA_two 4 6 (by kernel_rfl) rfl rfl (fun K hK => ?_) (fun K hK => ?_)
    · go_simp
      refine hK.out _ _ ?_
      clear hK K
      try simp only [Act.put, List.setIfInBounds_toArray, List.set_cons_zero, List.set_cons_succ]
      refine wpA_one 6 (by kernel_rfl) rfl (fun K hK => ?_)
      refine wpA_if (by rfl) ?_
      refine wpO_lit 84 81 1 _ rfl (.agg zvals.toArray) 256 2048 Try.underlying84 info_blk' (by decide) (by decide) (by decide) [.agg (b.map (Value.int .i64)).toArray] (by simp [Act.eval]) (by simp [Value.cells, HB.out]) rfl (b.map (Value.int .i64)).toArray (by simp [Value.cells]) ?_
      refine hK.out _ _ ?_
      clear hK K
      try simp only [Act.put, List.setIfInBounds_toArray, List.set_cons_zero, List.set_cons_succ]
      refine wpA_one 7 (by kernel_rfl) rfl (fun K hK => ?_)
      refine wpA_if (by rfl) ?_
      refine wpO_append _ _ 84 rfl (B + 2) 81 (.agg zvals.toArray) 256 2048 Try.underlying84 info_blk' zvals_size (by decide) _ U.length (flat U) rfl (K3.out.alloc _) ⟨w2.heap.size, 0, none⟩ 1 1 (b.map (Value.int .i64)) rfl (by simp [HB.out]) (cells_new w2 _ _) (ints_oneCell _ _) (by simp only [maxLen]; omega) (by omega) (by simp; omega) ?_
      intro v3 w3 ho3 hg3 hloc; obtain ⟨A3, cap3, rfl, hq1, hq2⟩ := own_form' ho3; clear hloc
      refine hK.out _ _ ?_
      clear hK K
      try simp only [Act.put, List.setIfInBounds_toArray, List.set_cons_zero, List.set_cons_succ]
      obtain ⟨c3, f3, HP⟩ := add_facts w w2 w3 B U N b A cap _ hlt HB HI HN HBW K2 K3 K4 ho3 hg3
      refine wpA_take 8 34 (v := ?v8b) rfl rfl (by kernel_rfl) (by kernel_rfl) (by kernel_rfl) (fun _ _ _ h => h) (Or.inl ⟨by rfl, ?y8b⟩) ?r8b
      case y8b => (intro W; go_simp; try with_reducible rfl)
      simp only [Act.put, List.setIfInBounds_toArray, List.set_cons_zero, List.set_cons_succ]
      refine wpA_take 9 35 (v := ?v9b) rfl rfl (by kernel_rfl) (by kernel_rfl) (by kernel_rfl) (fun _ _ _ h => h) (Or.inl ⟨by rfl, ?y9b⟩) ?r9b
      case y9b => (intro W; go_simp; try with_reducible rfl)
      simp only [Act.put, List.setIfInBounds_toArray, List.set_cons_zero, List.set_cons_succ]
      refine wpA_one 10 (by kernel_rfl) rfl (fun K hK => ?_)
      go_simp
      refine hK.out _ _ ?_
      clear hK K
      try simp only [Act.put, List.setIfInBounds_toArray, List.set_cons_zero, List.set_cons_succ]
      refine wpA_done (by kernel_rfl) ?_ _
      go_wp2
      go_ret
      exact ⟨by rw [HP.out.1]; rfl, HP.out.2⟩
    · refine wpA_if (by rfl) ?_
      refine wpO_lit 84 81 1 _ rfl (.agg zvals.toArray) 256 2048 Try.underlying84 info_blk' (by decide) (by decide) (by decide) [.agg (b.map (Value.int .i64)).toArray] (by simp [Act.eval]) (by simp [Value.cells, HB.out]) rfl (b.map (Value.int .i64)).toArray (by simp [Value.cells]) ?_
      refine hK.out _ _ ?_
      clear hK K
      try simp only [Act.put, List.setIfInBounds_toArray, List.set_cons_zero, List.set_cons_succ]
      refine wpA_one 4 (by kernel_rfl) rfl (fun K hK => ?_)
      go_simp
      refine hK.out _ _ ?_
      clear hK K
      try simp only [Act.put, List.setIfInBounds_toArray, List.set_cons_zero, List.set_cons_succ]
      refine wpA_one 7 (by kernel_rfl) rfl (fun K hK => ?_)
      refine wpA_if (by rfl) ?_
      refine wpO_append _ _ 84 rfl (B + 2) 81 (.agg zvals.toArray) 256 2048 Try.underlying84 info_blk' zvals_size (by decide) _ U.length (flat U) rfl (K3.out.alloc _) ⟨w2.heap.size, 0, none⟩ 1 1 (b.map (Value.int .i64)) rfl (by simp [HB.out]) (cells_new w2 _ _) (ints_oneCell _ _) (by simp only [maxLen]; omega) (by omega) (by simp; omega) ?_
      intro v3 w3 ho3 hg3 hloc; obtain ⟨A3, cap3, rfl, hq1, hq2⟩ := own_form' ho3; clear hloc
      refine hK.out _ _ ?_
      clear hK K
      try simp only [Act.put, List.setIfInBounds_toArray, List.set_cons_zero, List.set_cons_succ]
      obtain ⟨c3, f3, HP⟩ := add_facts w w2 w3 B U N b A cap _ hlt HB HI HN HBW K2 K3 K4 ho3 hg3
      refine wpA_take 8 34 (v := ?v8c) rfl rfl (by kernel_rfl) (by kernel_rfl) (by kernel_rfl) (fun _ _ _ h => h) (Or.inl ⟨by rfl, ?y8c⟩) ?r8c
      case y8c => (intro W; go_simp; try with_reducible rfl)
      simp only [Act.put, List.setIfInBounds_toArray, List.set_cons_zero, List.set_cons_succ]
      refine wpA_take 9 35 (v := ?v9c) rfl rfl (by kernel_rfl) (by kernel_rfl) (by kernel_rfl) (fun _ _ _ h => h) (Or.inl ⟨by rfl, ?y9c⟩) ?r9c
      case y9c => (intro W; go_simp; try with_reducible rfl)
      simp only [Act.put, List.setIfInBounds_toArray, List.set_cons_zero, List.set_cons_succ]
      refine wpA_one 10 (by kernel_rfl) rfl (fun K hK => ?_)
      go_simp
      refine hK.out _ _ ?_
      clear hK K
      try simp only [Act.put, List.setIfInBounds_toArray, List.set_cons_zero, List.set_cons_succ]
      refine wpA_done (by kernel_rfl) ?_ _
      go_wp2
      go_ret
      exact ⟨by rw [HP.out.1]; rfl, HP.out.2⟩
/-- add, whatever the block -/
theorem add_any (w : World) (B : Nat) (U : List (List Int)) (N : List Value) (b : List Int) (hF : Found w B U N) (hb : BD b) (hU : U.length ≤ 4353) :
    Calls Try.prog 33 #[.pointer (some ⟨B + 1, 0, none⟩), bV b, .map (some B)] w (AddPost w B U N b) := by
  by_cases h : b ∈ U
  · exact add_old w B U N b hF hb h
  · exact add_new w B U N b hF hb h hU
end Go.Proofs.Ytmphfdnpnhlpjaa
