/- Joined of: AnyU, GMem, RfE, U5Math, U5Dig, Texts. -/
import Derived.Test.YtdmcidljjfogjaaDoorJ9A
import Derived.OrdersHeld
import Derived.Laws.AppendOwn
import Derived.RangeFuncNested
import Derived.RangeFuncBound
import Derived.Test.YtdmcidljjfogjaaDoorRows
/- A region that draws its order and ends in one operation that waits for all others (a store, as a rule): what reads memory is taken first under a condition on the world that every operation but that last one keeps: also what reads the very cell that the last one writes. -/
namespace Go.Proofs.YtdmcidljjfogjaaDoor
open Go.RowKit
section
variable {P : Program} {ops : Array Oper} {Q : Exit → Act → World → Prop} {md : Region.Mode} {S : World → Prop} {z : Nat}

/-- whatever order the rest comes up in: S holds behind each operation but number z -/
def wpAnyU (P : Program) (md : Region.Mode) (ops : Array Oper) (Q : Exit → Act → World → Prop) (S : World → Prop) (z : Nat) : Nat → Array Bool → Act → World → Prop
  | 0, listed, a, w => Region.ready md ops listed = [] ∧ Q .normal a w
  | fuel + 1, listed, a, w =>
    (Region.ready md ops listed = [] → Q .normal a w) ∧
    ∀ i ∈ Region.ready md ops listed, wpOp P ops Q i (fun a' w' => (i = z ∨ S w') ∧ wpAnyU P md ops Q S z fuel (listed.setIfInBounds i true) a' w') a w
theorem wpAny_of_U : ∀ (fuel : Nat) (listed : Array Bool) (a : Act) (w : World), wpAnyU P md ops Q S z fuel listed a w → wpAny P md ops Q fuel listed a w
  | 0, _, _, _, h => h
  | fuel + 1, _, _, _, h => ⟨h.1, fun i hi => wpOp_mono (fun a' w' h' => wpAny_of_U fuel _ a' w' h'.2) (h.2 i hi)⟩

/-- number z is not ready while number i, for which it waits, has not come up -/
theorem not_ready {i : Nat} {oz : Oper} (hz : ops[z]? = some oz) {e : Edge} (he : e ∈ oz.after) (hb : Region.binds md e = true) (hi : e.on = i) {listed : Array Bool} (hr : i ∈ Region.ready md ops listed) : z ∉ Region.ready md ops listed := fun hj => by
  obtain ⟨_, oj, hoj, hall⟩ := mem_ready.1 hj
  rw [hz] at hoj
  obtain rfl := Option.some.inj hoj
  have h1 := hall e he hb
  have h0 := (mem_ready.1 hr).1
  rw [hi] at h1
  rcases Nat.lt_or_ge i listed.size with h' | h'
  · simp [h'] at h0 h1; rw [h0] at h1; cases h1
  · simp [Array.getElem?_eq_none h'] at h1

theorem wpAnyU_first {i : Nat} {oi oz : Oper} {v : Value} (hi : ops[i]? = some oi) (hsel : ∀ (j : Nat) (o : Oper) cs b, ops[j]? = some o → o.op ≠ .select cs b)
    (hz : ops[z]? = some oz) {e : Edge} (he : e ∈ oz.after) (hb : Region.binds md e = true) (hei : e.on = i)
    (hQ : ∀ c a w, Q (.panic c) (a.put oi.dst v) w → Q (.panic c) a w) :
    ∀ (fuel : Nat) (listed : Array Bool) (a : Act) (w : World),
      (∀ j oj, ops[j]? = some oj → j ≠ i → listed.getD j true = false → (∀ e ∈ oj.after, Region.binds md e = true → e.on ≠ i) → oi.apart ops oj = true) →
      i ∈ Region.ready md ops listed → YieldsIf P ops S oi v a → S w →
      wpAnyU P md ops Q S z fuel (listed.setIfInBounds i true) (a.put oi.dst v) w → wpAnyU P md ops Q S z (fuel + 1) listed a w := by
  intro fuel
  induction fuel with
  | zero =>
    intro listed a w _ hr hy hS H
    refine ⟨fun h => (by rw [h] at hr; cases hr), fun j hj => ?_⟩
    by_cases hji : j = i
    · subst hji; exact hy.wpOp hi hS ⟨.inr hS, H⟩
    · have := ready_mono hj hji
      rw [H.1] at this
      cases this
  | succ fuel ih =>
    intro listed a w hfree hr hy hS H
    refine ⟨fun h => (by rw [h] at hr; cases hr), fun j hj => ?_⟩
    by_cases hji : j = i
    · subst hji; exact hy.wpOp hi hS ⟨.inr hS, H⟩
    · have hjz : j ≠ z := fun ejz => not_ready hz he hb hei hr (ejz ▸ hj)
      have h1 := H.2 j (ready_mono hj hji)
      obtain ⟨hjun, oj, hoj, hall⟩ := mem_ready.1 hj
      have hnot : ∀ e ∈ oj.after, Region.binds md e = true → e.on ≠ i := fun e he hb heq => by
        have h1 := hall e he hb
        have h0 := (mem_ready.1 hr).1
        rw [heq] at h1
        rcases Nat.lt_or_ge i listed.size with h' | h'
        · simp [h'] at h0 h1; rw [h0] at h1; cases h1
        · simp [Array.getElem?_eq_none h'] at h1
      have h2 := wpOp_putIf hoj (hfree j oj hoj hji hjun hnot) (fun cs b => hsel i oi cs b hi) (fun cs b => hsel j oj cs b hoj) hQ hy h1
      have hfree' : ∀ k ok, ops[k]? = some ok → k ≠ i → (listed.setIfInBounds j true).getD k true = false →
          (∀ e ∈ ok.after, Region.binds md e = true → e.on ≠ i) → oi.apart ops ok = true := fun k ok hk hki hun hno => by
        refine hfree k ok hk hki ?_ hno
        by_cases hjk : j = k
        · subst hjk; exact hjun
        · rw [getD_set_ne true hjk] at hun; exact hun
      refine wpOp_mono (fun a' w' h3 => ?_) h2
      have hS' : S w' := h3.2.1.resolve_left hjz
      refine ⟨.inr hS', ih (listed.setIfInBounds j true) a' w' hfree' (ready_mono hr (Ne.symm hji)) h3.1 hS' ?_⟩
      rw [Array.setIfInBounds_comm _ _ hji]
      exact h3.2.2

/-- does number z wait for number i -/
def waits (md : Region.Mode) (ops : Array Oper) (z i : Nat) : Bool := match ops[z]? with
  | some o => o.after.any fun e => Region.binds md e && e.on == i
  | none => false
theorem waits_spec {i : Nat} (h : waits md ops z i = true) : ∃ oz, ops[z]? = some oz ∧ ∃ e ∈ oz.after, Region.binds md e = true ∧ e.on = i := by
  unfold waits at h
  split at h
  · rename_i o ho
    obtain ⟨k, hk, hb⟩ := Array.any_eq_true.1 h
    simp only [Bool.and_eq_true, beq_iff_eq] at hb
    exact ⟨o, ho, _, Array.getElem_mem hk, hb.1, hb.2⟩
  · cases h

theorem wpU_take (i d : Nat) {oi : Oper} {v : Value} {fuel : Nat} {listed : Array Bool} {a : Act} {w : World} (hi : ops[i]? = some oi) (hd : oi.dst = some d)
    (hs : Region.noSelect ops = true) (hf : Region.free md ops listed i = true) (hr : (Region.ready md ops listed).contains i = true) (hz : waits md ops z i = true)
    (hQ : ∀ c a w, Q (.panic c) (a.put (some d) v) w → Q (.panic c) a w) (hS : S w) (hy : YieldsIf P ops S oi v a)
    (h : wpAnyU P md ops Q S z fuel (listed.setIfInBounds i true) (a.put (some d) v) w) : wpAnyU P md ops Q S z (fuel + 1) listed a w := by
  obtain ⟨oz, hoz, e, he, hb, hei⟩ := waits_spec hz
  exact wpAnyU_first hi (Region.noSelect_spec hs) hoz he hb hei (by rw [hd]; exact hQ) fuel listed a w (Region.free_spec hi hf) (by simpa using hr) hy hS (by rw [hd]; exact h)
/-- it comes up alone -/
theorem wpU_one (i : Nat) {o : Oper} {fuel : Nat} {listed : Array Bool} {a : Act} {w : World} (hr : Region.ready md ops listed = [i]) (ho : ops[i]? = some o)
    (h : ∀ K' : Act → World → Prop, Shut (∀ a' w', S w' → wpAnyU P md ops Q S z fuel (listed.setIfInBounds i true) a' w' → K' a' w') → if Region.wanted o (yielded ops a.tmps) = true then Oper.wp P o a w K' Q else K' (a.put o.dst undef) w) :
    wpAnyU P md ops Q S z (fuel + 1) listed a w :=
  ⟨fun h0 => (by rw [hr] at h0; cases h0), fun j hj => by
    rw [hr] at hj
    obtain rfl : j = i := by simpa using hj
    exact wpOp_step ho fun K' hK => h K' fun a' w' h1 h2 => hK a' w' ⟨.inr h1, h2⟩⟩
/-- the last one -/
theorem wpU_last {o : Oper} {fuel : Nat} {listed : Array Bool} {a : Act} {w : World} (hr : Region.ready md ops listed = [z]) (ho : ops[z]? = some o) (hr' : Region.ready md ops (listed.setIfInBounds z true) = [])
    (h : ∀ K' : Act → World → Prop, Shut (∀ a' w', Q .normal a' w' → K' a' w') → if Region.wanted o (yielded ops a.tmps) = true then Oper.wp P o a w K' Q else K' (a.put o.dst undef) w) :
    wpAnyU P md ops Q S z (fuel + 1) listed a w :=
  ⟨fun h0 => (by rw [hr] at h0; cases h0), fun j hj => by
    rw [hr] at hj
    obtain rfl : j = z := by simpa using hj
    refine wpOp_step ho fun K' hK => h K' fun a' w' h2 => hK a' w' ⟨.inl rfl, ?_⟩
    cases fuel with
    | zero => exact ⟨hr', h2⟩
    | succ f => exact ⟨fun _ => h2, by rw [hr']; simp⟩⟩
theorem wp_region_U (S : World → Prop) (z : Nat) {id : Nat} {a : Act} {w : World} (hm : P.follows .mixedOrders = true)
    (h : wpAnyU P .any ops Q S z ops.size (Array.replicate ops.size false) a w.drew) : (Code.region id ops true).wp P Q a w := wp_region_any hm (wpAny_of_U _ _ _ _ h)
end
end Go.Proofs.YtdmcidljjfogjaaDoor

/- A struct whose first fields are rows of the call's own (elements of two cells each), in memory: what stays, what an append to one of them makes of it. No program in it. -/
namespace Go.Proofs.YtdmcidljjfogjaaDoor
open Go.RowKit

structure GRow where
  v : Value
  e : TypeId
  n : Nat
  xs : List Value
/-- no block is the own one of both -/
def Apt (a b : Value) : Prop := ∀ k, a.ownBlock = some k → b.ownBlock ≠ some k
structure GMem (W : World) (t : TypeId) (gb base lo hj' : Nat) (rows : List GRow) (tl : List Value) : Prop where
  blk : Blk W gb t (rows.map (·.v) ++ tl).toArray
  own : ∀ (i : Nat) (r : GRow), rows[i]? = some r → W.ownsRow base r.e 2 r.v r.n r.xs
  apt : ∀ (i j : Nat) (r s : GRow), i ≠ j → rows[i]? = some r → rows[j]? = some s → Apt r.v s.v
  low : gb < base
  top : base ≤ W.heap.size
  out : ∀ (i : Nat) (r : GRow) (k : Nat), rows[i]? = some r → r.v.ownBlock = some k → k < lo ∨ hj' ≤ k

/-- it is no row of these types -/
def notRow (E : List TypeId) (o : Obj) : Prop := ∀ cs t m, o = .cells cs t m → t ∉ E
/-- but for the blocks L, and rows of the types E from base on, all that was there is as it was -/
structure Fr (E : List TypeId) (L : List Nat) (base : Nat) (W W' : World) : Prop where
  os : W'.os = W.os
  tape : W'.tape = W.tape
  output : W'.output = W.output
  size : W.heap.size ≤ W'.heap.size
  keep : ∀ (k : Nat) (o : Obj), W.heap[k]? = some o → k ∉ L → (k < base ∨ notRow E o) → W'.heap[k]? = some o
section
variable {E : List TypeId} {L : List Nat} {base : Nat} {W W' W'' : World}
theorem Fr.refl (E : List TypeId) (L : List Nat) (base : Nat) (W : World) : Fr E L base W W := ⟨rfl, rfl, rfl, Nat.le_refl _, fun _ _ h _ _ => h⟩
theorem Fr.trans (h : Fr E L base W W') (k : Fr E L base W' W'') : Fr E L base W W'' :=
  ⟨k.os.trans h.os, k.tape.trans h.tape, k.output.trans h.output, Nat.le_trans h.size k.size, fun i o hi hL hr => k.keep i o (h.keep i o hi hL hr) hL hr⟩
theorem Fr.more {L' : List Nat} (h : Fr E L base W W') (hs : ∀ k ∈ L, k ∈ L') : Fr E L' base W W' := ⟨h.os, h.tape, h.output, h.size, fun i o hi hL hr => h.keep i o hi (fun hk => hL (hs _ hk)) hr⟩
theorem Fr.of_below (h : Below W.heap.size W W') : Fr E L base W W' :=
  ⟨h.os, h.tape, h.output, h.size, fun i _ hi _ _ => (h.block i (Array.getElem?_eq_some_iff.1 hi).1).trans hi⟩
theorem Fr.alloc (h : Fr E L base W W') (o : Obj) : Fr E L base W (W'.alloc o) := h.trans (Fr.of_below ((Below.refl _ _).alloc (Nat.le_refl _) _))
theorem Fr.drew (h : Fr E L base W W') : Fr E L base W W'.drew := h.trans (Fr.of_below (Below.refl _ _).drew)
theorem Fr.but {g : Nat} (h : Fr E L base W W') (hb : But g W' W'') (hg : g ∈ L) : Fr E L base W W'' :=
  h.trans ⟨hb.os, hb.tape, hb.output, hb.size, fun i o hi hL _ => (hb.block i (Array.getElem?_eq_some_iff.1 hi).1 (fun e => hL (by cases e; exact hg))).trans hi⟩
theorem Fr.row {e : TypeId} {s n : Nat} {v : Value} {xs : List Value} (h : Fr E L base W W') (ho : W'.ownsRow base e s v n xs) (he : e ∈ E) (hg : W'.grownBy W'' v.ownBlock) : Fr E L base W W'' := by
  refine h.trans ⟨hg.os, hg.tape, hg.output, hg.size, fun i o hi _ hr => (hg.block i (Array.getElem?_eq_some_iff.1 hi).1 (fun e' => ?_)).trans hi⟩
  rcases ho.2 with ⟨rfl, _⟩ | ⟨g, cap, cur, rfl, hb, hh, _⟩
  · cases e'
  · obtain rfl : i = g := by simpa [Value.ownBlock] using e'
    rw [hh] at hi
    obtain rfl := Option.some.inj hi
    rcases hr with hr | hr
    · omega
    · exact hr _ _ _ rfl he
theorem Fr.blk {k : Nat} {t : TypeId} {cs : Array Value} (h : Fr E L base W W') (hb : Blk W k t cs) (hL : k ∉ L) (ht : t ∉ E) : Blk W' k t cs :=
  h.keep k _ hb hL (.inr (fun cs' t' m' e => by cases e; exact ht))
theorem Fr.below {N : Nat} (h : Fr E L base W W') (hN : N ≤ base) (hL : ∀ k ∈ L, N ≤ k) (hs : N ≤ W.heap.size) : Below N W W' :=
  ⟨h.os, h.tape, h.output, h.size, fun i hi => by
    have hlt : i < W.heap.size := by omega
    exact (h.keep i _ (Array.getElem?_eq_getElem hlt) (fun hk => by have := hL i hk; omega) (.inl (by omega))).trans (Array.getElem?_eq_getElem hlt).symm⟩
end

theorem map_set_v (rows : List GRow) (tl : List Value) (i : Nat) (r' : GRow) (hi : i < rows.length) : (rows.map (·.v) ++ tl).toArray.setIfInBounds i r'.v = ((rows.set i r').map (·.v) ++ tl).toArray := by
  rw [List.setIfInBounds_toArray, List.set_append, if_pos (by simpa using hi), List.map_set]

section
variable {W w1 : World} {t : TypeId} {gb base lo hj' : Nat} {rows : List GRow} {tl : List Value}
theorem gm_but {g : Nat} (h : GMem W t gb base lo hj' rows tl) (hb : But g W w1) (hg : g ≠ gb) (hl : g < base) : GMem w1 t gb base lo hj' rows tl :=
  ⟨hb.blk h.blk (fun e => hg e.symm), fun i r hi => World.ownsRow.kept (h.own i r hi) hb (by
      cases hv : r.v.ownBlock with
      | none => exact .inl rfl
      | some k => exact .inr (fun e => by
          have := ((h.own i r hi).lt k hv).1
          injection e with e; omega)), h.apt, h.low, Nat.le_trans h.top hb.size, h.out⟩
theorem gm_grow (h : GMem W t gb base lo hj' rows tl) (hb : Below W.heap.size W w1) : GMem w1 t gb base lo hj' rows tl :=
  ⟨h.blk.below hb h.blk.lt, fun i r hi => World.ownsRow.kept (row := none) (h.own i r hi) ⟨hb.os, hb.tape, hb.output, hb.size, fun k hk _ => hb.block k hk⟩ (by
      cases hv : r.v.ownBlock with
      | none => exact .inl rfl
      | some k => exact .inr (by simp)), h.apt, h.low, Nat.le_trans h.top hb.size, h.out⟩
/-- a field behind the rows is written -/
theorem gm_tail (h : GMem W t gb base lo hj' rows tl) (i : Nat) (u : Value) : GMem (W.setCell ⟨gb, rows.length + i, none⟩ u) t gb base lo hj' rows (tl.set i u) := by
  refine ⟨?_, fun j r hj => World.ownsRow.kept (h.own j r hj) ((But.refl gb W).set (rows.length + i) u) (by
      cases hv : r.v.ownBlock with
      | none => exact .inl rfl
      | some k => exact .inr (fun e => by
          have := ((h.own j r hj).lt k hv).1
          have := h.low
          injection e with e; omega)), h.apt, h.low, ?_, h.out⟩
  · have := h.blk.set (rows.length + i) u
    rw [List.setIfInBounds_toArray, List.set_append, if_neg (by simp)] at this
    simpa using this
  · have := ((But.refl gb W).set (rows.length + i) u).size
    exact Nat.le_trans h.top this
/-- what an append to row i, stored back, makes of it -/
theorem gm_app (h : GMem W t gb base lo hj' rows tl) {i : Nat} {r : GRow} (hi : rows[i]? = some r) {o : Obj} (hg : (W.alloc o).grownBy w1 r.v.ownBlock) {v' : Value} {n' : Nat} {xs' : List Value} (ho : w1.ownsRow base r.e 2 v' n' xs')
    (hl : v'.ownBlock = r.v.ownBlock ∨ v'.ownBlock = some (W.alloc o).heap.size) (hX : hj' ≤ W.heap.size) :
    Blk w1 gb t (rows.map (·.v) ++ tl).toArray ∧ GMem (w1.setCell ⟨gb, i, none⟩ v') t gb base lo hj' (rows.set i ⟨v', r.e, n', xs'⟩) tl ∧ ∀ (E : List TypeId) (L : List Nat), gb ∈ L → r.e ∈ E → Fr E L base W (w1.setCell ⟨gb, i, none⟩ v') := by
  have hir : i < rows.length := (List.getElem?_eq_some_iff.1 hi).1
  have hr := h.own i r hi
  have hne : some gb ≠ r.v.ownBlock := fun e => by
    have := (hr.lt gb e.symm).1
    have := h.low
    omega
  have hb1 : Blk w1 gb t (rows.map (·.v) ++ tl).toArray := (hg.block gb (h.blk.alloc o).lt hne).trans (h.blk.alloc o)
  have hset := (But.refl gb w1).set i v'
  have kept : ∀ {e : TypeId} {s n : Nat} {v : Value} {xs : List Value}, w1.ownsRow base e s v n xs → (w1.setCell ⟨gb, i, none⟩ v').ownsRow base e s v n xs := fun hh => World.ownsRow.kept hh hset (by
    rename_i e s n v xs
    cases hv : v.ownBlock with
    | none => exact .inl rfl
    | some k => exact .inr (fun e => by
        have := (hh.lt k hv).1
        have := h.low
        injection e with e; omega))
  have hold : ∀ (j : Nat) (s : GRow), i ≠ j → rows[j]? = some s → w1.ownsRow base s.e 2 s.v s.n s.xs := fun j s hij hj =>
    World.ownsRow.kept ((h.own j s hj).alloc o) hg (by
      cases hv : s.v.ownBlock with
      | none => exact .inl rfl
      | some k => exact .inr (fun e => h.apt j i s r (Ne.symm hij) hj hi k hv e.symm))
  have new : ∀ (j : Nat) (s : GRow), i ≠ j → rows[j]? = some s → Apt v' s.v ∧ Apt s.v v' := fun j s hij hj => by
    have h1 := h.apt i j r s hij hi hj
    have h2 := h.apt j i s r (Ne.symm hij) hj hi
    have h3 := (h.own j s hj).lt
    have hsz : (W.alloc o).heap.size = W.heap.size + 1 := by simp
    rcases hl with hl | hl
    · exact ⟨fun k hk => h1 k (hl ▸ hk), fun k hk => by rw [hl]; exact h2 k hk⟩
    · refine ⟨fun k hk hs => ?_, fun k hk hs => ?_⟩
      · have := (h3 k hs).2
        rw [hl] at hk
        injection hk with hk
        omega
      · have := (h3 k hk).2
        rw [hl] at hs
        injection hs with hs
        omega
  refine ⟨hb1, ⟨?_, ?_, ?_, h.low, ?_, ?_⟩, fun E L hL hE => ?_⟩
  · have := hb1.set i v'
    rwa [map_set_v rows tl i ⟨v', r.e, n', xs'⟩ hir] at this
  · intro j s hj
    rw [List.getElem?_set] at hj
    split at hj
    · obtain rfl := Option.some.inj hj
      exact kept ho
    · rename_i hij
      exact kept (hold j s hij hj)
  · intro j k s u hjk hj hk
    rw [List.getElem?_set] at hj hk
    split at hj
    · rename_i hij
      subst hij
      obtain rfl := Option.some.inj hj
      rw [if_neg hjk] at hk
      exact (new k u hjk hk).1
    · rename_i hij
      split at hk
      · rename_i hik
        subst hik
        obtain rfl := Option.some.inj hk
        exact (new j s hij hj).2
      · exact h.apt j k s u hjk hj hk
  · have h1 := hg.size
    have h2 := hset.size
    have h3 := h.top
    simp only [World.size_alloc] at h1
    omega
  · intro j s k hj hk
    rw [List.getElem?_set] at hj
    split at hj
    · obtain rfl := Option.some.inj hj
      rcases hl with hl | hl
      · exact h.out i r k hi (hl ▸ hk)
      · dsimp only at hk
        rw [hl] at hk
        injection hk with hk
        simp only [World.size_alloc] at hk
        exact .inr (by omega)
    · exact h.out j s k hj hk
  · exact (((Fr.refl E L base W).alloc o).row ((h.own i r hi).alloc o) hE hg).but hset hL
end
end Go.Proofs.YtdmcidljjfogjaaDoor

/- A loop over an iterator that keeps cells of its own between two rounds (one block, made when it is called): a law for that. B: the heap's size where the loop begins; the block for deferred calls is B, the loop's record B + 1, the iterator's own block B + 2. -/
namespace Go.Proofs.YtdmcidljjfogjaaDoor
open Go.RowKit

/-- these blocks lie as they lay -/
def Kept (L : List Nat) (W W' : World) : Prop := ∀ k ∈ L, W'.heap[k]? = W.heap[k]?
theorem Kept.refl (L : List Nat) (W : World) : Kept L W W := fun _ _ => rfl
theorem Kept.trans {L : List Nat} {A B C : World} (h : Kept L A B) (k : Kept L B C) : Kept L A C := fun i hi => (k i hi).trans (h i hi)
theorem Kept.sub {L M : List Nat} {A B : World} (h : Kept L A B) (hs : ∀ k ∈ M, k ∈ L) : Kept M A B := fun i hi => h i (hs i hi)
theorem Kept.put {L : List Nat} (W : World) {l : Nat} (o : Obj) (h : l ∉ L) : Kept L W (W.putObj l o) := fun _ hk => World.putObj_heap_other (fun e => h (e ▸ hk))
/-- turning one of the three blocks from B on, or making new ones, does it no harm -/
def Firm {β : Type} (B : Nat) (I : β → World → Prop) : Prop := ∀ r, B ≤ r → r < B + 3 → ∀ s W W', I s W → But r W W' → I s W'
theorem but_put (W : World) (l : Nat) (o : Obj) : But l W (W.putObj l o) := grownBy_putObj' W l o
theorem but_alloc (W : World) (r : Nat) (o : Obj) : But r W (W.alloc o) := But.of_below ((Below.refl _ W).alloc (Nat.le_refl _) o)

section
variable {F : Fence} {n : Nat} {P : Program}

/-- what such an iterator does, called where the heap's size is B + 2 -/
def SeqE {α : Type} (F : Fence) (n : Nat) (P : Program) (g : Nat) (lb : Array Value) (encs : α → Array Value) (L : List Nat) (S Sp : List α → Prop) (Ei : Obj → Prop) (B : Nat) (W1 : World) : Prop :=
  ∀ (l : Nat) (J Jx : List α → World → Prop), (∀ s W W', J s W → But (B + 2) W W' → J s W') → (∀ s W W', Jx s W → But (B + 2) W W' → Jx s W') →
    (∀ pre x W, J pre W → Sp (pre ++ [x]) → (∃ o, W.heap[B + 2]? = some o ∧ Ei o) → YieldAt F (n - 1) P l (encs x) W fun e W' =>
      (e = .returned (.bool true) ∧ J (pre ++ [x]) W' ∧ Kept ((B + 2) :: L) W W') ∨ (e = .returned (.bool false) ∧ Jx (pre ++ [x]) W')) →
    J [] W1 →
    CallsIn F n P g (#[.func (.yield l) #[] #[]] ++ lb) W1 fun e W' => (∃ v, e = .returned v) ∧ ((∃ xs, S xs ∧ J xs W') ∨ (∃ pre, Sp pre ∧ Jx pre W'))

/-- how the body of a round may be left -/
def postE {α : Type} (B : Nat) (L : List Nat) (I : List α → World → Prop) (Ix : Code → List α → World → Prop) (xs : List α) (W : World) : Exit → Act → World → Prop
  | .normal, _, W' => Kept (B :: (B + 1) :: (B + 2) :: L) W W' ∧ I xs W'
  | .ret, _, W' => Kept (B :: (B + 1) :: (B + 2) :: L) W W' ∧ Ix .ret xs W'
  | .exit id, _, W' => Kept (B :: (B + 1) :: (B + 2) :: L) W W' ∧ Ix (.exit id) xs W'
  | .goto t, _, W' => Kept (B :: (B + 1) :: (B + 2) :: L) W W' ∧ Ix (.goto t) xs W'
  | .panic _, _, _ => False
  | .outgrown, _, _ => False

theorem wpIn_rangeFuncE {α : Type} {g : Operand} {ps : Array Tmp} {assign body : Code} {Q : Exit → Act → World → Prop} {a : Act} {w : World}
    (hro : F.round = none) (h1 : 1 ≤ n) {gf : Nat} {lb : Array Value} (hg : a.eval g = .func (.func gf) #[] lb) (hFg : F.fn gf) (eg : ∀ args w, (callFunc gf args).run P w = .ok (.enter gf args) w)
    {encs : α → Array Value} {L : List Nat} {S Sp : List α → Prop} {Ei : Obj → Prop} (B : Nat) (hB : w.heap.size = B) (hL : ∀ k ∈ L, k < B)
    (hseq : ∀ W1 : World, W1.heap.size = B + 2 → Below B w W1 → SeqE F (n - 1) P gf lb encs L S Sp Ei B W1) (hps : ∀ x, (encs x).size = ps.size)
    (I : List α → World → Prop) (Ix : Code → List α → World → Prop) (hI : Firm B I) (hIx : ∀ c, Firm B (Ix c)) (h0 : I [] w) (Ax : α → Act → World → Prop) (hAx : ∀ x a', Firm B (fun (_ : Unit) W => Ax x a' W))
    (hassign : ∀ (l : Nat) (pre : List α) (x : α) (W : World) (K : Act → World → Prop), I pre W → B + 3 ≤ W.heap.size → (∀ a' W', Kept (B :: (B + 1) :: (B + 2) :: L) W W' → I pre W' → Ax x a' W' → K a' W') →
      assign.wpIn (F.inRound l) (n - 1 - 1) P (Exit.then K (fun _ _ _ => False)) { tmps := (ps.zip (encs x)).foldl (fun t (p, v) => t.setIfInBounds p v) a.tmps, defers := [] } W)
    (hbody : ∀ (l : Nat) (pre : List α) (x : α) (a' : Act) (W : World), I pre W → Ax x a' W → Sp (pre ++ [x]) → W.heap[B]? = some (.deferred (some [])) → (∃ r, W.heap[B + 1]? = some (.loop r)) → (∃ o, W.heap[B + 2]? = some o ∧ Ei o) → body.wpIn (F.inRound l) (n - 1 - 1) P (postE B L I Ix (pre ++ [x]) W) a' W)
    (hdone : ∀ (xs : List α) (W : World), S xs → I xs W → W.heap[B]? = some (.deferred (some [])) → Q .normal { a with defers := { target := .collected B, args := #[] } :: a.defers } W)
    (hstop : ∀ (c : Code) (pre : List α) (W : World), Sp pre → Ix c pre W → W.heap[B]? = some (.deferred (some [])) → c.wpIn F n P Q { a with defers := { target := .collected B, args := #[] } :: a.defers } W) :
    (Code.rangeFunc g ps assign body).wpIn F n P Q a w := by
  subst hB
  refine wpIn_rangeFunc ?_
  intro fn hfn
  rw [hro]
  -- the loop's record, by its state and its pending jump
  obtain ⟨rc, hrc⟩ : ∃ rc : LoopState → Option Code → Loop, rc = fun st pe => { state := st, pending := pe, fn, tmps := a.tmps, params := ps, assign, body, defers := w.heap.size } := ⟨_, rfl⟩
  obtain ⟨W1, hW1⟩ : ∃ W1, (w.alloc (.deferred (some []))).alloc (.loop (rc .ready none)) = W1 := ⟨_, rfl⟩
  have hsz1 : W1.heap.size = w.heap.size + 2 := by rw [← hW1]; simp
  have hL1 : W1.heap[w.heap.size + 1]? = some (.loop (rc .ready none)) := by
    rw [← hW1]; have := World.alloc_heap_new (w.alloc (.deferred (some []))) (.loop (rc .ready none)); rwa [World.size_alloc] at this
  have hK1 : W1.heap[w.heap.size]? = some (.deferred (some [])) := by
    rw [← hW1]; exact (Below.heap_alloc _ _ _ (by simp)).trans (World.alloc_heap_new w _)
  have hI1 : I [] W1 := by
    rw [← hW1]
    exact hI w.heap.size (Nat.le_refl _) (by omega) _ _ _ (hI w.heap.size (Nat.le_refl _) (by omega) _ _ _ h0 (but_alloc _ _ _)) (but_alloc _ _ _)
  have hb1 : Below w.heap.size w W1 := by rw [← hW1]; exact ((Below.refl _ w).alloc (Nat.le_refl _) _).alloc (by simp) _
  refine ⟨w.heap.size + 1, [{ target := .collected w.heap.size, args := #[] }], W1, { target := .fn (.func gf) lb, args := #[.func (.yield (w.heap.size + 1)) #[] #[]] }, W1, gf,
    #[.func (.yield (w.heap.size + 1)) #[] #[]] ++ lb, W1, ?_, ?_, ?_, ?_, fun _ => h1, ?_⟩
  · rw [← hW1, hrc]; exact run_enterLoop_outer _ _ _ _ _
  · simp only [resolve, hg]
    simp [go_sem]
  · intro f' hf'; simp [Target.leads] at hf'; subst hf'; exact hFg
  · simp [invoke, go_sem, eg]
  have hblk : ∀ (A C : World) (k : Nat) (o : Obj), But (w.heap.size + 2) A C → k ≠ w.heap.size + 2 → A.heap[k]? = some o → C.heap[k]? = some o := fun A C k o hb hk h =>
    (hb.block k (Array.getElem?_eq_some_iff.1 h).1 (fun e => hk (by cases e; rfl))).trans h
  refine (hseq W1 hsz1 hb1 (w.heap.size + 1)
    (fun pre W => I pre W ∧ W.heap[w.heap.size + 1]? = some (.loop (rc .ready none)) ∧ W.heap[w.heap.size]? = some (.deferred (some [])))
    (fun pre W => ∃ c, Ix c pre W ∧ W.heap[w.heap.size + 1]? = some (.loop (rc .done (some c))) ∧ W.heap[w.heap.size]? = some (.deferred (some [])))
    (fun s A C hs hb => ⟨hI (w.heap.size + 2) (by omega) (by omega) s A C hs.1 hb, hblk A C _ _ hb (by omega) hs.2.1, hblk A C _ _ hb (by omega) hs.2.2⟩)
    (fun s A C hs hb => by
      obtain ⟨c, hc, hl, hk⟩ := hs
      exact ⟨c, hIx c (w.heap.size + 2) (by omega) (by omega) s A C hc hb, hblk A C _ _ hb (by omega) hl, hblk A C _ _ hb (by omega) hk⟩)
    ?_ ⟨hI1, hL1, hK1⟩).mono ?_
  · -- one round
    rintro pre x W ⟨hi, hl, hk⟩ hlen hz3
    have hy := run_yield (P := P) (args := encs x) hl (by rw [hrc]; exact hps x)
    rw [hrc] at hy
    refine ⟨fn, _, assign, body, hy, roundIn_of_wpIn hfn (hassign _ pre x W _ hi (by obtain ⟨o, ho, _⟩ := hz3; have := (Array.getElem?_eq_some_iff.1 ho).1; omega) ?_)⟩
    clear hy
    intro a' Wa hka hia hax
    have hla : Wa.heap[w.heap.size + 1]? = some (.loop (rc .ready none)) := (hka _ (by simp)).trans hl
    have hkk : Wa.heap[w.heap.size]? = some (.deferred (some [])) := (hka _ (by simp)).trans hk
    have hlt : w.heap.size + 1 < Wa.heap.size := (Array.getElem?_eq_some_iff.1 hla).1
    refine ⟨_, run_beginRound hla (by rw [hrc]), ?_⟩
    have hnot : w.heap.size + 1 ∉ (w.heap.size + 2) :: L := by
      intro h
      rcases List.mem_cons.1 h with e | e
      · omega
      · have := hL _ e; omega
    have hl2 : (Wa.putObj (w.heap.size + 1) (.loop { rc .ready none with state := .busy })).heap[w.heap.size + 1]? = some (.loop { rc .ready none with state := .busy }) := World.putObj_heap_same hlt
    have hk2 : (Wa.putObj (w.heap.size + 1) (.loop { rc .ready none with state := .busy })).heap[w.heap.size]? = some (.deferred (some [])) := (World.putObj_heap_other (by omega)).trans hkk
    have hz5 : ∃ o, (Wa.putObj (w.heap.size + 1) (.loop { rc .ready none with state := .busy })).heap[w.heap.size + 2]? = some o ∧ Ei o := by
      obtain ⟨o, ho, he⟩ := hz3
      exact ⟨o, (World.putObj_heap_other (by omega)).trans ((hka _ (by simp)).trans ho), he⟩
    have kp1 : Kept ((w.heap.size + 2) :: L) W (Wa.putObj (w.heap.size + 1) (.loop { rc .ready none with state := .busy })) := (hka.sub (by simp; intro _ hk; exact .inr (.inr (.inr hk)))).trans (Kept.put _ _ hnot)
    refine wpIn_mono (hbody _ pre x a' _ (hI (w.heap.size + 1) (by omega) (by omega) _ _ _ hia (but_put _ _ _)) (hAx x a' (w.heap.size + 1) (by omega) (by omega) () _ _ hax (but_put _ _ _)) hlen hk2 ⟨_, hl2⟩ hz5) ?_
    have fin : ∀ (jump : Option Code) (W3 : World), Kept (w.heap.size :: (w.heap.size + 1) :: (w.heap.size + 2) :: L) (Wa.putObj (w.heap.size + 1) (.loop { rc .ready none with state := .busy })) W3 →
        (Instr.endRound (w.heap.size + 1) jump).run P W3 = .ok (.bool jump.isNone) (W3.putObj (w.heap.size + 1) (.loop (rc (if jump.isNone then .ready else .done) jump))) ∧
        (W3.putObj (w.heap.size + 1) (.loop (rc (if jump.isNone then .ready else .done) jump))).heap[w.heap.size + 1]? = some (.loop (rc (if jump.isNone then .ready else .done) jump)) ∧
        (W3.putObj (w.heap.size + 1) (.loop (rc (if jump.isNone then .ready else .done) jump))).heap[w.heap.size]? = some (.deferred (some [])) := fun jump W3 hk3 => by
      have hl3 := (hk3 (w.heap.size + 1) (by simp)).trans hl2
      have := run_endRound (P := P) jump hl3
      rw [hrc] at this ⊢
      exact ⟨this, World.putObj_heap_same (Array.getElem?_eq_some_iff.1 hl3).1, (World.putObj_heap_other (by omega)).trans ((hk3 w.heap.size (by simp)).trans hk2)⟩
    rintro e a3 W3 hp
    cases e with
    | normal =>
      obtain ⟨hk3, hi3⟩ := hp
      obtain ⟨hr, hl4, hk4⟩ := fin none W3 hk3
      exact ⟨_, _, hr, .inl ⟨rfl, ⟨hI (w.heap.size + 1) (by omega) (by omega) _ _ _ hi3 (but_put _ _ _), hl4, hk4⟩, (kp1.trans (hk3.sub (by simp; intro _ hk; exact .inr (.inr (.inr hk))))).trans (Kept.put _ _ hnot)⟩⟩
    | ret =>
      obtain ⟨hk3, hi3⟩ := hp
      obtain ⟨hr, hl4, hk4⟩ := fin (some .ret) W3 hk3
      exact ⟨_, _, hr, .inr ⟨rfl, .ret, hIx _ (w.heap.size + 1) (by omega) (by omega) _ _ _ hi3 (but_put _ _ _), hl4, hk4⟩⟩
    | exit id =>
      obtain ⟨hk3, hi3⟩ := hp
      obtain ⟨hr, hl4, hk4⟩ := fin (some (.exit id)) W3 hk3
      exact ⟨_, _, hr, .inr ⟨rfl, .exit id, hIx _ (w.heap.size + 1) (by omega) (by omega) _ _ _ hi3 (but_put _ _ _), hl4, hk4⟩⟩
    | goto t =>
      obtain ⟨hk3, hi3⟩ := hp
      obtain ⟨hr, hl4, hk4⟩ := fin (some (.goto t)) W3 hk3
      exact ⟨_, _, hr, .inr ⟨rfl, .goto t, hIx _ (w.heap.size + 1) (by omega) (by omega) _ _ _ hi3 (but_put _ _ _), hl4, hk4⟩⟩
    | panic ch => exact hp.elim
    | outgrown => exact hp.elim
  · -- behind the iterator
    rintro e W2 ⟨⟨v, rfl⟩, (⟨xs, hS, hi, hl, hk⟩ | ⟨pre, hSp, c, hi, hl, hk⟩)⟩
    · exact ⟨none, _, by have := run_endLoop (P := P) hl (by rw [hrc]; simp); rw [hrc] at this; exact this, hdone xs _ hS (hI (w.heap.size + 1) (by omega) (by omega) _ _ _ hi (but_put _ _ _)) ((World.putObj_heap_other (by omega)).trans hk)⟩
    · exact ⟨some c, _, by have := run_endLoop (P := P) hl (by rw [hrc]; simp); rw [hrc] at this; exact this, hstop c pre _ hSp (hIx c (w.heap.size + 1) (by omega) (by omega) _ _ _ hi (but_put _ _ _)) ((World.putObj_heap_other (by omega)).trans hk)⟩
end
end Go.Proofs.YtdmcidljjfogjaaDoor

/- Layer 5: the texts, byte by byte, as the program and as the document read them; what comes of their entries. No program in it. -/
namespace Go.Proofs.YtdmcidljjfogjaaDoor

/-! ### entries, as the program reads them -/
structure Ent where
  n0 : Nat
  n1 : Nat
  n2 : Nat
  l : Nat
  o : Bool
def zeroE : Ent := ⟨0, 0, 0, 0, false⟩
def Ent.isZ (e : Ent) : Bool := Nat.beq e.n0 0 && (Nat.beq e.n1 0 && (Nat.beq e.n2 0 && (Nat.beq e.l 0 && !e.o)))
theorem isZ_iff {e : Ent} : e.isZ = true ↔ e = zeroE := by
  constructor
  · intro h
    obtain ⟨a, b, c, l, o⟩ := e
    simp only [Ent.isZ, Bool.and_eq_true, Nat.beq_eq, Bool.not_eq_true'] at h
    obtain ⟨rfl, rfl, rfl, rfl, rfl⟩ := h
    rfl
  · rintro rfl; rfl
def Ent.nth (e : Ent) : Nat → Nat
  | 0 => e.n0
  | 1 => e.n1
  | _ => e.n2
def Ent.put (e : Ent) (i v : Nat) : Ent := match i with
  | 0 => ⟨v, e.n1, e.n2, e.l, e.o⟩
  | 1 => ⟨e.n0, v, e.n2, e.l, e.o⟩
  | _ => ⟨e.n0, e.n1, v, e.l, e.o⟩
/-- what a digit counts -/
def dgt (b : Nat) : Nat := bif Nat.ble 97 b then b - 97 + 10 else b - 48
def isSep (b : Nat) : Bool := Nat.beq b 44 || Nat.beq b 10
def estep (e : Ent) (b : Nat) : Ent :=
  bif isSep b then zeroE else bif Nat.beq b 32 then ⟨e.n0, e.n1, e.n2, e.l + 1, e.o⟩ else bif Nat.beq b 33 then ⟨e.n0, e.n1, e.n2, e.l, true⟩ else e.put e.l (16 * e.nth e.l + dgt b)
/-- what is begun behind these bytes -/
def cur (bs : List Nat) (e : Ent) : Ent := bs.foldl estep e
/-- what has ended in these bytes -/
def ems : List Nat → Ent → List Ent
  | [], _ => []
  | b :: r, e => bif isSep b then e :: ems r zeroE else ems r (estep e b)
theorem ems_snoc (b : Nat) : ∀ (p : List Nat) (e : Ent), ems (p ++ [b]) e = ems p e ++ (bif isSep b then [cur p e] else [])
  | [], e => by
    show (bif isSep b then e :: ems [] zeroE else ems [] (estep e b)) = _
    cases isSep b <;> rfl
  | x :: r, e => by
    show (bif isSep x then e :: ems (r ++ [b]) zeroE else ems (r ++ [b]) (estep e x)) = (bif isSep x then e :: ems r zeroE else ems r (estep e x)) ++ _
    cases h : isSep x
    · simp only [cond_false]
      rw [ems_snoc b r (estep e x)]; rfl
    · simp only [cond_true]
      rw [ems_snoc b r zeroE]
      have : cur (x :: r) e = cur r zeroE := by
        show cur r (estep e x) = _
        unfold estep; rw [h]; rfl
      rw [this]; rfl
theorem cur_snoc (b : Nat) (p : List Nat) (e : Ent) : cur (p ++ [b]) e = estep (cur p e) b := by unfold cur; rw [List.foldl_append]; rfl
theorem estep_l (e : Ent) (b : Nat) : (estep e b).l ≤ e.l + 1 := by
  unfold estep
  cases isSep b
  · cases Nat.beq b 32
    · cases Nat.beq b 33
      · simp only [cond_false]
        unfold Ent.put
        split <;> simp
      · simp
    · simp
  · simp [zeroE]
theorem cur_l : ∀ (p : List Nat) (e : Ent), (cur p e).l ≤ e.l + p.length
  | [], e => Nat.le_refl _
  | b :: r, e => by
    have h1 := cur_l r (estep e b)
    have h2 := estep_l e b
    show (cur r (estep e b)).l ≤ _
    simp only [List.length_cons]
    omega
theorem ems_app (q : List Nat) : ∀ (p : List Nat) (e : Ent), ems (p ++ q) e = ems p e ++ ems q (cur p e)
  | [], _ => rfl
  | x :: r, e => by
    show (bif isSep x then e :: ems (r ++ q) zeroE else ems (r ++ q) (estep e x)) = (bif isSep x then e :: ems r zeroE else ems r (estep e x)) ++ _
    cases h : isSep x
    · simp only [cond_false]
      rw [ems_app q r (estep e x)]; rfl
    · simp only [cond_true]
      rw [ems_app q r zeroE]
      have : cur (x :: r) e = cur r zeroE := by
        show cur r (estep e x) = _
        unfold estep; rw [h]; rfl
      rw [this]; rfl
/-- all that the iterator tells -/
def ents (bs : List Nat) : List Ent := ems bs zeroE ++ [cur bs zeroE]

theorem ems_take_pre (bs : List Nat) (k : Nat) : ems (bs.take k) zeroE <+: ems bs zeroE := by
  have := ems_app (bs.drop k) (bs.take k) zeroE
  rw [List.take_append_drop] at this
  exact ⟨_, this.symm⟩
theorem ems_pre (bs : List Nat) (k : Nat) : ems (bs.take k) zeroE <+: ents bs := (ems_take_pre bs k).trans ⟨_, rfl⟩
theorem ems_lt (bs : List Nat) (k : Nat) : (ems (bs.take k) zeroE).length < (ents bs).length := by
  have := (ems_take_pre bs k).length_le
  unfold ents
  rw [List.length_append]
  simp only [List.length_cons, List.length_nil]
  omega
def isDig (b : Nat) : Bool := (Nat.ble 48 b && Nat.ble b 57) || (Nat.ble 97 b && Nat.ble b 102)
/-- this byte can be taken -/
def okE (e : Ent) (b : Nat) : Bool := isSep b || (Nat.beq b 32 || (Nat.beq b 33 || (Nat.ble e.l 2 && (isDig b && Nat.ble (e.nth e.l) 100000000))))
def okAll : List Nat → Ent → Bool
  | [], _ => true
  | b :: r, e => okE e b && okAll r (estep e b)
theorem okAll_at : ∀ (bs : List Nat) (e : Ent), okAll bs e = true → ∀ k, k < bs.length → okE (cur (bs.take k) e) (bs.getD k 0) = true
  | [], _, _, k, hk => by simp at hk
  | b :: r, e, h, 0, _ => by
    simp only [okAll, Bool.and_eq_true] at h
    exact h.1
  | b :: r, e, h, k + 1, hk => by
    simp only [okAll, Bool.and_eq_true] at h
    exact okAll_at r (estep e b) h.2 k (by simpa using hk)

/-! ### rows, as the document reads them -/
structure RSt where
  n : Nat
  i : Bool
  row : List Int
def rdig (b : Nat) : Bool := isDig b
/-- the row behind this byte, which is no digit: before it is laid down -/
def rrow (s : RSt) (b : Nat) : List Int := (bif s.i then s.row ++ [(s.n : Int)] else s.row) ++ (bif Nat.beq b 33 then [-1] else [])
def rlays (s : RSt) (b : Nat) : Bool := isSep b && !(rrow s b).isEmpty
def rstep5 (s : RSt) (b : Nat) : RSt := bif rdig b then ⟨16 * s.n + dgt b, true, s.row⟩ else ⟨0, false, bif rlays s b then [] else rrow s b⟩
def rcur (bs : List Nat) (s : RSt) : RSt := bs.foldl rstep5 s
def rems : List Nat → RSt → List (List Int)
  | [], _ => []
  | b :: r, s => bif !rdig b && rlays s b then rrow s b :: rems r (rstep5 s b) else rems r (rstep5 s b)
theorem rcur_snoc (b : Nat) (p : List Nat) (s : RSt) : rcur (p ++ [b]) s = rstep5 (rcur p s) b := by unfold rcur; rw [List.foldl_append]; rfl
theorem rems_snoc (b : Nat) : ∀ (p : List Nat) (s : RSt), rems (p ++ [b]) s = rems p s ++ (bif !rdig b && rlays (rcur p s) b then [rrow (rcur p s) b] else [])
  | [], s => by
    show (bif !rdig b && rlays s b then rrow s b :: rems [] (rstep5 s b) else rems [] (rstep5 s b)) = [] ++ (bif !rdig b && rlays s b then [rrow s b] else [])
    cases (!rdig b && rlays s b) <;> rfl
  | x :: r, s => by
    show (bif !rdig x && rlays s x then rrow s x :: rems (r ++ [b]) (rstep5 s x) else rems (r ++ [b]) (rstep5 s x)) = (bif !rdig x && rlays s x then rrow s x :: rems r (rstep5 s x) else rems r (rstep5 s x)) ++ (bif !rdig b && rlays (rcur r (rstep5 s x)) b then [rrow (rcur r (rstep5 s x)) b] else [])
    rw [rems_snoc b r (rstep5 s x)]
    cases (!rdig x && rlays s x) <;> rfl
def rzero : RSt := ⟨0, false, []⟩
/-- the rows of a text: a byte of 10 behind it -/
def rowsOf (bs : List Nat) : List (List Int) := rems (bs ++ [10]) rzero
/-- numbers stay small -/
def rokE (s : RSt) (b : Nat) : Bool := !rdig b || Nat.ble s.n 100000000
def rokAll : List Nat → RSt → Bool
  | [], _ => true
  | b :: r, s => rokE s b && rokAll r (rstep5 s b)
theorem rokAll_at : ∀ (bs : List Nat) (s : RSt), rokAll bs s = true → ∀ k, k < bs.length → rokE (rcur (bs.take k) s) (bs.getD k 0) = true
  | [], _, _, k, hk => by simp at hk
  | b :: r, s, h, 0, _ => by
    simp only [rokAll, Bool.and_eq_true] at h
    exact h.1
  | b :: r, s, h, k + 1, hk => by
    simp only [rokAll, Bool.and_eq_true] at h
    exact rokAll_at r (rstep5 s b) h.2 k (by simpa using hk)
def eqI : Int → Int → Bool
  | .ofNat a, .ofNat b => Nat.beq a b
  | .negSucc a, .negSucc b => Nat.beq a b
  | _, _ => false
theorem eqI_eq {a b : Int} (h : eqI a b = true) : a = b := by
  cases a <;> cases b <;> simp_all [eqI]
def eqR : List Int → List Int → Bool
  | [], [] => true
  | a :: r, b :: s => eqI a b && eqR r s
  | _, _ => false
theorem eqR_eq : ∀ {a b : List Int}, eqR a b = true → a = b
  | [], [], _ => rfl
  | [], _ :: _, h => by cases h
  | _ :: _, [], h => by cases h
  | a :: r, b :: s, h => by
    simp only [eqR, Bool.and_eq_true] at h
    rw [eqI_eq h.1, eqR_eq h.2]
def eqL : List (List Int) → List (List Int) → Bool
  | [], [] => true
  | a :: r, b :: s => eqR a b && eqL r s
  | _, _ => false
theorem eqL_eq : ∀ {a b : List (List Int)}, eqL a b = true → a = b
  | [], [], _ => rfl
  | [], _ :: _, h => by cases h
  | _ :: _, [], h => by cases h
  | a :: r, b :: s, h => by
    simp only [eqL, Bool.and_eq_true] at h
    rw [eqR_eq h.1, eqL_eq h.2]
def row3 (e : Ent) : List Int := [(e.n0 : Int), (e.n1 : Int), (e.n2 : Int)]
def row4 (e : Ent) : List Int := bif e.o then [(e.n0 : Int), (e.n1 : Int), (e.n2 : Int), -1] else [(e.n0 : Int), (e.n1 : Int), (e.n2 : Int)]
def row2 (e : Ent) : List Int := [(e.n0 : Int), (e.n1 : Int)]
end Go.Proofs.YtdmcidljjfogjaaDoor

/- ucd.digit and the document's digit by contracts. -/
namespace Go.Proofs.YtdmcidljjfogjaaDoor
open Go.ChangeShapes Go.WideShapes Go.ChangeAt Go.RowKit
set_option linter.unusedVariables false

theorem isDig_iff {b : Nat} : isDig b = true ↔ (48 ≤ b ∧ b ≤ 57) ∨ (97 ≤ b ∧ b ≤ 102) := by
  simp [isDig, Nat.ble_eq]
theorem dgt_lo {b : Nat} (h : b ≤ 57) : dgt b = b - 48 := by
  have : Nat.ble 97 b = false := by rw [Bool.eq_false_iff]; simp [Nat.ble_eq]; omega
  unfold dgt; rw [this]; rfl
theorem dgt_hi {b : Nat} (h : 97 ≤ b) : dgt b = b - 97 + 10 := by
  have : Nat.ble 97 b = true := by simpa [Nat.ble_eq] using h
  unfold dgt; rw [this]; rfl
theorem dgt_lt {b : Nat} (h : isDig b = true) : dgt b < 16 := by
  rcases isDig_iff.1 h with ⟨h1, h2⟩ | ⟨h1, h2⟩
  · rw [dgt_lo h2]; omega
  · rw [dgt_hi h1]; omega

theorem udigit_any (b : Nat) (w : World) (h : isDig b = true) : Calls Tryd.prog 48 #[.int .u8 b] w fun e w' => e = .returned (.int .i32 (dgt b)) ∧ w = w' := by
  rcases isDig_iff.1 h with ⟨h1, h2⟩ | ⟨h1, h2⟩
  · have e : ((dgt b : Nat) : Int) = (b : Int) - 48 := by rw [dgt_lo h2]; omega
    rw [e]; clear e h
    have g1 : (48 : Int) ≤ b := by omega
    have g2 : (b : Int) ≤ 57 := by omega
    clear h1 h2
    go_enter Tryd.func48, Tryd.ntmps48
    go_wp2
    go_ret
    exact ⟨rfl, rfl⟩
  · have e : ((dgt b : Nat) : Int) = (b : Int) - 97 + 10 := by rw [dgt_hi h1]; omega
    rw [e]; clear e h
    have g1 : (97 : Int) ≤ b := by omega
    have g2 : (b : Int) ≤ 102 := by omega
    clear h1 h2
    go_enter Tryd.func48, Tryd.ntmps48
    go_wp2
    go_ret
    exact ⟨rfl, rfl⟩
end Go.Proofs.YtdmcidljjfogjaaDoor

/- The string constants of a piece of code, in their order. -/
namespace Go.Proofs.YtdmcidljjfogjaaDoor
def textOf : Operand → List ByteArray
  | .const (.string s) => [s]
  | _ => []
def textsOp : Op → List ByteArray
  | .build _ ps => ps.toList.flatMap fun p => textOf p.2
  | .call c => c.args.toList.flatMap textOf
  | _ => []
def textsOf : Nat → Code → List ByteArray
  | 0, _ => []
  | n + 1, .seq a b => textsOf n a ++ textsOf n b
  | _ + 1, .region _ ops _ => ops.toList.flatMap fun o => textsOp o.op
  | n + 1, .cond _ a b => textsOf n a ++ textsOf n b
  | n + 1, .loop a => textsOf n a
  | n + 1, .block _ a => textsOf n a
  | _, _ => []
def bytesOf (s : ByteArray) : List Nat := s.data.toList.map UInt8.toNat
theorem bytesOf_len (s : ByteArray) : (bytesOf s).length = s.size := by simp [bytesOf]
theorem bytesOf_at (s : ByteArray) (k : Nat) (h : k < s.size) : (bytesOf s).getD k 0 = s[k].toNat := by
  have h' : k < s.data.toList.length := by simpa using h
  rw [bytesOf, List.getD_eq_getElem?_getD, List.getElem?_map, List.getElem?_eq_getElem h']
  rfl
end Go.Proofs.YtdmcidljjfogjaaDoor
