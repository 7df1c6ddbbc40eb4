/- A struct whose first fields are rows of the call's own (elements of two cells each), in memory: what stays, what an append to one of them makes of it. No program in it. -/
import Derived.Test.YtmphfdnpnhlpjaaMem
import Derived.Laws.AppendOwn
namespace Go.Proofs.Ytmphfdnpnhlpjaa
open Go.RowKit

structure GRow where
  v : Value
  e : TypeId
  n : Nat
  xs : List Value
/-- no block is the own one of both -/
def Apt (a b : Value) : Prop := ∀ k, a.ownBlock = some k → b.ownBlock ≠ some k
structure GMem (W : World) (t : TypeId) (gb base lo hj' : Nat) (rows : List GRow) (tl : List Value) : Prop where
  blk : Blk W gb t (rows.map (·.v) ++ tl).toArray
  own : ∀ (i : Nat) (r : GRow), rows[i]? = some r → W.ownsRow base r.e 2 r.v r.n r.xs
  apt : ∀ (i j : Nat) (r s : GRow), i ≠ j → rows[i]? = some r → rows[j]? = some s → Apt r.v s.v
  low : gb < base
  top : base ≤ W.heap.size
  out : ∀ (i : Nat) (r : GRow) (k : Nat), rows[i]? = some r → r.v.ownBlock = some k → k < lo ∨ hj' ≤ k

/-- it is no row of these types -/
def notRow (E : List TypeId) (o : Obj) : Prop := ∀ cs t m, o = .cells cs t m → t ∉ E
/-- but for the blocks L, and rows of the types E from base on, all that was there is as it was -/
structure Fr (E : List TypeId) (L : List Nat) (base : Nat) (W W' : World) : Prop where
  os : W'.os = W.os
  tape : W'.tape = W.tape
  output : W'.output = W.output
  size : W.heap.size ≤ W'.heap.size
  keep : ∀ (k : Nat) (o : Obj), W.heap[k]? = some o → k ∉ L → (k < base ∨ notRow E o) → W'.heap[k]? = some o
section
variable {E : List TypeId} {L : List Nat} {base : Nat} {W W' W'' : World}
theorem Fr.refl (E : List TypeId) (L : List Nat) (base : Nat) (W : World) : Fr E L base W W := ⟨rfl, rfl, rfl, Nat.le_refl _, fun _ _ h _ _ => h⟩
theorem Fr.trans (h : Fr E L base W W') (k : Fr E L base W' W'') : Fr E L base W W'' :=
  ⟨k.os.trans h.os, k.tape.trans h.tape, k.output.trans h.output, Nat.le_trans h.size k.size, fun i o hi hL hr => k.keep i o (h.keep i o hi hL hr) hL hr⟩
theorem Fr.more {L' : List Nat} (h : Fr E L base W W') (hs : ∀ k ∈ L, k ∈ L') : Fr E L' base W W' := ⟨h.os, h.tape, h.output, h.size, fun i o hi hL hr => h.keep i o hi (fun hk => hL (hs _ hk)) hr⟩
theorem Fr.of_below (h : Below W.heap.size W W') : Fr E L base W W' :=
  ⟨h.os, h.tape, h.output, h.size, fun i _ hi _ _ => (h.block i (Array.getElem?_eq_some_iff.1 hi).1).trans hi⟩
theorem Fr.alloc (h : Fr E L base W W') (o : Obj) : Fr E L base W (W'.alloc o) := h.trans (Fr.of_below ((Below.refl _ _).alloc (Nat.le_refl _) _))
theorem Fr.drew (h : Fr E L base W W') : Fr E L base W W'.drew := h.trans (Fr.of_below (Below.refl _ _).drew)
theorem Fr.but {g : Nat} (h : Fr E L base W W') (hb : But g W' W'') (hg : g ∈ L) : Fr E L base W W'' :=
  h.trans ⟨hb.os, hb.tape, hb.output, hb.size, fun i o hi hL _ => (hb.block i (Array.getElem?_eq_some_iff.1 hi).1 (fun e => hL (by cases e; exact hg))).trans hi⟩
theorem Fr.row {e : TypeId} {s n : Nat} {v : Value} {xs : List Value} (h : Fr E L base W W') (ho : W'.ownsRow base e s v n xs) (he : e ∈ E) (hg : W'.grownBy W'' v.ownBlock) : Fr E L base W W'' := by
  refine h.trans ⟨hg.os, hg.tape, hg.output, hg.size, fun i o hi _ hr => (hg.block i (Array.getElem?_eq_some_iff.1 hi).1 (fun e' => ?_)).trans hi⟩
  rcases ho.2 with ⟨rfl, _⟩ | ⟨g, cap, cur, rfl, hb, hh, _⟩
  · cases e'
  · obtain rfl : i = g := by simpa [Value.ownBlock] using e'
    rw [hh] at hi
    obtain rfl := Option.some.inj hi
    rcases hr with hr | hr
    · omega
    · exact hr _ _ _ rfl he
theorem Fr.blk {k : Nat} {t : TypeId} {cs : Array Value} (h : Fr E L base W W') (hb : Blk W k t cs) (hL : k ∉ L) (ht : t ∉ E) : Blk W' k t cs :=
  h.keep k _ hb hL (.inr (fun cs' t' m' e => by cases e; exact ht))
theorem Fr.below {N : Nat} (h : Fr E L base W W') (hN : N ≤ base) (hL : ∀ k ∈ L, N ≤ k) (hs : N ≤ W.heap.size) : Below N W W' :=
  ⟨h.os, h.tape, h.output, h.size, fun i hi => by
    have hlt : i < W.heap.size := by omega
    exact (h.keep i _ (Array.getElem?_eq_getElem hlt) (fun hk => by have := hL i hk; omega) (.inl (by omega))).trans (Array.getElem?_eq_getElem hlt).symm⟩
end

theorem map_set_v (rows : List GRow) (tl : List Value) (i : Nat) (r' : GRow) (hi : i < rows.length) : (rows.map (·.v) ++ tl).toArray.setIfInBounds i r'.v = ((rows.set i r').map (·.v) ++ tl).toArray := by
  rw [List.setIfInBounds_toArray, List.set_append, if_pos (by simpa using hi), List.map_set]

section
variable {W w1 : World} {t : TypeId} {gb base lo hj' : Nat} {rows : List GRow} {tl : List Value}
theorem gm_but {g : Nat} (h : GMem W t gb base lo hj' rows tl) (hb : But g W w1) (hg : g ≠ gb) (hl : g < base) : GMem w1 t gb base lo hj' rows tl :=
  ⟨hb.blk h.blk (fun e => hg e.symm), fun i r hi => World.ownsRow.kept (h.own i r hi) hb (by
      cases hv : r.v.ownBlock with
      | none => exact .inl rfl
      | some k => exact .inr (fun e => by
          have := ((h.own i r hi).lt k hv).1
          injection e with e; omega)), h.apt, h.low, Nat.le_trans h.top hb.size, h.out⟩
theorem gm_grow (h : GMem W t gb base lo hj' rows tl) (hb : Below W.heap.size W w1) : GMem w1 t gb base lo hj' rows tl :=
  ⟨h.blk.below hb h.blk.lt, fun i r hi => World.ownsRow.kept (row := none) (h.own i r hi) ⟨hb.os, hb.tape, hb.output, hb.size, fun k hk _ => hb.block k hk⟩ (by
      cases hv : r.v.ownBlock with
      | none => exact .inl rfl
      | some k => exact .inr (by simp)), h.apt, h.low, Nat.le_trans h.top hb.size, h.out⟩
/-- a field behind the rows is written -/
theorem gm_tail (h : GMem W t gb base lo hj' rows tl) (i : Nat) (u : Value) : GMem (W.setCell ⟨gb, rows.length + i, none⟩ u) t gb base lo hj' rows (tl.set i u) := by
  refine ⟨?_, fun j r hj => World.ownsRow.kept (h.own j r hj) ((But.refl gb W).set (rows.length + i) u) (by
      cases hv : r.v.ownBlock with
      | none => exact .inl rfl
      | some k => exact .inr (fun e => by
          have := ((h.own j r hj).lt k hv).1
          have := h.low
          injection e with e; omega)), h.apt, h.low, ?_, h.out⟩
  · have := h.blk.set (rows.length + i) u
    rw [List.setIfInBounds_toArray, List.set_append, if_neg (by simp)] at this
    simpa using this
  · have := ((But.refl gb W).set (rows.length + i) u).size
    exact Nat.le_trans h.top this
/-- what an append to row i, stored back, makes of it -/
theorem gm_app (h : GMem W t gb base lo hj' rows tl) {i : Nat} {r : GRow} (hi : rows[i]? = some r) {o : Obj} (hg : (W.alloc o).grownBy w1 r.v.ownBlock) {v' : Value} {n' : Nat} {xs' : List Value} (ho : w1.ownsRow base r.e 2 v' n' xs')
    (hl : v'.ownBlock = r.v.ownBlock ∨ v'.ownBlock = some (W.alloc o).heap.size) (hX : hj' ≤ W.heap.size) :
    Blk w1 gb t (rows.map (·.v) ++ tl).toArray ∧ GMem (w1.setCell ⟨gb, i, none⟩ v') t gb base lo hj' (rows.set i ⟨v', r.e, n', xs'⟩) tl ∧ ∀ (E : List TypeId) (L : List Nat), gb ∈ L → r.e ∈ E → Fr E L base W (w1.setCell ⟨gb, i, none⟩ v') := by
  have hir : i < rows.length := (List.getElem?_eq_some_iff.1 hi).1
  have hr := h.own i r hi
  have hne : some gb ≠ r.v.ownBlock := fun e => by
    have := (hr.lt gb e.symm).1
    have := h.low
    omega
  have hb1 : Blk w1 gb t (rows.map (·.v) ++ tl).toArray := (hg.block gb (h.blk.alloc o).lt hne).trans (h.blk.alloc o)
  have hset := (But.refl gb w1).set i v'
  have kept : ∀ {e : TypeId} {s n : Nat} {v : Value} {xs : List Value}, w1.ownsRow base e s v n xs → (w1.setCell ⟨gb, i, none⟩ v').ownsRow base e s v n xs := fun hh => World.ownsRow.kept hh hset (by
    rename_i e s n v xs
    cases hv : v.ownBlock with
    | none => exact .inl rfl
    | some k => exact .inr (fun e => by
        have := (hh.lt k hv).1
        have := h.low
        injection e with e; omega))
  have hold : ∀ (j : Nat) (s : GRow), i ≠ j → rows[j]? = some s → w1.ownsRow base s.e 2 s.v s.n s.xs := fun j s hij hj =>
    World.ownsRow.kept ((h.own j s hj).alloc o) hg (by
      cases hv : s.v.ownBlock with
      | none => exact .inl rfl
      | some k => exact .inr (fun e => h.apt j i s r (Ne.symm hij) hj hi k hv e.symm))
  have new : ∀ (j : Nat) (s : GRow), i ≠ j → rows[j]? = some s → Apt v' s.v ∧ Apt s.v v' := fun j s hij hj => by
    have h1 := h.apt i j r s hij hi hj
    have h2 := h.apt j i s r (Ne.symm hij) hj hi
    have h3 := (h.own j s hj).lt
    have hsz : (W.alloc o).heap.size = W.heap.size + 1 := by simp
    rcases hl with hl | hl
    · exact ⟨fun k hk => h1 k (hl ▸ hk), fun k hk => by rw [hl]; exact h2 k hk⟩
    · refine ⟨fun k hk hs => ?_, fun k hk hs => ?_⟩
      · have := (h3 k hs).2
        rw [hl] at hk
        injection hk with hk
        omega
      · have := (h3 k hk).2
        rw [hl] at hs
        injection hs with hs
        omega
  refine ⟨hb1, ⟨?_, ?_, ?_, h.low, ?_, ?_⟩, fun E L hL hE => ?_⟩
  · have := hb1.set i v'
    rwa [map_set_v rows tl i ⟨v', r.e, n', xs'⟩ hir] at this
  · intro j s hj
    rw [List.getElem?_set] at hj
    split at hj
    · obtain rfl := Option.some.inj hj
      exact kept ho
    · rename_i hij
      exact kept (hold j s hij hj)
  · intro j k s u hjk hj hk
    rw [List.getElem?_set] at hj hk
    split at hj
    · rename_i hij
      subst hij
      obtain rfl := Option.some.inj hj
      rw [if_neg hjk] at hk
      exact (new k u hjk hk).1
    · rename_i hij
      split at hk
      · rename_i hik
        subst hik
        obtain rfl := Option.some.inj hk
        exact (new j s hij hj).2
      · exact h.apt j k s u hjk hj hk
  · have h1 := hg.size
    have h2 := hset.size
    have h3 := h.top
    simp only [World.size_alloc] at h1
    omega
  · intro j s k hj hk
    rw [List.getElem?_set] at hj
    split at hj
    · obtain rfl := Option.some.inj hj
      rcases hl with hl | hl
      · exact h.out i r k hi (hl ▸ hk)
      · dsimp only at hk
        rw [hl] at hk
        injection hk with hk
        simp only [World.size_alloc] at hk
        exact .inr (by omega)
    · exact h.out j s k hj hk
  · exact (((Fr.refl E L base W).alloc o).row ((h.own i r hi).alloc o) hE hg).but hset hL
end
end Go.Proofs.Ytmphfdnpnhlpjaa
