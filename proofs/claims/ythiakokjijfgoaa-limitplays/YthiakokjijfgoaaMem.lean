/- Words for memory that these proofs share: a slice that reads as a row of numbers, a block known whole, what stays as it was. -/
import Derived.WalkKit
import Derived.ProofKit
import Derived.OpenShut
import Derived.WalkLawsBesides
import Derived.Below
import Derived.Laws.OwnMore
import Derived.Laws.Rows
import Derived.Laws.ResultCell
import Derived.Deep.Draws
import Derived.Lib.Hide
namespace Go.Proofs.Ythiakokjijfgoaa
open Go.RowKit

/-- block g is just these cells -/
def Blk (w : World) (g : Nat) (t : TypeId) (cs : Array Value) : Prop := w.heap[g]? = some (.cells cs t (0, 0))
theorem Blk.lt {w : World} {g : Nat} {t : TypeId} {cs : Array Value} (h : Blk w g t cs) : g < w.heap.size := by
  apply Classical.byContradiction; intro hn
  unfold Blk at h; rw [Array.getElem?_eq_none (by omega)] at h; cases h
theorem Blk.cell {w : World} {g : Nat} {t : TypeId} {cs : Array Value} (h : Blk w g t cs) (i : Nat) : w.cell? ⟨g, i, none⟩ = cs[i]? := cell_of_row w g i cs t (0, 0) h
theorem Blk.frozen {w : World} {g : Nat} {t : TypeId} {cs : Array Value} (h : Blk w g t cs) (i : Nat) : w.frozen? ⟨g, i, none⟩ = false := by
  unfold Blk at h; simp [World.frozen?, h]
theorem Blk.below {w w' : World} {g : Nat} {t : TypeId} {cs : Array Value} {B : Nat} (h : Blk w g t cs) (hb : Below B w w') (hg : g < B) : Blk w' g t cs := (hb.block g hg).trans h
theorem Blk.go' {w w' : World} {g : Nat} {t : TypeId} {cs : Array Value} (h : Blk w g t cs) (hb : Below w.heap.size w w') : Blk w' g t cs := h.below hb h.lt
theorem Blk.new (w : World) (t : TypeId) (cs : Array Value) : Blk (w.alloc (.cells cs t)) w.heap.size t cs := heap_alloc_new w _

theorem Blk.set {w : World} {g : Nat} {t : TypeId} {cs : Array Value} (h : Blk w g t cs) (i : Nat) (u : Value) : Blk (w.setCell ⟨g, i, none⟩ u) g t (cs.setIfInBounds i u) := by
  unfold Blk at h ⊢; simp [World.setCell, Array.getElem?_modify, h]
theorem Blk.alloc {w : World} {g : Nat} {t : TypeId} {cs : Array Value} (h : Blk w g t cs) (o : Obj) : Blk (w.alloc o) g t cs := (Below.heap_alloc w o g h.lt).trans h
theorem Blk.far {w : World} {g : Nat} {t : TypeId} {cs : Array Value} (h : Blk w g t cs) {p : Addr} (hp : g ≠ p.block) (u : Value) : Blk (w.setCell p u) g t cs := (Below.heap_setCell w p u g hp).trans h
theorem Blk.drewN {w : World} {g : Nat} {t : TypeId} {cs : Array Value} (h : Blk w g t cs) (n : Nat) : Blk (w.drewN n) g t cs := h
theorem Blk.drew {w : World} {g : Nat} {t : TypeId} {cs : Array Value} (h : Blk w g t cs) : Blk w.drew g t cs := h
/-- a struct in a block of its own, and one more result -/
theorem results_blk {P : Program} {fn : Func} {p u : Tmp} {ty : TypeId} (h : fn.results = #[.cell p ty, .tmp u]) (tmps : Array Value) (w : World) (g : Nat) (t : TypeId) (cs : Array Value) (d : TypeDesc)
    (hp : tmps.getD p undef = .pointer (some ⟨g, 0, none⟩)) (hg : Blk w g t cs) (hu : P.underlying ty = some d) (hd : (match d with | .struct _ | .array _ _ => true | _ => false) = true) (hi : (P.info? ty).map (·.size) = some cs.size) :
    (results fn tmps).run P w = .ok (.tuple #[.agg cs, tmps.getD u undef]) w := by
  rw [results_cell_tmp h, hp]
  simp [asAddr, run_loadVar_row w g t ty cs (0, 0) d hg hu hd hi, Result.andThen]

/-- but for block g all that was there is as it was -/
def But (g : Nat) (w w' : World) : Prop := w.grownBy w' (some g)
theorem But.refl (g : Nat) (w : World) : But g w w := ⟨rfl, rfl, rfl, Nat.le_refl _, fun _ _ _ => rfl⟩
theorem But.trans {g : Nat} {a b c : World} (h : But g a b) (k : But g b c) : But g a c :=
  ⟨k.os.trans h.os, k.tape.trans h.tape, k.output.trans h.output, Nat.le_trans h.size k.size, fun i hi hn => (k.block i (Nat.lt_of_lt_of_le hi h.size) hn).trans (h.block i hi hn)⟩
theorem But.set {g : Nat} {a b : World} (h : But g a b) (i : Nat) (u : Value) : But g a (b.setCell ⟨g, i, none⟩ u) :=
  ⟨h.os, h.tape, h.output, by have := h.size; simpa [World.setCell] using this, fun k hk hn => (Below.heap_setCell b ⟨g, i, none⟩ u k (fun e => hn (by rw [e]))).trans (h.block k hk hn)⟩
theorem But.of_below {g : Nat} {a b : World} (h : Below a.heap.size a b) : But g a b := ⟨h.os, h.tape, h.output, h.size, fun i hi _ => h.block i hi⟩
theorem But.below {g B : Nat} {a b : World} (h : But g a b) (hB : B ≤ g) (hs : B ≤ a.heap.size) : Below B a b :=
  ⟨h.os, h.tape, h.output, h.size, fun i hi => h.block i (by omega) (fun e => by injection e; omega)⟩
theorem But.blk {g g' : Nat} {a b : World} {t : TypeId} {cs : Array Value} (h : But g a b) (hk : Blk a g' t cs) (hne : g' ≠ g) : Blk b g' t cs :=
  (h.block g' hk.lt (fun e => by injection e with e; exact hne e)).trans hk
theorem But.cell {g : Nat} {a b : World} (h : But g a b) {p : Addr} (hp : p.block < a.heap.size) (hne : p.block ≠ g) : b.cell? p = a.cell? p :=
  World.cell?_of_block (h.block p.block hp (fun e => by injection e with e; exact hne e))

/-- a slice of one-cell numbers of kind k reads as xs; it lies below block B -/
def Ints (w : World) (B : Nat) (k : IntKind) (A : Option Addr) (xs : List Int) : Prop :=
  xs = [] ∨ ∃ b o, A = some ⟨b, o, none⟩ ∧ b < B ∧ ∀ j, j < xs.length → w.cell? ⟨b, o + j, none⟩ = some (.int k (xs.getD j 0))
theorem Ints.nil (w : World) (B : Nat) (k : IntKind) (A : Option Addr) : Ints w B k A [] := .inl rfl
theorem Ints.at {w : World} {B : Nat} {k : IntKind} {A : Option Addr} {xs : List Int} (h : Ints w B k A xs) (hp : 0 < xs.length) :
    ∃ b o, A = some ⟨b, o, none⟩ ∧ b < B ∧ ∀ j, j < xs.length → w.cell? ⟨b, o + j, none⟩ = some (.int k (xs.getD j 0)) := by
  rcases h with h | h
  · subst h; simp at hp
  · exact h
theorem Ints.below {w w' : World} {B B' : Nat} {k : IntKind} {A : Option Addr} {xs : List Int} (h : Ints w B k A xs) (hb : Below B' w w') (hB : B ≤ B') : Ints w' B k A xs := by
  rcases h with h | ⟨b, o, e, hl, hc⟩
  · exact .inl h
  · exact .inr ⟨b, o, e, hl, fun j hj => (hb.cell (p := ⟨b, o + j, none⟩) (by simpa using Nat.lt_of_lt_of_le hl hB)).trans (hc j hj)⟩
theorem Ints.more {w : World} {B B' : Nat} {k : IntKind} {A : Option Addr} {xs : List Int} (h : Ints w B k A xs) (hB : B ≤ B') : Ints w B' k A xs := by
  rcases h with h | ⟨b, o, e, hl, hc⟩
  · exact .inl h
  · exact .inr ⟨b, o, e, by omega, hc⟩
theorem Ints.take {w : World} {B : Nat} {k : IntKind} {A : Option Addr} {xs : List Int} (h : Ints w B k A xs) (n : Nat) : Ints w B k A (xs.take n) := by
  rcases h with h | ⟨b, o, e, hl, hc⟩
  · subst h; exact .inl (by simp)
  · refine .inr ⟨b, o, e, hl, fun j hj => ?_⟩
    rw [List.length_take] at hj
    rw [hc j (by omega)]
    simp only [List.getD_eq_getElem?_getD, List.getElem?_take]
    rw [if_pos (by omega)]
theorem Ints.drop {w : World} {B : Nat} {k : IntKind} {b o : Nat} {xs : List Int} (h : Ints w B k (some ⟨b, o, none⟩) xs) (n : Nat) : Ints w B k (some ⟨b, o + n, none⟩) (xs.drop n) := by
  rcases h with h | ⟨b', o', e, hl, hc⟩
  · subst h; exact .inl (by simp)
  · injection e with e; injection e with e1 e2; subst e1 e2
    refine .inr ⟨_, _, rfl, hl, fun j hj => ?_⟩
    rw [List.length_drop] at hj
    have := hc (n + j) (by omega)
    rw [← Nat.add_assoc] at this
    rw [this]
    simp only [List.getD_eq_getElem?_getD, List.getElem?_drop]
/-- from a row of the call's own -/
theorem Ints.own {w : World} {base : Nat} {e : TypeId} {k : IntKind} {A : Option Addr} {n c : Nat} {xs : List Int} (h : w.ownsRow base e 1 (.slice A n c) n (xs.map (Value.int k))) : Ints w w.heap.size k A xs := by
  rcases h.2 with ⟨e1, e2⟩ | ⟨g, cap, cur, hv, hb, hh, hnc, hm, hcs, ht⟩
  · have hl := h.1; rw [e2] at hl; simp at hl; exact .inl hl
  · injection hv with hA
    refine .inr ⟨g, 0, hA, ?_, fun j hj => ?_⟩
    · apply Classical.byContradiction; intro hn
      rw [Array.getElem?_eq_none (by omega)] at hh; cases hh
    · rw [cell_of_row w g (0 + j) cur e (0, 0) hh]
      have hj' : (xs.map (Value.int k))[j]? = some (.int k (xs.getD j 0)) := by simp [List.getElem?_map, List.getD_eq_getElem?_getD, List.getElem?_eq_getElem hj]
      rw [← ht, List.getElem?_take] at hj'
      split at hj'
      · simpa using hj'
      · cases hj'
theorem own_len {w : World} {base : Nat} {e : TypeId} {v : Value} {n : Nat} {xs : List Value} (h : w.ownsRow base e 1 v n xs) : xs.length = n := by simpa using h.1
theorem own_form {w : World} {base : Nat} {e : TypeId} {v : Value} {n : Nat} {xs : List Value} (h : w.ownsRow base e 1 v n xs) : ∃ A c, v = .slice A n c ∧ n ≤ c ∧ c ≤ maxLen := by
  rcases h.2 with ⟨e1, e2⟩ | ⟨g, cap, cur, hv, hb, hh, hnc, hm, hcs, ht⟩
  · exact ⟨none, 0, by rw [e1, e2], by omega, by simp [maxLen]⟩
  · exact ⟨_, cap, hv, hnc, hm⟩
theorem own_below {w w' : World} {base B : Nat} {e : TypeId} {v : Value} {n : Nat} {xs : List Value} (h : w.ownsRow base e 1 v n xs) (hb : Below B w w') (hB : w.heap.size ≤ B) : w'.ownsRow base e 1 v n xs :=
  h.kept (row := none) ⟨hb.os, hb.tape, hb.output, hb.size, fun i hi _ => hb.block i (by omega)⟩ (by
    cases hv : v.ownBlock with
    | none => exact .inl rfl
    | some g => exact .inr (by simp))
theorem below_drewN' {B : Nat} {a w : World} (h : Below B a w) (n : Nat) : Below B a (w.drewN n) := ⟨h.os, h.tape, h.output, h.size, h.block⟩
end Go.Proofs.Ythiakokjijfgoaa
