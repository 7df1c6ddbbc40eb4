/- A row of a call's own beside blocks: what stays while a block of a struct and one row of it turn. No program in it. -/
import Derived.Test.YtdkfffncohipbaaApp
namespace Go.Proofs.Ytdkfffncohipbaa
open Go.RowKit
set_option linter.unusedVariables false

theorem Blk.put {w : World} {g : Nat} {t : TypeId} {cs : Array Value} (h : Blk w g t cs) (i : Nat) (u : Value) {ds : Array Value} (hd : cs.setIfInBounds i u = ds) : Blk (w.setCell ⟨g, i, none⟩ u) g t ds := by
  rw [← hd]; exact h.set i u
/-- but for blocks g and bb, and the row's own block, all that was there is as it was -/
structure SFr (g bb : Nat) (v : Value) (w w' : World) : Prop where
  os : w'.os = w.os
  tape : w'.tape = w.tape
  output : w'.output = w.output
  size : w.heap.size ≤ w'.heap.size
  block : ∀ k, k < w.heap.size → k ≠ g → k ≠ bb → v.ownBlock ≠ some k → w'.heap[k]? = w.heap[k]?
theorem SFr.of_below {g bb : Nat} {v : Value} {w w' : World} (h : Below w.heap.size w w') : SFr g bb v w w' := ⟨h.os, h.tape, h.output, h.size, fun k hk _ _ _ => h.block k hk⟩
theorem SFr.set {g bb : Nat} {v : Value} {w w' : World} (h : SFr g bb v w w') (i : Nat) (u : Value) : SFr g bb v w (w'.setCell ⟨g, i, none⟩ u) :=
  ⟨h.os, h.tape, h.output, by have := h.size; simpa [World.setCell] using this, fun k hk hg hb hv => (Below.heap_setCell w' ⟨g, i, none⟩ u k (fun e => hg e)).trans (h.block k hk hg hb hv)⟩
theorem SFr.drew {g bb : Nat} {v : Value} {w w' : World} (h : SFr g bb v w w') : SFr g bb v w w'.drew := ⟨h.os, h.tape, h.output, h.size, h.block⟩
theorem SFr.grown {g bb : Nat} {v : Value} {w w1 w2 : World} (h : Below w.heap.size w w1) (k : w1.grownBy w2 v.ownBlock) : SFr g bb v w w2 :=
  ⟨k.os.trans h.os, k.tape.trans h.tape, k.output.trans h.output, Nat.le_trans h.size k.size, fun i hi _ _ hv => (k.block i (Nat.lt_of_lt_of_le hi h.size) (fun e => hv e.symm)).trans (h.block i hi)⟩
theorem rown_ne {w : World} {base g : Nat} {v : Value} {xs : List Int} {e t : TypeId} {k : IntKind} {cs : Array Value} (ho : Own w base e k v xs) (hg : Blk w g t cs) (ht : t ≠ e) : v.ownBlock ≠ some g := by
  rcases ho.2 with ⟨e1, e2⟩ | ⟨g2, cap, cur, hv, hb, hh, hnc, hm, hcs, _⟩
  · rw [e1]; simp [Value.ownBlock]
  · rw [hv]
    simp only [Value.ownBlock]
    intro he
    injection he with he
    subst he
    unfold Blk at hg
    rw [hh] at hg
    injection hg with hg
    injection hg with _ hg
    exact ht hg.symm
/-- where the row that it has now lies -/
def RowTo (w : World) (v v' : Value) : Prop := v'.ownBlock = v.ownBlock ∨ ∀ k, v'.ownBlock = some k → w.heap.size ≤ k
theorem SFr.low {g bb B : Nat} {v : Value} {w w' : World} (h : SFr g bb v w w') (hB : B ≤ w.heap.size) (hg : B ≤ g) (hbb : B ≤ bb) (hv : ∀ k, v.ownBlock = some k → B ≤ k) : Below B w w' :=
  ⟨h.os, h.tape, h.output, h.size, fun k hk => h.block k (by omega) (by omega) (by omega) (fun e => by have := hv k e; omega)⟩
theorem rown_set {w : World} {base g i : Nat} {v u : Value} {xs : List Int} {e t : TypeId} {k : IntKind} {cs : Array Value} (ho : Own w base e k v xs) (hg : Blk w g t cs) (ht : t ≠ e) : Own (w.setCell ⟨g, i, none⟩ u) base e k v xs := by
  refine ⟨ho.1, ?_⟩
  have hne := rown_ne ho hg ht
  rcases ho.2 with h2 | ⟨b, cap, cur, hv, hb, hh, h3⟩
  · exact .inl h2
  · refine .inr ⟨b, cap, cur, hv, hb, ?_, h3⟩
    exact (Below.heap_setCell w ⟨g, i, none⟩ u b (fun e => hne (by rw [hv, e]; rfl))).trans hh
theorem rown_drew {w : World} {base : Nat} {v : Value} {xs : List Int} {e : TypeId} {k : IntKind} (ho : Own w base e k v xs) : Own w.drew base e k v xs := ho
theorem SFr.refl (g bb : Nat) (v : Value) (w : World) : SFr g bb v w w := SFr.of_below (Below.refl _ _)
theorem RowTo.refl (w : World) (v : Value) : RowTo w v v := .inl rfl
theorem SFr.trans {g bb : Nat} {v v1 : Value} {w w1 w2 : World} (h : SFr g bb v w w1) (hr : RowTo w v v1) (k : SFr g bb v1 w1 w2) : SFr g bb v w w2 :=
  ⟨k.os.trans h.os, k.tape.trans h.tape, k.output.trans h.output, Nat.le_trans h.size k.size, fun i hi hg hb hv => (k.block i (Nat.lt_of_lt_of_le hi h.size) hg hb (fun e => by
    rcases hr with r | r
    · rw [r] at e; exact hv e
    · have := r i e; omega)).trans (h.block i hi hg hb hv)⟩
theorem RowTo.trans {w w1 : World} {v v1 v2 : Value} (h : RowTo w v v1) (k : RowTo w1 v1 v2) (hs : w.heap.size ≤ w1.heap.size) : RowTo w v v2 := by
  rcases k with k | k
  · rcases h with h | h
    · exact .inl (k.trans h)
    · exact .inr fun i hi => h i (by rw [← k]; exact hi)
  · exact .inr fun i hi => Nat.le_trans hs (k i hi)
theorem SFr.weak {g bb : Nat} {v : Value} {w w' : World} (h : SFr g g v w w') : SFr g bb v w w' := ⟨h.os, h.tape, h.output, h.size, fun k hk hg _ hv => h.block k hk hg hg hv⟩
/-- only the row of what is begun has grown -/
theorem SFr.grownB {g bb : Nat} {v : Value} {w w1 w2 : World} (h : Below w.heap.size w w1) (k : w1.grownBy w2 (some bb)) : SFr g bb v w w2 :=
  ⟨k.os.trans h.os, k.tape.trans h.tape, k.output.trans h.output, Nat.le_trans h.size k.size, fun i hi _ hb _ => (k.block i (Nat.lt_of_lt_of_le hi h.size) (fun e => hb (by injection e))).trans (h.block i hi)⟩
theorem rown_low {w : World} {base : Nat} {v : Value} {xs : List Int} {e : TypeId} {k : IntKind} (h : Own w base e k v xs) : ∀ q, v.ownBlock = some q → base ≤ q := fun q hq => by
  rcases h.2 with ⟨e1, _⟩ | ⟨b, cap, cur, hv, hb, _⟩
  · rw [e1] at hq; cases hq
  · rw [hv] at hq
    have : b = q := by simpa [Value.ownBlock] using hq
    omega
theorem RowTo.nil (w : World) (v : Value) (n c : Nat) : RowTo w v (.slice none n c) := .inr fun k hk => by cases hk
/-- two rows of unlike kinds lie apart -/
theorem rown_apart {w : World} {base base2 : Nat} {v v2 : Value} {xs ys : List Int} {e e2 : TypeId} {k k2 : IntKind} (h : Own w base e k v xs) (h2 : Own w base2 e2 k2 v2 ys) (he : e ≠ e2) : ∀ q, v.ownBlock = some q → v2.ownBlock ≠ some q := fun q hq hq2 => by
  rcases h.2 with ⟨e1, _⟩ | ⟨b, cap, cur, hv, hb, hh, _⟩
  · rw [e1] at hq; cases hq
  · rcases h2.2 with ⟨e1, _⟩ | ⟨b2, cap2, cur2, hv2, hb2, hh2, _⟩
    · rw [e1] at hq2; cases hq2
    · rw [hv] at hq
      rw [hv2] at hq2
      have e1 : b = q := by simpa [Value.ownBlock] using hq
      have e2 : b2 = q := by simpa [Value.ownBlock] using hq2
      rw [e1] at hh
      rw [e2, hh] at hh2
      injection hh2 with hh2
      injection hh2 with _ h3
      exact he h3
/-- a row that the frame leaves -/
theorem rown_frame {w w' : World} {base g bb : Nat} {v u : Value} {xs : List Int} {e : TypeId} {k : IntKind} (h : Own w base e k u xs) (hf : SFr g bb v w w') (hu : ∀ q, u.ownBlock = some q → q ≠ g ∧ q ≠ bb ∧ v.ownBlock ≠ some q) : Own w' base e k u xs := by
  refine ⟨h.1, ?_⟩
  rcases h.2 with h2 | ⟨b, cap, cur, hv, hb, hh, h3⟩
  · exact .inl h2
  · obtain ⟨a1, a2, a3⟩ := hu b (by rw [hv]; rfl)
    exact .inr ⟨b, cap, cur, hv, hb, (hf.block b (Array.getElem?_eq_some_iff.1 hh).1 a1 a2 a3).trans hh, h3⟩
theorem rown_size {w : World} {base : Nat} {v : Value} {xs : List Int} {e : TypeId} {k : IntKind} (h : Own w base e k v xs) : ∀ q, v.ownBlock = some q → q < w.heap.size := fun q hq => by
  rcases h.2 with ⟨e1, _⟩ | ⟨b, cap, cur, hv, hb, hh, _⟩
  · rw [e1] at hq; cases hq
  · rw [hv] at hq
    have e1 : b = q := by simpa [Value.ownBlock] using hq
    rw [← e1]
    exact (Array.getElem?_eq_some_iff.1 hh).1
theorem blk_ne {w : World} {a b : Nat} {t u : TypeId} {cs ds : Array Value} (h : Blk w a t cs) (k : Blk w b u ds) (ht : t ≠ u) : a ≠ b := fun e => by
  subst e
  unfold Blk at h k
  rw [h] at k
  injection k with k
  injection k with _ k
  exact ht k
end Go.Proofs.Ytdkfffncohipbaa
