/- Rows of runes of a call's own, as contracts tell of them; what they have in common. -/
import Derived.Test.YtdkfffncohipbaaApp
import Derived.Test.YtdkfffncohipbaaProg
namespace Go.Proofs.Ytdkfffncohipbaa
open Go.RowKit
set_option linter.unusedVariables false

/-- a row of the call's own, these numbers -/
def RowRes (t : TypeId) (k : IntKind) (w : World) (zs : List Int) (e : Ending) (w' : World) : Prop :=
  ∃ v, e = .returned v ∧ Own w' w.heap.size t k v zs ∧ Below w.heap.size w w'
theorem info_i32 : (Try.prog.info? 21).map (fun i => (i.zero, i.size, i.bytes)) = some (some (.int .i32 0), 1, 4) := by kernel_rfl
theorem own_lit (w : World) (base : Nat) (t : TypeId) (k : IntKind) (ys : List Int) (hb : base ≤ w.heap.size) (hm : ys.length ≤ maxLen) :
    Own (w.alloc (.cells (ys.map (Value.int k)).toArray t)) base t k (.slice (some ⟨w.heap.size, 0, none⟩) ys.length ys.length) ys := by
  have := World.ownsRow_lit (size := 1) (e := t) w (ys.map (Value.int k)).toArray ys.length hb hm (by simp)
  simpa using this
theorem own_nil {w : World} {base : Nat} {t : TypeId} {k : IntKind} {A : Option Addr} {n c : Nat} {xs : List Int} (h : w.ownsRow base t 1 (.slice A n c) n (xs.map (Value.int k))) : A = none → c = 0 := by
  rcases h.2 with ⟨e1, e2⟩ | ⟨g, cap, cur, hv, _⟩
  · injection e1 with e1 e2 e3; intro _; exact e3
  · injection hv with e1 e2 e3; intro h; rw [h] at e1; cases e1
theorem Ints.litAt (w : World) (t : TypeId) (k : IntKind) (ys : List Int) {g : Nat} (hg : w.heap.size = g) : Ints (w.alloc (.cells (ys.map (Value.int k)).toArray t)) (g + 1) k (some ⟨g, 0, none⟩) ys := by
  subst hg; exact Ints.lit w t k ys
/-- a row, told by its cells -/
def RowSl (k : IntKind) (w : World) (zs : List Int) (e : Ending) (w' : World) : Prop :=
  ∃ A c, e = .returned (.slice A zs.length c) ∧ Ints w' w'.heap.size k A zs ∧ (zs.length ≤ c ∧ c ≤ maxLen) ∧ Below w.heap.size w w'
theorem RowRes.sl {t : TypeId} {k : IntKind} {w w' : World} {zs : List Int} {e : Ending} (h : RowRes t k w zs e w') : RowSl k w zs e w' := by
  obtain ⟨v, rfl, hO, hb⟩ := h
  obtain ⟨A, c, rfl, hc, hcm⟩ := own_form hO
  exact ⟨A, c, rfl, Ints.own hO, ⟨hc, hcm⟩, hb⟩
theorem Ints.go {w w' : World} {k : IntKind} {A : Option Addr} {xs : List Int} (h : Ints w w.heap.size k A xs) (hb : Below w.heap.size w w') : Ints w' w'.heap.size k A xs := (h.below hb (Nat.le_refl _)).more hb.size
theorem take_snoc (l : List Int) (k : Nat) (hk : k < l.length) : l.take (k + 1) = l.take k ++ [l.getD k 0] := by
  rw [List.take_succ_eq_append_getElem hk]
  simp [List.getD_eq_getElem?_getD, List.getElem?_eq_getElem hk]
end Go.Proofs.Ytdkfffncohipbaa
