/- A slice of strings that came in, as the walks are told of it. -/
import Derived.Test.YtakbbhhhdcnlnaaDoorMem
import Derived.SliceStrings
import Derived.ChangeOld
namespace Go.Proofs.YtakbbhhhdcnlnaaDoor
open Go.ChangeShapes Go.WideShapes Go.ChangeAt Go.RowKit

def Strs (w : World) (B : Nat) (A : Option Addr) (xs : List ByteArray) : Prop :=
  xs = [] ∨ ∃ b o, A = some ⟨b, o, none⟩ ∧ b < B ∧ ∀ j, j < xs.length → w.cell? ⟨b, o + j, none⟩ = some (.string (xs.getD j ByteArray.empty))
theorem Strs.at {w : World} {B : Nat} {A : Option Addr} {xs : List ByteArray} (h : Strs w B A xs) (hp : 0 < xs.length) :
    ∃ b o, A = some ⟨b, o, none⟩ ∧ b < B ∧ ∀ j, j < xs.length → w.cell? ⟨b, o + j, none⟩ = some (.string (xs.getD j ByteArray.empty)) := by
  rcases h with h | h
  · subst h; simp at hp
  · exact h
structure ArgStrs (w : World) (a : Option Addr) (len cap : Nat) (z : List ByteArray) : Prop where
  size : z.length = len
  le : len ≤ cap
  max : cap ≤ maxLen
  row : Strs w w.heap.size a z
  wf : ∀ s ∈ z, s.size ≤ maxLen
theorem argStrs {H : Type} {enc : TypeId × Value → H} {P : Program} {w : World} {base : Nat} {spare : Nat → Bool} {held : Bool} {t e : TypeId} {fuel : Nat} {a : Option Addr} {len cap : Nat} {x : DataW H × List MemPlace} (ht : P.underlying t = some (.slice e)) (he : P.underlying e = some .string) (hc : P.cellsOf e = 1)
    (h : DataW.trod enc P w base spare held fuel t [.slice a len cap] = some x) : ∃ z, ArgStrs w a len cap z := by
  rcases open_strings ht he hc h with ⟨hcs, _⟩ | ⟨y, l, c, ss, hcs, _, hl, hm, hlen, _, hcell, hw⟩
  · simp only [List.cons.injEq, Value.slice.injEq, and_true] at hcs
    obtain ⟨rfl, rfl, rfl⟩ := hcs
    exact ⟨[], rfl, Nat.le_refl _, by simp [maxLen], .inl rfl, fun s hs => by cases hs⟩
  · simp only [List.cons.injEq, Value.slice.injEq, and_true] at hcs
    obtain ⟨rfl, rfl, rfl⟩ := hcs
    have hss : len ≤ ss.length := by rw [hlen]; split <;> omega
    refine ⟨ss.take len, by rw [List.length_take]; omega, hl, hm, ?_, fun s hs => hw s (List.mem_of_mem_take hs)⟩
    by_cases h0 : len = 0
    · subst h0; exact .inl (by simp)
    · obtain ⟨b, off, spot⟩ := y
      have hspot : spot = none := by simpa [Addr.add] using World.cell?_spot (hcell 0 (by omega))
      subst hspot
      refine .inr ⟨b, off, rfl, World.block_lt_of_cell? w _ (hcell 0 (by omega)), fun j hj => ?_⟩
      rw [List.length_take] at hj
      rw [← Go.WideShapes.add_plain, hcell j (by omega)]
      simp only [List.getD_eq_getElem?_getD, List.getElem?_take]
      rw [if_pos (by omega)]
end Go.Proofs.YtakbbhhhdcnlnaaDoor
