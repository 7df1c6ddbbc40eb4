/- A slice of numbers that came in, as the walks are told of it. -/
import Derived.Test.YthiakokjijfgoaaMem
import Derived.ChangeOld
namespace Go.Proofs.Ythiakokjijfgoaa
open Go.ChangeShapes Go.WideShapes Go.ChangeAt Go.RowKit

structure ArgRow (k : IntKind) (w : World) (a : Option Addr) (len cap : Nat) (z : List Int) : Prop where
  size : z.length = len
  le : len ≤ cap
  max : cap ≤ maxLen
  nil : a = none → cap = 0
  row : Ints w w.heap.size k a z
  wf : ∀ n ∈ z, (Lit.int k n).wf = true
theorem ArgRow.ofNil (k : IntKind) (w : World) : ArgRow k w none 0 0 [] := ⟨rfl, Nat.le_refl _, by simp [maxLen], fun _ => rfl, .inl rfl, fun n h => by cases h⟩
theorem ArgRow.ofRow {k : IntKind} {w : World} {x : Addr} {len cap : Nat} {zs : List Int} (hl : len ≤ cap) (hm : cap ≤ maxLen) (hz : zs.length = cap)
    (hc : ∀ i, i < zs.length → w.cell? (x.add i) = some (.int k (zs.getD i 0))) (hw : ∀ n ∈ zs, (Lit.int k n).wf = true) : ArgRow k w (some x) len cap (zs.take len) := by
  refine ⟨by rw [List.length_take]; omega, hl, hm, fun h => (by cases h), ?_, fun n hn => hw n (List.mem_of_mem_take hn)⟩
  by_cases h0 : len = 0
  · subst h0; exact .inl (by simp)
  · obtain ⟨b, off, rfl, hcc⟩ := ints_at hc (by omega)
    refine .inr ⟨b, off, rfl, World.block_lt_of_cell? w _ (hcc 0 (by omega)), fun j hj => ?_⟩
    rw [List.length_take] at hj
    rw [hcc j (by omega)]
    simp only [List.getD_eq_getElem?_getD, List.getElem?_take]
    rw [if_pos (by omega)]
end Go.Proofs.Ythiakokjijfgoaa
