/- A slice of entries that came in, as the walks are told of it. -/
import Derived.Test.YtkkopgkeooaofaaSt4Gath
import Derived.Test.YtkkopgkeooaofaaArg
import Derived.Deep.SlicePairs
namespace Go.Proofs.Ytkkopgkeooaofaa
open Go.ChangeShapes Go.WideShapes Go.ChangeAt Go.RowKit Go.Deep

structure ArgEnts (w : World) (a : Option Addr) (len : Nat) (z : List (Int × Int)) : Prop where
  size : z.length = len
  max : len ≤ maxLen
  row : Ents w w.heap.size a z
  fit : FitE z

theorem argEnts {H : Type} {enc : TypeId × Value → H} {P : Program} {w : World} {base : Nat} {spare : Nat → Bool} {held : Bool} {t e : TypeId} {f0 f1 : Field} {fuel : Nat} {a : Option Addr} {len cap : Nat} {x : DataW H × List MemPlace} (ht : P.underlying t = some (.slice e)) (he : P.underlying e = some (.struct #[f0, f1]))
    (ce : P.cellsOf e = 2) (o0 : f0.offset = 0) (o1 : f1.offset = 1) (c0 : P.cellsOf f0.type = 1) (c1 : P.cellsOf f1.type = 1) (u0 : P.underlying f0.type = some (.int .i32)) (u1 : P.underlying f1.type = some (.int .i64))
    (h : DataW.trod enc P w base spare held fuel t [.slice a len cap] = some x) : ∃ z, ArgEnts w a len z := by
  rcases open_slice_pairs ht he ce o0 o1 c0 c1 h with ⟨hcs, _⟩ | ⟨x, l, c, m, n, V0, V1, D0, D1, P0, P1, hcs, _, hl, hm, hmm, _, hi⟩
  · simp only [List.cons.injEq, Value.slice.injEq, and_true] at hcs
    obtain ⟨rfl, rfl, rfl⟩ := hcs
    exact ⟨[], rfl, by simp [maxLen], .inl rfl, fun e he => by cases he⟩
  · simp only [List.cons.injEq, Value.slice.injEq, and_true] at hcs
    obtain ⟨rfl, rfl, rfl⟩ := hcs
    have hlm : len ≤ m := by rw [hmm]; split <;> omega
    have key : ∀ i, ∃ p : Int × Int, i < len → w.cell? (x.add (i * 2)) = some (.int .i32 p.1) ∧ w.cell? (x.add (i * 2 + 1)) = some (.int .i64 p.2) ∧ (Lit.int .i32 p.1).wf = true ∧ (Lit.int .i64 p.2).wf = true := fun i => by
      by_cases hil : i < len
      · obtain ⟨h0, h1, h2, h3⟩ := hi i (by omega)
        obtain ⟨p, hp, _, hw⟩ := DataW.trod_int u0 h2
        obtain ⟨q, hq, _, hw'⟩ := DataW.trod_int u1 h3
        simp only [List.cons.injEq, and_true] at hp hq
        exact ⟨(p, q), fun _ => ⟨by rw [h0, hp], by rw [h1, hq], hw, hw'⟩⟩
      · exact ⟨(0, 0), fun h => absurd h hil⟩
    obtain ⟨F, hF⟩ : ∃ F : Nat → Int × Int, ∀ i, i < len → w.cell? (x.add (i * 2)) = some (.int .i32 (F i).1) ∧ w.cell? (x.add (i * 2 + 1)) = some (.int .i64 (F i).2) ∧ (Lit.int .i32 (F i).1).wf = true ∧ (Lit.int .i64 (F i).2).wf = true :=
      ⟨fun i => Classical.choose (key i), fun i => Classical.choose_spec (key i)⟩
    have hget : ∀ j, j < len → ((List.range len).map F).getD j (0, 0) = F j := fun j hj => by
      rw [List.getD_eq_getElem?_getD, List.getElem?_map, List.getElem?_range hj]; rfl
    refine ⟨(List.range len).map F, by simp, by omega, ?_, fun e he => ?_⟩
    · by_cases h0 : len = 0
      · subst h0; exact .inl rfl
      · obtain ⟨b, off, s⟩ := x
        have hs : s = none := by simpa [Addr.add] using World.cell?_spot (hF 0 (by omega)).1
        subst hs
        have hadd : ∀ j, (⟨b, off, none⟩ : Addr).add j = ⟨b, off + j, none⟩ := fun j => by unfold Addr.add; split <;> simp_all
        refine .inr ⟨b, off, rfl, World.block_lt_of_cell? w _ ((hadd _ ▸ (hF 0 (by omega)).1)), fun j hj => ?_⟩
        simp only [List.length_map, List.length_range] at hj
        obtain ⟨g0, g1, _⟩ := hF j hj
        rw [hadd] at g0 g1
        rw [hget j hj]
        exact ⟨g0, by rw [Nat.add_assoc]; exact g1⟩
    · obtain ⟨i, hi', rfl⟩ := List.mem_map.1 he
      exact ⟨(hF i (List.mem_range.1 hi')).2.2.1, (hF i (List.mem_range.1 hi')).2.2.2⟩
end Go.Proofs.Ytkkopgkeooaofaa
