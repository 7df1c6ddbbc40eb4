/- An api.Limit and a slice of steps (two numbers each) that came in, as the walks are told of them. Printed by wip/gen_n15pls.py. -/
import Derived.Test.YthiakokjijfgoaaRows
import Derived.Test.YthiakokjijfgoaaR15
import Derived.WalkKit
import Derived.ProofKit
import Derived.OpenShut
import Derived.WideShapes
import Derived.Deep.SlicePairs
namespace Go.Proofs.Ythiakokjijfgoaa
set_option maxRecDepth 100000
open Go.ChangeShapes Go.WideShapes Go.RowKit Go.Deep
set_option linter.unusedVariables false
set_option linter.unusedSimpArgs false

/-- a slice of pairs reads as xs; it lies below block B -/
def Prs (w : World) (B : Nat) (A : Option Addr) (xs : List (Int × Int)) : Prop :=
  xs = [] ∨ ∃ b o, A = some ⟨b, o, none⟩ ∧ b < B ∧ ∀ j, j < xs.length → w.cell? ⟨b, o + j * 2, none⟩ = some (.int .i64 (xs.getD j (0, 0)).1) ∧ w.cell? ⟨b, o + j * 2 + 1, none⟩ = some (.int .i64 (xs.getD j (0, 0)).2)
theorem Prs.at {w : World} {B : Nat} {A : Option Addr} {xs : List (Int × Int)} (h : Prs w B A xs) (hp : 0 < xs.length) :
    ∃ b o, A = some ⟨b, o, none⟩ ∧ b < B ∧ ∀ j, j < xs.length → w.cell? ⟨b, o + j * 2, none⟩ = some (.int .i64 (xs.getD j (0, 0)).1) ∧ w.cell? ⟨b, o + j * 2 + 1, none⟩ = some (.int .i64 (xs.getD j (0, 0)).2) := by
  rcases h with h | h
  · subst h; simp at hp
  · exact h
structure ArgPrs (w : World) (a : Option Addr) (len : Nat) (z : List (Int × Int)) : Prop where
  size : z.length = len
  max : len ≤ maxLen
  row : Prs w w.heap.size a z
  wf : ∀ p ∈ z, (Lit.int .i64 p.1).wf = true ∧ (Lit.int .i64 p.2).wf = true
theorem argPrs {H : Type} {enc : TypeId × Value → H} {P : Program} {w : World} {base : Nat} {spare : Nat → Bool} {held : Bool} {t e : TypeId} {f0 f1 : Field} {fuel : Nat} {a : Option Addr} {len cap : Nat} {x : DataW H × List MemPlace} (ht : P.underlying t = some (.slice e)) (he : P.underlying e = some (.struct #[f0, f1]))
    (ce : P.cellsOf e = 2) (o0 : f0.offset = 0) (o1 : f1.offset = 1) (c0 : P.cellsOf f0.type = 1) (c1 : P.cellsOf f1.type = 1) (u0 : P.underlying f0.type = some (.int .i64)) (u1 : P.underlying f1.type = some (.int .i64))
    (h : DataW.trod enc P w base spare held fuel t [.slice a len cap] = some x) : ∃ z, ArgPrs w a len z := by
  rcases open_slice_pairs ht he ce o0 o1 c0 c1 h with ⟨hcs, _⟩ | ⟨x, l, c, m, n, V0, V1, D0, D1, P0, P1, hcs, _, hl, hm, hmm, _, hi⟩
  · simp only [List.cons.injEq, Value.slice.injEq, and_true] at hcs
    obtain ⟨rfl, rfl, rfl⟩ := hcs
    exact ⟨[], rfl, by simp [maxLen], .inl rfl, fun e he => by cases he⟩
  · simp only [List.cons.injEq, Value.slice.injEq, and_true] at hcs
    obtain ⟨rfl, rfl, rfl⟩ := hcs
    have hlm : len ≤ m := by rw [hmm]; split <;> omega
    have key : ∀ i, ∃ p : Int × Int, i < len → w.cell? (x.add (i * 2)) = some (.int .i64 p.1) ∧ w.cell? (x.add (i * 2 + 1)) = some (.int .i64 p.2) ∧ (Lit.int .i64 p.1).wf = true ∧ (Lit.int .i64 p.2).wf = true := fun i => by
      by_cases hil : i < len
      · obtain ⟨h0, h1, h2, h3⟩ := hi i (by omega)
        obtain ⟨p, hp, _, hw⟩ := DataW.trod_int u0 h2
        obtain ⟨q, hq, _, hw'⟩ := DataW.trod_int u1 h3
        simp only [List.cons.injEq, and_true] at hp hq
        exact ⟨(p, q), fun _ => ⟨by rw [h0, hp], by rw [h1, hq], hw, hw'⟩⟩
      · exact ⟨(0, 0), fun h => absurd h hil⟩
    obtain ⟨F, hF⟩ : ∃ F : Nat → Int × Int, ∀ i, i < len → w.cell? (x.add (i * 2)) = some (.int .i64 (F i).1) ∧ w.cell? (x.add (i * 2 + 1)) = some (.int .i64 (F i).2) ∧ (Lit.int .i64 (F i).1).wf = true ∧ (Lit.int .i64 (F i).2).wf = true :=
      ⟨fun i => Classical.choose (key i), fun i => Classical.choose_spec (key i)⟩
    have hget : ∀ j, j < len → ((List.range len).map F).getD j (0, 0) = F j := fun j hj => by
      rw [List.getD_eq_getElem?_getD, List.getElem?_map, List.getElem?_range hj]; rfl
    refine ⟨(List.range len).map F, by simp, by omega, ?_, fun e he => ?_⟩
    · by_cases h0 : len = 0
      · subst h0; exact .inl rfl
      · obtain ⟨b, off, s⟩ := x
        have hs : s = none := by simpa [Addr.add] using World.cell?_spot (hF 0 (by omega)).1
        subst hs
        have hadd : ∀ j, (⟨b, off, none⟩ : Addr).add j = ⟨b, off + j, none⟩ := fun j => by unfold Addr.add; split <;> simp_all
        refine .inr ⟨b, off, rfl, World.block_lt_of_cell? w _ ((hadd _ ▸ (hF 0 (by omega)).1)), fun j hj => ?_⟩
        simp only [List.length_map, List.length_range] at hj
        obtain ⟨g0, g1, _⟩ := hF j hj
        rw [hadd] at g0 g1
        rw [hget j hj]
        exact ⟨g0, by rw [Nat.add_assoc]; exact g1⟩
    · obtain ⟨i, hi', rfl⟩ := List.mem_map.1 he
      exact ⟨(hF i (List.mem_range.1 hi')).2.2.1, (hF i (List.mem_range.1 hi')).2.2.2⟩
theorem open_lim {H : Type} {enc : TypeId × Value → H} {w : World} {base : Nat} {spare : Nat → Bool} {held : Bool} {r : Reach} {b0 : Nat} {v : Value} {d : DataW H} {ps : List MemPlace}
    (hval : Value.okWide Try.prog w r b0 23 v) (hd : DataW.Trod enc Try.prog w base spare held 23 v d ps) : ∃ x : Lm, v = .agg (lmA x) := by
  obtain ⟨cs, rfl, hsz⟩ := okWide_struct Try.underlying23 hval
  have hc : Try.prog.cellsOf 23 = 5 := by kernel_rfl
  have hi : Try.prog.cellsOf 3 = 1 := by kernel_rfl
  rw [hc] at hsz
  obtain ⟨l⟩ := cs
  match l, hsz with
  | [c0, c1, c2, c3, c4], _ =>
  obtain ⟨fuel, hf⟩ := hd
  obtain ⟨xs, n, _, hx, hlen, hxl, hg⟩ := DataW.trod_struct Try.underlying23 hf
  match xs, hxl with
  | [y0, y1, y2, y3, y4], _ =>
  have g0 := hg 0 _ rfl
  have g1 := hg 1 _ rfl
  have g2 := hg 2 _ rfl
  have g3 := hg 3 _ rfl
  have g4 := hg 4 _ rfl
  simp [Value.cells, hi] at g0 g1 g2 g3 g4
  obtain ⟨z0, f0, _, _⟩ := DataW.trod_int Try.underlying3 g0
  obtain ⟨z1, f1, _, _⟩ := DataW.trod_int Try.underlying3 g1
  obtain ⟨z2, f2, _, _⟩ := DataW.trod_int Try.underlying3 g2
  obtain ⟨z3, f3, _, _⟩ := DataW.trod_int Try.underlying3 g3
  obtain ⟨z4, f4, _, _⟩ := DataW.trod_int Try.underlying3 g4
  simp at f0 f1 f2 f3 f4
  subst f0 f1 f2 f3 f4
  exact ⟨⟨z0, z1, z2, z3, z4⟩, rfl⟩
end Go.Proofs.Ythiakokjijfgoaa
