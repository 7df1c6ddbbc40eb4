/- The mathematics of StageLast, and two rows of entries of the call's own that lie apart. -/
import Derived.Test.YtkkopgkeooaofaaSt4BWalk
namespace Go.Proofs.Ytkkopgkeooaofaa
open Go.ChangeShapes Go.WideShapes Go.ChangeAt Go.RowKit
set_option linter.unusedVariables false

def lents (zs : List Int) (j : Nat) : List (Int × Int) := (List.range j).map fun (i : Nat) => (zs.getD i 0 % 1114112, (i : Int) + 1)
theorem lents_succ (zs : List Int) (j : Nat) : lents zs (j + 1) = lents zs j ++ [(zs.getD j 0 % 1114112, (j : Int) + 1)] := by simp [lents, List.range_succ]
theorem lents_len (zs : List Int) (j : Nat) : (lents zs j).length = j := by simp [lents]
def lpre (k old : Int) : List (Int × Int) := [(k, old), (-5, 8), (1114112, 8)]
theorem lents_fit (zs : List Int) (j : Nat) (hj : j ≤ 100) : FitE (lents zs j) := by
  intro e he
  unfold lents at he
  obtain ⟨i, hi, rfl⟩ := List.mem_map.1 he
  have := List.mem_range.1 hi
  exact ⟨WalkArith.wf_i32 (by dsimp only; omega), WalkArith.wf_i64 (by dsimp only; omega)⟩
theorem fit_app {a b : List (Int × Int)} (ha : FitE a) (hb : FitE b) : FitE (a ++ b) := fun e he => (List.mem_append.1 he).elim (ha e) (hb e)
theorem pre_fit {k old : Int} (hk : 0 ≤ k ∧ k < 1114112) (ho : (Lit.int .i64 old).wf = true) : FitE (lpre k old) := by
  intro e he
  simp only [lpre, List.mem_cons, List.not_mem_nil, or_false] at he
  rcases he with rfl | rfl | rfl
  · exact ⟨WalkArith.wf_i32 (by dsimp only; omega), ho⟩
  · decide
  · decide
theorem end_fit {k : Int} (hk : 0 ≤ k ∧ k < 1114112) : FitE [(k, 1000)] := by
  intro e he
  simp only [List.mem_singleton] at he
  subst he
  exact ⟨WalkArith.wf_i32 (by dsimp only; omega), WalkArith.wf_i64 (by dsimp only; omega)⟩
theorem fold_apart (k : Int) : ∀ (X : List (Int × Int)) (f g : Int → Int), (∀ c, c ≠ k → f c = g c) → ∀ c, c ≠ k → X.foldl tstep f c = X.foldl tstep g c
  | [], _, _, h, c, hc => h c hc
  | e :: r, f, g, h, c, hc => by
    rw [List.foldl_cons, List.foldl_cons]
    refine fold_apart k r _ _ (fun d hd => ?_) c hc
    unfold tstep
    split
    · unfold upd; split
      · rfl
      · exact h d hd
    · exact h d hd
/-- what is ahead of the last one plays no part -/
theorem tab_lpre (k old : Int) (hk : isPl k = true) (X : List (Int × Int)) : tab (lpre k old ++ X ++ [(k, 1000)]) = tab (X ++ [(k, 1000)]) := by
  rw [tab_snoc, tab_snoc]
  unfold tstep
  simp only [hk, if_true]
  funext c
  unfold upd
  split
  · rfl
  · rename_i hc
    have h1 : tab (lpre k old ++ X) = X.foldl tstep (tab (lpre k old)) := by unfold tab; rw [List.foldl_append]
    rw [h1]
    refine fold_apart k X _ _ (fun d hd => ?_) c hc
    have h2 : isPl (-5) = false := by decide
    have h3 : isPl 1114112 = false := by decide
    show tstep (tstep (tstep (fun _ => 0) (k, old)) (-5, 8)) (1114112, 8) d = 0
    have e3 : ∀ f, tstep f (1114112, 8) = f := fun f => by unfold tstep; rw [if_neg (by simp [h3])]
    have e2 : ∀ f, tstep f (-5, 8) = f := fun f => by unfold tstep; rw [if_neg (by simp [h2])]
    rw [e3, e2]
    unfold tstep upd
    rw [if_pos hk]
    simp [hd]
theorem tab_end (k : Int) (hk : isPl k = true) (X : List (Int × Int)) : tab (X ++ [(k, 1000)]) k = 1000 := by
  rw [tab_snoc]; unfold tstep upd; rw [if_pos hk]; simp

/-- two rows of entries, each in a block of its own -/
structure L2 (w W : World) (l m : List (Int × Int)) (v u : Value) : Prop where
  own1 : W.ownsRow w.heap.size 31 2 v l.length (entsV l)
  own2 : W.ownsRow w.heap.size 31 2 u m.length (entsV m)
  below : Below w.heap.size w W
  apart : ∀ g, v.ownBlock = some g → u.ownBlock ≠ some g
theorem L2.bel {w W W' : World} {l m : List (Int × Int)} {v u : Value} (h : L2 w W l m v u) (hb : Below W.heap.size W W') : L2 w W' l m v u :=
  ⟨own_bel h.own1 hb (Nat.le_refl _), own_bel h.own2 hb (Nat.le_refl _), h.below.trans (hb.mono h.below.size), h.apart⟩
theorem L2.alloc {w W : World} {l m : List (Int × Int)} {v u : Value} (h : L2 w W l m v u) (o : Obj) : L2 w (W.alloc o) l m v u := h.bel ((Below.refl _ _).alloc (Nat.le_refl _) _)
theorem ents_snoc (l : List (Int × Int)) (c x : Int) : entsV (l ++ [(c, x)]) = entsV l ++ [.int .i32 c, .int .i64 x] := by rw [entsV_app]; rfl
theorem L2.app1 {w W w3 : World} {l m : List (Int × Int)} {v u v3 : Value} {c x : Int} (h : L2 w W l m v u) (ho : w3.ownsRow w.heap.size 31 2 v3 (l.length + 1) (entsV l ++ [.int .i32 c, .int .i64 x])) (hg : W.grownBy w3 v.ownBlock)
    (hloc : v3.ownBlock = v.ownBlock ∨ v3.ownBlock = some W.heap.size) : L2 w w3 (l ++ [(c, x)]) m v3 u := by
  refine ⟨by rw [ents_snoc, List.length_append]; exact ho, ?_, h.below.grown hg h.below.size (fun g hv => (h.own1.lt g hv).1), ?_⟩
  · exact World.ownsRow.kept h.own2 hg (by
      cases hv : v.ownBlock with
      | none => cases hu : u.ownBlock with
        | none => exact .inl rfl
        | some g => exact .inr (by simp)
      | some g => exact .inr (h.apart g hv))
  · intro g hv3 hu
    rcases hloc with e | e
    · exact h.apart g (e ▸ hv3) hu
    · rw [e] at hv3
      have := (h.own2.lt g hu).2
      injection hv3 with hv3
      omega
theorem L2.app2 {w W w3 : World} {l m : List (Int × Int)} {v u u3 : Value} {c x : Int} (h : L2 w W l m v u) (ho : w3.ownsRow w.heap.size 31 2 u3 (m.length + 1) (entsV m ++ [.int .i32 c, .int .i64 x])) (hg : W.grownBy w3 u.ownBlock)
    (hloc : u3.ownBlock = u.ownBlock ∨ u3.ownBlock = some W.heap.size) : L2 w w3 l (m ++ [(c, x)]) v u3 := by
  refine ⟨?_, by rw [ents_snoc, List.length_append]; exact ho, h.below.grown hg h.below.size (fun g hv => (h.own2.lt g hv).1), ?_⟩
  · exact World.ownsRow.kept h.own1 hg (by
      cases hv : v.ownBlock with
      | none => exact .inl rfl
      | some g => exact .inr (fun e => h.apart g hv e.symm))
  · intro g hv hu3
    rcases hloc with e | e
    · exact h.apart g hv (e ▸ hu3)
    · rw [e] at hu3
      have := (h.own1.lt g hv).2
      injection hu3 with hu3
      omega
/-- what lies in another block is as it was -/
theorem blk_app {W w3 : World} {b : Nat} {t : TypeId} {cs : Array Value} {v : Value} (hB : Blk W b t cs) (hg : W.grownBy w3 v.ownBlock) (hne : v.ownBlock ≠ some b) : Blk w3 b t cs := (hg.block b hB.lt (fun e => hne e.symm)).trans hB
theorem ent_one (c x : Int) : ∀ u ∈ [Value.int .i32 c, .int .i64 x], u.oneCell' = true := by
  intro u hu
  simp only [List.mem_cons, List.not_mem_nil, or_false] at hu
  rcases hu with rfl | rfl <;> rfl
theorem blk_cells {W : World} {b : Nat} {t : TypeId} {vs : List Value} (h : Blk W b t vs.toArray) : ∀ j u, vs[j]? = some u → W.cell? ((⟨b, 0, none⟩ : Addr).add j) = some u := by
  intro j u hj
  have hadd : (⟨b, 0, none⟩ : Addr).add j = ⟨b, j, none⟩ := by unfold Addr.add; split <;> simp_all
  rw [hadd, h.cell]
  simpa using hj
end Go.Proofs.Ytkkopgkeooaofaa
