/- What has been gathered of the texts, in memory. -/
import Derived.Test.YtmphfdnpnhlpjaaGMem
import Derived.Test.YtmphfdnpnhlpjaaAnyU
import Derived.Test.YtmphfdnpnhlpjaaSt4Build
import Derived.Test.YtmphfdnpnhlpjaaU5It
import Derived.Test.YtmphfdnpnhlpjaaU5Data
namespace Go.Proofs.Ytmphfdnpnhlpjaa
open Go.ChangeShapes Go.WideShapes Go.ChangeAt Go.RowKit
set_option linter.unusedVariables false

abbrev rowTs : List TypeId := [78, 69]
def zEnt : Value := .agg #[.int .i32 0, .int .i64 0]
def zTwo : Value := .agg #[.int .i32 0, .int .i32 0]
theorem info_zEnt : (Try.prog.info? 78).map (fun i => (i.zero, i.size, i.bytes)) = some (some zEnt, 2, 16) := by kernel_rfl
theorem info_zTwo : (Try.prog.info? 69).map (fun i => (i.zero, i.size, i.bytes)) = some (some zTwo, 2, 8) := by kernel_rfl
/-- keys that are joined -/
abbrev DD (b : List Int) : Prop := b.length = 2 ∧ ∀ x ∈ b, (Lit.int .i32 x).wf = true
def twV (P : List Pr5) : List Value := P.flatMap fun p => [.int .i32 p.x, .int .i32 p.y]
theorem twV_app (P Q : List Pr5) : twV (P ++ Q) = twV P ++ twV Q := List.flatMap_append

def GAt (W : World) (gb mb base lo up : Nat) (C : List (Nat × Nat)) (P : List Pr5) (S : List (Nat × Nat)) : Prop :=
  ∃ v0 v1 v2 v3 v4, GMem W 53 gb base lo up
    [⟨v0, 78, C.length, entsV (castE C)⟩, ⟨v1, 78, P.length, entsV (castE (prI 0 P))⟩, ⟨v2, 78, S.length, entsV (castE S)⟩, ⟨v3, 78, (scL P).length, entsV (castE (scL P))⟩, ⟨v4, 69, P.length, twV P⟩]
    [.map (some mb), .int .i64 (outs P)] ∧ MapIs W mb (arrV .i32) (Value.int .i32) DD (jst P).1 (jst P).2 ∧ mb < base ∧ gb ≠ mb
def GPost5 (w : World) (gb mb base lo up : Nat) (r : Int) (C : List (Nat × Nat)) (P : List Pr5) (S : List (Nat × Nat)) (e : Ending) (w' : World) : Prop :=
  e = .returned (.int .i32 r) ∧ GAt w' gb mb base lo up C P S ∧ Fr rowTs [gb, mb] base w w'
section
variable {W W' : World} {gb mb base lo up : Nat} {C : List (Nat × Nat)} {P : List Pr5} {S : List (Nat × Nat)}
theorem GAt.lt (h : GAt W gb mb base lo up C P S) : gb < W.heap.size := by obtain ⟨v0, v1, v2, v3, v4, hM, _⟩ := h; exact hM.blk.lt
theorem GAt.lt' (h : GAt W gb mb base lo up C P S) : mb < W.heap.size := by obtain ⟨v0, v1, v2, v3, v4, _, hm, _⟩ := h; exact hm.lt
theorem GAt.grow (h : GAt W gb mb base lo up C P S) (hb : Below W.heap.size W W') : GAt W' gb mb base lo up C P S := by
  obtain ⟨v0, v1, v2, v3, v4, hM, hm, h1, h2⟩ := h
  exact ⟨v0, v1, v2, v3, v4, gm_grow hM hb, hm.below hb hm.lt, h1, h2⟩
theorem GAt.alloc (h : GAt W gb mb base lo up C P S) (o : Obj) : GAt (W.alloc o) gb mb base lo up C P S := h.grow ((Below.refl _ _).alloc (Nat.le_refl _) _)
theorem GAt.but (h : GAt W gb mb base lo up C P S) {g : Nat} (hb : But g W W') (h1 : g ≠ gb) (h2 : g ≠ mb) (h3 : lo ≤ g) (h3' : g < up) : GAt W' gb mb base lo up C P S := by
  obtain ⟨v0, v1, v2, v3, v4, hM, hm, h4, h5⟩ := h
  refine ⟨v0, v1, v2, v3, v4, ⟨hb.blk hM.blk (Ne.symm h1), fun i r hi => ?_, hM.apt, hM.low, Nat.le_trans hM.top hb.size, hM.out⟩, hm.block (hb.block mb hm.lt (fun e => h2 (by injection e with e; exact e.symm))), h4, h5⟩
  refine World.ownsRow.kept (hM.own i r hi) hb ?_
  cases hv : r.v.ownBlock with
  | none => exact .inl rfl
  | some k => exact .inr (fun e => by
      have := hM.out i r k hi hv
      injection e with e; omega)
/-- a store into a block of another type -/
theorem GAt.cell (h : GAt W gb mb base lo up C P S) {g : Nat} {t : TypeId} {cs : Array Value} (hg : Blk W g t cs) (ht : t ∉ rowTs) (h1 : g ≠ gb) (h2 : g ≠ mb) (i : Nat) (u : Value) : GAt (W.setCell ⟨g, i, none⟩ u) gb mb base lo up C P S := by
  obtain ⟨v0, v1, v2, v3, v4, hM, hm, h4, h5⟩ := h
  have hb := (But.refl g W).set i u
  refine ⟨v0, v1, v2, v3, v4, ⟨hb.blk hM.blk (Ne.symm h1), fun j r hj => ?_, hM.apt, hM.low, Nat.le_trans hM.top hb.size, hM.out⟩, hm.block (hb.block mb hm.lt (fun e => h2 (by injection e with e; exact e.symm))), h4, h5⟩
  have hr := hM.own j r hj
  refine World.ownsRow.kept hr hb ?_
  rcases hr.2 with ⟨e1, _⟩ | ⟨k, cap, cur, e1, _, hh, _⟩
  · exact .inl (by rw [e1]; rfl)
  · refine .inr (fun e' => ?_)
    rw [e1] at e'
    obtain rfl : k = g := by simpa [Value.ownBlock] using e'
    have e2 : t = r.e := by
      unfold Blk at hg
      rw [hg] at hh
      injection hh with hh
      injection hh
    have : r.e ∈ rowTs := by
      match j, hj with
      | 0, hj => simp at hj; subst hj; exact (by decide : (78 : Nat) ∈ rowTs)
      | 1, hj => simp at hj; subst hj; exact (by decide : (78 : Nat) ∈ rowTs)
      | 2, hj => simp at hj; subst hj; exact (by decide : (78 : Nat) ∈ rowTs)
      | 3, hj => simp at hj; subst hj; exact (by decide : (78 : Nat) ∈ rowTs)
      | 4, hj => simp at hj; subst hj; exact (by decide : (69 : Nat) ∈ rowTs)
      | n + 5, hj => simp at hj
    exact ht (e2 ▸ this)
/-- where the heap ends ahead of the blocks that are kept free of rows -/
theorem GAt.renew {lo' up' : Nat} (h : GAt W gb mb base lo up C P S) (hl : W.heap.size ≤ lo') : GAt W gb mb base lo' up' C P S := by
  obtain ⟨v0, v1, v2, v3, v4, hM, hm, h4, h5⟩ := h
  exact ⟨v0, v1, v2, v3, v4, ⟨hM.blk, hM.own, hM.apt, hM.low, hM.top, fun i r k hi hk => .inl (by have := ((hM.own i r hi).lt k hk).2; omega)⟩, hm, h4, h5⟩
end
theorem Fr.mapIs {E : List TypeId} {L : List Nat} {base : Nat} {W W' : World} {b : Nat} {κ ν : Type} {kv : κ → Value} {vv : ν → Value} {D : κ → Prop} {ks : List κ} {f : κ → ν} (h : Fr E L base W W') (hm : MapIs W b kv vv D ks f) (hL : b ∉ L) (hb : b < base) : MapIs W' b kv vv D ks f :=
  hm.block ((h.keep b _ (Array.getElem?_eq_getElem hm.lt) hL (.inl hb)).trans (Array.getElem?_eq_getElem hm.lt).symm)
/-- a block of another type is as it was behind an append -/
theorem row_blk {W w1 : World} {base : Nat} {e : TypeId} {s n : Nat} {v : Value} {xs : List Value} {k : Nat} {t : TypeId} {cs : Array Value} (hb : Blk W k t cs) (ho : W.ownsRow base e s v n xs) (hte : t ≠ e) (hg : W.grownBy w1 v.ownBlock) : Blk w1 k t cs := by
  refine (hg.block k hb.lt (fun e' => ?_)).trans hb
  rcases ho.2 with ⟨rfl, _⟩ | ⟨g, cap, cur, rfl, _, hh, _⟩
  · cases e'
  · obtain rfl : k = g := by simpa [Value.ownBlock] using e'
    unfold Blk at hb
    rw [hb] at hh
    injection hh with hh
    injection hh with _ hh
    exact hte hh
end Go.Proofs.Ytmphfdnpnhlpjaa
