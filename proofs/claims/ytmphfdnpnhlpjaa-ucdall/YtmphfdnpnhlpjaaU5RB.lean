/- The document's Build (layer 5) by its contract. -/
import Derived.Test.YtmphfdnpnhlpjaaU5Rows
import Derived.Test.YtmphfdnpnhlpjaaU5Facts
import Derived.Test.YtmphfdnpnhlpjaaSt4Gath
import Derived.Test.YtmphfdnpnhlpjaaTxtOrthoepyref05Build
import Derived.StillTailTactics
import Derived.Test.YtmphfdnpnhlpjaaAnyU
namespace Go.Proofs.Ytmphfdnpnhlpjaa
open Go.ChangeShapes Go.WideShapes Go.ChangeAt Go.RowKit
set_option linter.unusedVariables false
set_option linter.unusedSimpArgs false

abbrev DD2 (b : List Int) : Prop := b.length = 2 ∧ ∀ x ∈ b, (Lit.int .i32 x).wf = true
theorem kvI : Kv Try.prog 21 (Value.int .i32) D32 := int_kv Try.underlying21
theorem kv2 : Kv Try.prog 30 (arrV .i32) DD2 := arr_kv laidOut4 (of_decide_eq_true (by kernel_rfl)) ts4 Try.underlying30 Try.underlying21 (by kernel_rfl) (by kernel_rfl) (by kernel_rfl)

/-- the document's tables in memory: five maps from block N on, the struct behind them -/
structure DAt (W : World) (N : Nat) (C : List (Int × Int)) (K : List (Int × List Int)) (S : List (Int × Int)) (J : List (List Int × Int)) (Q : List (Int × Int)) (L : Int) : Prop where
  blk : Blk W (N + 5) 37 #[.map (some N), .map (some (N + 1)), .map (some (N + 2)), .map (some (N + 3)), .map (some (N + 4)), .int .i64 L]
  c : MapIs W N (Value.int .i32) (Value.int .i64) D32 (mst 0 C).1 (mst 0 C).2
  k : MapIs W (N + 1) (Value.int .i32) (arrV .i32) D32 (mst [0, 0] K).1 (mst [0, 0] K).2
  s : MapIs W (N + 2) (Value.int .i32) (Value.int .i32) D32 (mst 0 S).1 (mst 0 S).2
  j : MapIs W (N + 3) (arrV .i32) (Value.int .i32) DD2 (mst 0 J).1 (mst 0 J).2
  q : MapIs W (N + 4) (Value.int .i32) (Value.int .i64) D32 (mst 0 Q).1 (mst 0 Q).2
section
variable {W W' : World} {N : Nat} {C : List (Int × Int)} {K : List (Int × List Int)} {S : List (Int × Int)} {J : List (List Int × Int)} {Q : List (Int × Int)} {L : Int}
theorem DAt.grow (h : DAt W N C K S J Q L) (hb : Below W.heap.size W W') : DAt W' N C K S J Q L :=
  ⟨h.blk.below hb h.blk.lt, h.c.below hb h.c.lt, h.k.below hb h.k.lt, h.s.below hb h.s.lt, h.j.below hb h.j.lt, h.q.below hb h.q.lt⟩
theorem DAt.lt (h : DAt W N C K S J Q L) : N + 5 < W.heap.size := h.blk.lt
theorem mapIs_but {W W' : World} {g b : Nat} {κ ν : Type} {kv : κ → Value} {vv : ν → Value} {D : κ → Prop} {ks : List κ} {f : κ → ν} (h : MapIs W b kv vv D ks f) (hb : But g W W') (hne : b ≠ g) : MapIs W' b kv vv D ks f :=
  h.block (hb.block b h.lt (fun e => hne (by injection e)))
theorem DAt.putC (h : DAt W N C K S J Q L) {c v : Int} (hm : MapIs W' N (Value.int .i32) (Value.int .i64) D32 (kput (mst 0 C).1 c) (upd (mst 0 C).2 c v)) (hb : But N W W') : DAt W' N (C ++ [(c, v)]) K S J Q L :=
  ⟨hb.blk h.blk (by omega), by rw [mst_snoc]; exact hm, mapIs_but h.k hb (by omega), mapIs_but h.s hb (by omega), mapIs_but h.j hb (by omega), mapIs_but h.q hb (by omega)⟩
theorem DAt.putK (h : DAt W N C K S J Q L) {c : Int} {v : List Int} (hm : MapIs W' (N + 1) (Value.int .i32) (arrV .i32) D32 (kput (mst [0, 0] K).1 c) (upd (mst [0, 0] K).2 c v)) (hb : But (N + 1) W W') : DAt W' N C (K ++ [(c, v)]) S J Q L :=
  ⟨hb.blk h.blk (by omega), mapIs_but h.c hb (by omega), by rw [mst_snoc]; exact hm, mapIs_but h.s hb (by omega), mapIs_but h.j hb (by omega), mapIs_but h.q hb (by omega)⟩
theorem DAt.putS (h : DAt W N C K S J Q L) {c v : Int} (hm : MapIs W' (N + 2) (Value.int .i32) (Value.int .i32) D32 (kput (mst 0 S).1 c) (upd (mst 0 S).2 c v)) (hb : But (N + 2) W W') : DAt W' N C K (S ++ [(c, v)]) J Q L :=
  ⟨hb.blk h.blk (by omega), mapIs_but h.c hb (by omega), mapIs_but h.k hb (by omega), by rw [mst_snoc]; exact hm, mapIs_but h.j hb (by omega), mapIs_but h.q hb (by omega)⟩
theorem DAt.putJ (h : DAt W N C K S J Q L) {c : List Int} {v : Int} (hm : MapIs W' (N + 3) (arrV .i32) (Value.int .i32) DD2 (kput (mst 0 J).1 c) (upd (mst 0 J).2 c v)) (hb : But (N + 3) W W') : DAt W' N C K S (J ++ [(c, v)]) Q L :=
  ⟨hb.blk h.blk (by omega), mapIs_but h.c hb (by omega), mapIs_but h.k hb (by omega), mapIs_but h.s hb (by omega), by rw [mst_snoc]; exact hm, mapIs_but h.q hb (by omega)⟩
theorem DAt.putQ (h : DAt W N C K S J Q L) {c v : Int} (hm : MapIs W' (N + 4) (Value.int .i32) (Value.int .i64) D32 (kput (mst 0 Q).1 c) (upd (mst 0 Q).2 c v)) (hb : But (N + 4) W W') : DAt W' N C K S J (Q ++ [(c, v)]) L :=
  ⟨hb.blk h.blk (by omega), mapIs_but h.c hb (by omega), mapIs_but h.k hb (by omega), mapIs_but h.s hb (by omega), mapIs_but h.j hb (by omega), by rw [mst_snoc]; exact hm⟩
theorem DAt.putL (h : DAt W N C K S J Q L) (L' : Int) : DAt (W.setCell ⟨N + 5, 5, none⟩ (.int .i64 L')) N C K S J Q L' :=
  ⟨by have := h.blk.set 5 (.int .i64 L'); simpa using this, h.c.far (p := ⟨N + 5, 5, none⟩) (show N ≠ N + 5 by omega) _, h.k.far (p := ⟨N + 5, 5, none⟩) (show N + 1 ≠ N + 5 by omega) _, h.s.far (p := ⟨N + 5, 5, none⟩) (show N + 2 ≠ N + 5 by omega) _, h.j.far (p := ⟨N + 5, 5, none⟩) (show N + 3 ≠ N + 5 by omega) _, h.q.far (p := ⟨N + 5, 5, none⟩) (show N + 4 ≠ N + 5 by omega) _⟩
end
abbrev dW (w : World) : World := (((((w.alloc (.map #[] 0)).alloc (.map #[] 0)).alloc (.map #[] 0)).alloc (.map #[] 0)).alloc (.map #[] 0)).alloc (.cells #[.map (some w.heap.size), .map (some (w.heap.size + 1)), .map (some (w.heap.size + 1 + 1)), .map (some (w.heap.size + 1 + 1 + 1)), .map (some (w.heap.size + 1 + 1 + 1 + 1)), .int .i64 0] 37)
theorem dat_start (w : World) : DAt (dW w) w.heap.size [] [] [] [] [] 0 := by
  have m0 := MapIs.made w (Value.int .i32) (Value.int .i64) D32 (fun _ => (0 : Int))
  have m1 := MapIs.made (w.alloc (.map #[] 0)) (Value.int .i32) (arrV .i32) D32 (fun _ => ([0, 0] : List Int))
  have m2 := MapIs.made ((w.alloc (.map #[] 0)).alloc (.map #[] 0)) (Value.int .i32) (Value.int .i32) D32 (fun _ => (0 : Int))
  have m3 := MapIs.made (((w.alloc (.map #[] 0)).alloc (.map #[] 0)).alloc (.map #[] 0)) (arrV .i32) (Value.int .i32) DD2 (fun _ => (0 : Int))
  have m4 := MapIs.made ((((w.alloc (.map #[] 0)).alloc (.map #[] 0)).alloc (.map #[] 0)).alloc (.map #[] 0)) (Value.int .i32) (Value.int .i64) D32 (fun _ => (0 : Int))
  have b := Blk.new (((((w.alloc (.map #[] 0)).alloc (.map #[] 0)).alloc (.map #[] 0)).alloc (.map #[] 0)).alloc (.map #[] 0)) 37 #[.map (some w.heap.size), .map (some (w.heap.size + 1)), .map (some (w.heap.size + 1 + 1)), .map (some (w.heap.size + 1 + 1 + 1)), .map (some (w.heap.size + 1 + 1 + 1 + 1)), .int .i64 0]
  simp only [World.size_alloc] at m1 m2 m3 m4 b
  exact ⟨b, ((((m0.alloc _).alloc _).alloc _).alloc _).alloc _, (((m1.alloc _).alloc _).alloc _).alloc _, ((m2.alloc _).alloc _).alloc _, (m3.alloc _).alloc _, m4.alloc _⟩

/-- a row of rows, read -/
theorem rowsIs_at {W : World} {B : Nat} {A : Option Addr} {cap n : Nat} {R : List (List Int)} (h : RowsIs W B (.slice A n cap) R) {i : Nat} {r : List Int} (hr : R[i]? = some r) :
    ∃ b bi ci, A = some ⟨b, 0, none⟩ ∧ b < B ∧ bi < B ∧ r.length ≤ ci ∧ ci ≤ maxLen ∧ W.cell? ⟨b, i, none⟩ = some (.slice (some ⟨bi, 0, none⟩) r.length ci) ∧ ∀ (j : Nat) (x : Int), r[j]? = some x → W.cell? ⟨bi, j, none⟩ = some (.int .i32 x) := by
  obtain ⟨A', cap', e1, e2, e3, h⟩ := h
  injection e1 with e4 e5 e6
  subst e4
  rcases h with h | ⟨b, e7, e8, e9⟩
  · rw [h] at hr; simp at hr
  · obtain ⟨bi, ci, f1, f2, f3, f4, f5⟩ := e9 i r hr
    exact ⟨b, bi, ci, e7, e8, f1, f2, f3, f4, f5⟩
theorem rowsIs_form {W : World} {B : Nat} {v : Value} {R : List (List Int)} (h : RowsIs W B v R) : ∃ A cap, v = .slice A R.length cap ∧ R.length ≤ cap ∧ cap ≤ maxLen := by
  obtain ⟨A', cap', e1, e2, e3, h⟩ := h
  exact ⟨A', cap', e1, e2, e3⟩

/-- what the document's Build reads can be read, and is these entries -/
structure DTxt (s : ByteArray) (es : List Ent) (f : Ent → List Int) : Prop where
  size : s.size ≤ 65536
  ok : rokAll (bytesOf s ++ [10]) rzero = true
  rows : rowsOf (bytesOf s) = es.map f
  small : ∀ e ∈ es, e.n1 ≤ 100000000 ∧ e.n2 ≤ 100000000
  len : es.length ≤ 100000000
def DPost (w : World) (C : List (Int × Int)) (K : List (Int × List Int)) (S : List (Int × Int)) (J : List (List Int × Int)) (Q : List (Int × Int)) (L : Int) (e : Ending) (w' : World) : Prop :=
  e = .returned (.pointer (some ⟨w.heap.size + 5, 0, none⟩)) ∧ DAt w' w.heap.size C K S J Q L ∧ Below w.heap.size w w'
def pk5 (P : List Pr5) : List (Int × List Int) := P.map fun p => ((p.c : Int), key5 p)
theorem pk5_snoc (P : List Pr5) (p : Pr5) : pk5 (P ++ [p]) = pk5 P ++ [((p.c : Int), key5 p)] := by unfold pk5; rw [List.map_append]; rfl
theorem jL_snoc (P : List Pr5) (p : Pr5) : jL (P ++ [p]) = if p.o then jL P else jL P ++ [(key5 p, (p.c : Int))] := by
  unfold jL
  rw [List.filter_append, List.map_append]
  cases ho : p.o <;> simp [ho]


theorem map_apart {W : World} {b : Nat} {κ ν : Type} {kv : κ → Value} {vv : ν → Value} {D : κ → Prop} {ks : List κ} {f : κ → ν} (h : MapIs W b kv vv D ks f) {p : Addr} {x : Value} (hc : W.cell? p = some x) : p.block ≠ b := fun e => by
  obtain ⟨es, clock, hb, _⟩ := h
  unfold World.cell? at hc
  rw [e, hb] at hc
  cases hc
theorem cell_lt {W : World} {p : Addr} {x : Value} (hc : W.cell? p = some x) : p.block < W.heap.size := by
  apply Classical.byContradiction; intro hn
  unfold World.cell? at hc
  rw [Array.getElem?_eq_none (by omega)] at hc
  cases hc
theorem rowsIs_keep {W W' : World} {B : Nat} {v : Value} {R : List (List Int)} (h : RowsIs W B v R) (hk : ∀ (p : Addr) (x : Value), W.cell? p = some x → (∀ L : Int, x ≠ .int .i64 L) → W'.cell? p = some x) : RowsIs W' B v R := by
  obtain ⟨A, cap, e1, e2, e3, h⟩ := h
  refine ⟨A, cap, e1, e2, e3, h.imp id fun ⟨b, e4, e5, e6⟩ => ⟨b, e4, e5, fun i r hr => ?_⟩⟩
  obtain ⟨bi, ci, f1, f2, f3, f4, f5⟩ := e6 i r hr
  exact ⟨bi, ci, f1, f2, f3, hk _ _ f4 (fun L e => by cases e), fun j x hj => hk _ _ (f5 j x hj) (fun L e => by injection e with e; cases e)⟩
theorem rowsIs_but {W W' : World} {B b : Nat} {v : Value} {R : List (List Int)} (h : RowsIs W B v R) {κ ν : Type} {kv : κ → Value} {vv : ν → Value} {D : κ → Prop} {ks : List κ} {f : κ → ν} (hm : MapIs W b kv vv D ks f) (hb : But b W W') : RowsIs W' B v R :=
  rowsIs_keep h fun p x hc _ => (hb.cell (cell_lt hc) (map_apart hm hc)).trans hc

/-- while Build fills its tables -/
structure DSt (w : World) (B : Nat) (v : Value) (R : List (List Int)) (C : List (Int × Int)) (K : List (Int × List Int)) (S : List (Int × Int)) (J : List (List Int × Int)) (Q : List (Int × Int)) (L : Int) (W : World) : Prop where
  tb : DAt W w.heap.size C K S J Q L
  rows : RowsIs W B v R
  hB : B ≤ W.heap.size
  be : Below w.heap.size w W
section
variable {w W W' : World} {B : Nat} {v : Value} {R : List (List Int)} {C : List (Int × Int)} {K : List (Int × List Int)} {S : List (Int × Int)} {J : List (List Int × Int)} {Q : List (Int × Int)} {L : Int}
theorem DSt.drew (h : DSt w B v R C K S J Q L W) : DSt w B v R C K S J Q L W.drew :=
  ⟨h.tb.grow (Below.refl _ _).drew, h.rows.below (Below.refl _ W).drew h.hB, h.hB, h.be.drew⟩
theorem DSt.grow (h : DSt w B v R C K S J Q L W) (hb : Below W.heap.size W W') : DSt w B v R C K S J Q L W' :=
  ⟨h.tb.grow hb, h.rows.below hb h.hB, Nat.le_trans h.hB hb.size, h.be.trans (hb.mono h.be.size)⟩
theorem DSt.but {b : Nat} (h : DSt w B v R C K S J Q L W) (hb : But b W W') (hw : w.heap.size ≤ b) : B ≤ W'.heap.size ∧ Below w.heap.size w W' :=
  ⟨Nat.le_trans h.hB hb.size, h.be.trans (hb.below hw h.be.size)⟩
theorem DSt.putC (h : DSt w B v R C K S J Q L W) {c x : Int} (hm : MapIs W' w.heap.size (Value.int .i32) (Value.int .i64) D32 (kput (mst 0 C).1 c) (upd (mst 0 C).2 c x)) (hb : But w.heap.size W W') : DSt w B v R (C ++ [(c, x)]) K S J Q L W' :=
  ⟨h.tb.putC hm hb, rowsIs_but h.rows h.tb.c hb, (h.but hb (by omega)).1, (h.but hb (by omega)).2⟩
theorem DSt.putK (h : DSt w B v R C K S J Q L W) {c : Int} {x : List Int} (hm : MapIs W' (w.heap.size + 1) (Value.int .i32) (arrV .i32) D32 (kput (mst [0, 0] K).1 c) (upd (mst [0, 0] K).2 c x)) (hb : But (w.heap.size + 1) W W') : DSt w B v R C (K ++ [(c, x)]) S J Q L W' :=
  ⟨h.tb.putK hm hb, rowsIs_but h.rows h.tb.k hb, (h.but hb (by omega)).1, (h.but hb (by omega)).2⟩
theorem DSt.putS (h : DSt w B v R C K S J Q L W) {c x : Int} (hm : MapIs W' (w.heap.size + 2) (Value.int .i32) (Value.int .i32) D32 (kput (mst 0 S).1 c) (upd (mst 0 S).2 c x)) (hb : But (w.heap.size + 2) W W') : DSt w B v R C K (S ++ [(c, x)]) J Q L W' :=
  ⟨h.tb.putS hm hb, rowsIs_but h.rows h.tb.s hb, (h.but hb (by omega)).1, (h.but hb (by omega)).2⟩
theorem DSt.putJ (h : DSt w B v R C K S J Q L W) {c : List Int} {x : Int} (hm : MapIs W' (w.heap.size + 3) (arrV .i32) (Value.int .i32) DD2 (kput (mst 0 J).1 c) (upd (mst 0 J).2 c x)) (hb : But (w.heap.size + 3) W W') : DSt w B v R C K S (J ++ [(c, x)]) Q L W' :=
  ⟨h.tb.putJ hm hb, rowsIs_but h.rows h.tb.j hb, (h.but hb (by omega)).1, (h.but hb (by omega)).2⟩
theorem DSt.putQ (h : DSt w B v R C K S J Q L W) {c x : Int} (hm : MapIs W' (w.heap.size + 4) (Value.int .i32) (Value.int .i64) D32 (kput (mst 0 Q).1 c) (upd (mst 0 Q).2 c x)) (hb : But (w.heap.size + 4) W W') : DSt w B v R C K S J (Q ++ [(c, x)]) L W' :=
  ⟨h.tb.putQ hm hb, rowsIs_but h.rows h.tb.q hb, (h.but hb (by omega)).1, (h.but hb (by omega)).2⟩
theorem DSt.putL (h : DSt w B v R C K S J Q L W) (L' : Int) : DSt w B v R C K S J Q L' (W.setCell ⟨w.heap.size + 5, 5, none⟩ (.int .i64 L')) :=
  ⟨h.tb.putL L', rowsIs_keep h.rows fun p x hc hx => by
      rw [World.cell?_setCell_other]
      · exact hc
      · intro e; rw [← e, h.tb.blk.cell 5] at hc; simp at hc; exact hx L hc.symm, by simpa [World.setCell] using h.hB, h.be.trans (((But.refl (w.heap.size + 5) W).set 5 _).below (by omega) h.be.size)⟩
end
end Go.Proofs.Ytmphfdnpnhlpjaa
