/- The program's Gram and the document's side by side: what stays while one of them takes. -/
import Derived.Test.YtdkfffncohipbaaN13Awk
import Derived.Test.YtdkfffncohipbaaR13B
namespace Go.Proofs.Ytdkfffncohipbaa
set_option maxRecDepth 100000
open Go.ChangeShapes Go.WideShapes Go.ChangeAt Go.RowKit
set_option linter.unusedVariables false
set_option linter.unusedSimpArgs false

/-- the program's in block g, of what q is, and the document's in block a, of what t is -/
structure PG (w W : World) (g a : Nat) (v u : Value) (q t : Gm) : Prop where
  p : GIs W w.heap.size g v q
  r : RIs W w.heap.size a u t
  b : Below w.heap.size w W
theorem PG.go {w W W' : World} {g a : Nat} {v u : Value} {q t : Gm} (h : PG w W g a v u q t) (hb : Below W.heap.size W W') : PG w W' g a v u q t :=
  ⟨h.p.go hb, h.r.go hb, h.b.trans (hb.mono h.b.size)⟩
theorem PG.still {w W W' : World} {g a : Nat} {v u : Value} {q t : Gm} (h : PG w W g a v u q t) (hs : Still W W') : PG w W' g a v u q t := h.go hs.below
theorem PG.pushP {w W W' : World} {g a : Nat} {v u v' : Value} {q t q' : Gm} (h : PG w W g a v u q t) (hp : GIs W' w.heap.size g v' q') (hf : SFr g g v W W') : PG w W' g a v' u q' t := by
  have r := h.r
  have e1 : a ≠ g := blk_ne r.blk h.p.blk (by decide)
  have e3 : v.ownBlock ≠ some a := rown_ne h.p.own r.blk (by decide)
  refine ⟨hp, ⟨r.ok, r.len, (hf.block a r.blk.lt e1 e1 e3).trans r.blk, ?_, r.la⟩, h.b.trans (hf.ofG h.p h.b.size)⟩
  exact rown_frame r.own hf (fun x hx => ⟨fun e => by rw [e] at hx; exact rown_ne r.own h.p.blk (by decide) hx, fun e => by rw [e] at hx; exact rown_ne r.own h.p.blk (by decide) hx, rown_apart r.own h.p.own (by decide) x hx⟩)
theorem PG.pushR {w W W' : World} {g a : Nat} {v u u' : Value} {q t t' : Gm} (h : PG w W g a v u q t) (hp : RIs W' w.heap.size a u' t') (hf : SFr a a u W W') : PG w W' g a v u' q t' := by
  have p := h.p
  have e1 : g ≠ a := blk_ne p.blk h.r.blk (by decide)
  have e3 : u.ownBlock ≠ some g := rown_ne h.r.own p.blk (by decide)
  refine ⟨⟨p.ok, p.len, (hf.block g p.blk.lt e1 e1 e3).trans p.blk, ?_, p.lg⟩, hp, h.b.trans (hf.low h.b.size h.r.la h.r.la (rown_low h.r.own))⟩
  exact rown_frame p.own hf (fun x hx => ⟨fun e => by rw [e] at hx; exact rown_ne p.own h.r.blk (by decide) hx, fun e => by rw [e] at hx; exact rown_ne p.own h.r.blk (by decide) hx, rown_apart p.own h.r.own (by decide) x hx⟩)
theorem PG.new {w W : World} {g : Nat} (hn : GIs W w.heap.size g (.slice none 0 0) gm0) (hb : Below w.heap.size w W) : PG w (W.alloc (.cells #[.slice none 0 0, .int .i64 0] 27)) g W.heap.size (.slice none 0 0) (.slice none 0 0) gm0 gm0 :=
  ⟨hn.go ((Below.refl _ _).alloc (Nat.le_refl _) _), ⟨gok_0, by decide, Blk.new W _ _, World.ownsRow_nil _ _ _ _, hb.size⟩, hb.alloc hb.size _⟩
/-! ## what only reads, wherever the world stands that has only drawn -/
theorem depth_q (base g : Nat) (v : Value) (q : Gm) (w : World) (h : GIs w base g v q) : ∀ n, Calls Try.prog 15 #[.pointer (some ⟨g, 0, none⟩)] (w.drewN n) fun e w'' => e = .returned (.int .i64 (q.s.length : Int)) ∧ ∃ m, w'' = w.drewN m := fun n => quiet_left' (depth_any base g v q _ (h.still ⟨n, rfl⟩))
theorem name_q (base g : Nat) (v : Value) (q : Gm) (w : World) (h : GIs w base g v q) : ∀ n, Calls Try.prog 16 #[.pointer (some ⟨g, 0, none⟩)] (w.drewN n) fun e w'' => e = .returned (.bool (nameB q)) ∧ ∃ m, w'' = w.drewN m := fun n => quiet_left' (name_any base g v q _ (h.still ⟨n, rfl⟩))
theorem ended_q (base g : Nat) (v : Value) (q : Gm) (w : World) (h : GIs w base g v q) : ∀ n, Calls Try.prog 18 #[.pointer (some ⟨g, 0, none⟩)] (w.drewN n) fun e w'' => e = .returned (.bool (endB q)) ∧ ∃ m, w'' = w.drewN m := fun n => quiet_left' (ended_any base g v q _ (h.still ⟨n, rfl⟩))
theorem rname_q (base g : Nat) (v : Value) (q : Gm) (w : World) (h : RIs w base g v q) : ∀ n, Calls Try.prog 17 #[.pointer (some ⟨g, 0, none⟩)] (w.drewN n) fun e w'' => e = .returned (.bool (nameB q)) ∧ ∃ m, w'' = w.drewN m := fun n => quiet_left' (rname_any base g v q _ (h.still ⟨n, rfl⟩))
theorem rended_q (base g : Nat) (v : Value) (q : Gm) (w : World) (h : RIs w base g v q) : ∀ n, Calls Try.prog 19 #[.pointer (some ⟨g, 0, none⟩)] (w.drewN n) fun e w'' => e = .returned (.bool (endB q)) ∧ ∃ m, w'' = w.drewN m := fun n => quiet_left' (rended_any base g v q _ (h.still ⟨n, rfl⟩))
end Go.Proofs.Ytdkfffncohipbaa
