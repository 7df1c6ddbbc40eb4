/- The program's number and the document's side by side: what stays while one of them is pushed to. -/
import Derived.Test.YtiibfejgiilakaaDoorN11Push
import Derived.Test.YtiibfejgiilakaaDoorR11Push
namespace Go.Proofs.YtiibfejgiilakaaDoor
set_option maxRecDepth 100000
open Go.ChangeShapes Go.WideShapes Go.ChangeAt Go.RowKit
set_option linter.unusedVariables false
set_option linter.unusedSimpArgs false

/-- the program's number in block g has the text s, the document's in block a the text t -/
structure PP (w W : World) (g a : Nat) (s t : List UInt8) : Prop where
  n : ∃ v, NumIs W w.heap.size g v s
  r : RN W a t
  ne : g ≠ a
  b : Below w.heap.size w W
  lg : w.heap.size ≤ g
  la : w.heap.size ≤ a
theorem PP.go {w W W' : World} {g a : Nat} {s t : List UInt8} (h : PP w W g a s t) (hb : Below W.heap.size W W') : PP w W' g a s t := by
  obtain ⟨v, hn⟩ := h.n
  exact ⟨⟨v, hn.go hb (Nat.le_refl _)⟩, Blk.below h.r hb (Blk.lt h.r), h.ne, h.b.trans (hb.mono h.b.size), h.lg, h.la⟩
theorem PP.pushN {w W W' : World} {g a : Nat} {s t s2 : List UInt8} {v v' : Value} (h : PP w W g a s t) (hv : NumIs W w.heap.size g v s) (hn : NumIs W' w.heap.size g v' s2) (hf : NFr g v W W') : PP w W' g a s2 t := by
  refine ⟨⟨v', hn⟩, (hf.block a (Blk.lt h.r) (fun e => h.ne e.symm) (own_ne_t hv.own h.r (by decide))).trans h.r, h.ne, h.b.trans (hf.below h.b.size h.lg hv.low), h.lg, h.la⟩
theorem NumIs.but {w w' : World} {base g a : Nat} {v : Value} {s t : List UInt8} (h : NumIs w base g v s) (hr : RN w a t) (hne : g ≠ a) (hb : But a w w') : NumIs w' base g v s := by
  obtain ⟨u, hu, hk⟩ := h.ex
  have ho := h.own
  have hna := own_ne_t h.own hr (by decide)
  refine ⟨h.len, ⟨u, hu, hb.blk hk hne⟩, ho.1, ?_⟩
  rcases ho.2 with h2 | ⟨b, cap, cur, hv', hb', hh, h3⟩
  · exact .inl h2
  · have hlt : b < w.heap.size := (Array.getElem?_eq_some_iff.1 hh).1
    have hbn : b ≠ a := fun e => hna (by rw [hv', ← e]; rfl)
    exact .inr ⟨b, cap, cur, hv', hb', (hb.block b hlt (fun e => by injection e with e; exact hbn e)).trans hh, h3⟩
theorem PP.pushR {w W W' : World} {g a : Nat} {s t t2 : List UInt8} (h : PP w W g a s t) (hr : RN W' a t2) (hb : But a W W') : PP w W' g a s t2 := by
  obtain ⟨v, hn⟩ := h.n
  exact ⟨⟨v, hn.but h.r h.ne hb⟩, hr, h.ne, h.b.trans (hb.below h.la h.b.size), h.lg, h.la⟩
theorem PP.new {w W : World} {g : Nat} (hn : NumIs W w.heap.size g (.slice none 0 0) []) (hb : Below w.heap.size w W) (hg : w.heap.size ≤ g) : PP w (W.alloc (.cells #[.string (bs [])] 27)) g W.heap.size [] [] :=
  ⟨⟨_, hn.go ((Below.refl _ _).alloc (Nat.le_refl _) _) (Nat.le_refl _)⟩, Blk.new W _ _, fun e => by have := hn.lt; omega, hb.alloc hb.size _, hg, hb.size⟩
/-- what each push does, the text that it leaves by a letter -/
def NPost (base g : Nat) (v : Value) (s2 : List UInt8) (pe : Int) (W : World) (e : Ending) (W' : World) : Prop := e = .returned (.int .i64 pe) ∧ ∃ v', NumIs W' base g v' s2 ∧ NFr g v W W' ∧ RowAt W v v'
def RPost2 (a : Nat) (s2 : List UInt8) (pe : Int) (W : World) (e : Ending) (W' : World) : Prop := e = .returned (.int .i64 pe) ∧ RN W' a s2 ∧ But a W W'
theorem both_push (base g a : Nat) (s : List UInt8) (c : UInt8) (hs : s.length + 1 ≤ 1000) : ∃ pe s2, pushF s c = pe ∧ (if pe = 0 then s ++ [c] else s) = s2 ∧ s2.length ≤ s.length + 1
    ∧ (∀ v W, NumIs W base g v s → base ≤ W.heap.size → Calls Tryd.prog 8 #[.pointer (some ⟨g, 0, none⟩), .int .u8 (c.toNat : Int)] W (NPost base g v s2 pe W))
    ∧ (∀ W, RN W a s → Calls Tryd.prog 9 #[.pointer (some ⟨a, 0, none⟩), .int .u8 (c.toNat : Int)] W (RPost2 a s2 pe W)) := by
  refine ⟨pushF s c, _, rfl, rfl, ?_, fun v W hn hb => push_spec base g v s c W hn hs hb, fun W hr => rpush_any a s c W hr hs⟩
  split
  · rw [List.length_append]; exact Nat.le_refl _
  · omega
theorem u8_of {x : Int} (h0 : 0 ≤ x) (h1 : x ≤ 255) : ∃ c : UInt8, (c.toNat : Int) = x := by
  refine ⟨UInt8.ofNat x.toNat, ?_⟩
  rw [UInt8.toNat_ofNat', Nat.mod_eq_of_lt (by omega)]
  omega
end Go.Proofs.YtiibfejgiilakaaDoor
