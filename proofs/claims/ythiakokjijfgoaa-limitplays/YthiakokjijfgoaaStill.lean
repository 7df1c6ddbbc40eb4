/- What only draws an order; a quiet call within a region. -/
import Derived.Test.YthiakokjijfgoaaMem
import Derived.BigQuiet
namespace Go.Proofs.Ythiakokjijfgoaa
open Go.RowKit

/-- only draws -/
def Still (w w' : World) : Prop := ∃ m, w' = w.drewN m
theorem Still.refl (w : World) : Still w w := ⟨0, rfl⟩
theorem Still.drewN {w w' : World} (h : Still w w') (n : Nat) : Still w (w'.drewN n) := by
  obtain ⟨m, rfl⟩ := h
  exact ⟨m + n, by rw [World.drewN_drewN]⟩
theorem Still.cell {w w' : World} (h : Still w w') (a : Addr) : w'.cell? a = w.cell? a := by obtain ⟨m, rfl⟩ := h; rfl
theorem Still.below {w w' : World} (h : Still w w') : Below w.heap.size w w' := by obtain ⟨m, rfl⟩ := h; exact below_drewN' (Below.refl _ _) m
theorem quiet_left' {P : Program} {f : FuncId} {args : Array Value} {w : World} {n : Nat} {v : Value}
    (h : Calls P f args (w.drewN n) fun e w' => e = .returned v ∧ w.drewN n = w') : Calls P f args (w.drewN n) fun e w'' => e = .returned v ∧ ∃ m, w'' = w.drewN m :=
  h.mono fun _ _ ⟨he, hm⟩ => ⟨he, n, hm.symm⟩
theorem Still.trans {a b c : World} (h : Still a b) (k : Still b c) : Still a c := by
  obtain ⟨m, rfl⟩ := h
  obtain ⟨n, rfl⟩ := k
  exact ⟨m + n, by rw [World.drewN_drewN]⟩
theorem Still.lower {w w' : World} (h : Still w w') (B : Nat) : Below B w w' := by obtain ⟨m, rfl⟩ := h; exact below_drewN' (Below.refl _ _) m
end Go.Proofs.Ythiakokjijfgoaa
