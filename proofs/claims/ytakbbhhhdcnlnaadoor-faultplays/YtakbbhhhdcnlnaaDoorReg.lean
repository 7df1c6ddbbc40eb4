/- A region that draws its order, walked in one order: what only reads is taken as soon as it may come up, if it yields the same in every world that has only grown; what calls comes up alone. The laws beneath are the library's (OrdersHeld); here the condition on the world moves on with the world. -/
import Derived.Test.YtakbbhhhdcnlnaaDoorMem
import Derived.OrdersHeld
import Derived.Deep.RegionHeld
namespace Go.Proofs.YtakbbhhhdcnlnaaDoor
open Go.RowKit

/-- nothing that was there has turned -/
def Grow (w w' : World) : Prop := Below w.heap.size w w'
theorem Grow.refl (w : World) : Grow w w := Below.refl _ _
theorem Grow.trans {a b c : World} (h : Grow a b) (k : Grow b c) : Grow a c := Below.trans h (k.mono h.size)
theorem Grow.below {w w' : World} (h : Grow w w') : Below w.heap.size w w' := h
theorem Grow.drew (w : World) : Grow w w.drew := (Below.refl _ _).drew
theorem Ints.grow {w w' : World} {k : IntKind} {A : Option Addr} {xs : List Int} (h : Ints w w.heap.size k A xs) (hg : Grow w w') : Ints w' w'.heap.size k A xs := (h.below hg (Nat.le_refl _)).more hg.size

section
variable {P : Program} {ops : Array Oper} {Q : Exit → Act → World → Prop} {md : Region.Mode}

/-- whatever order the rest comes up in, the world only grows from w on -/
def wpG (P : Program) (md : Region.Mode) (ops : Array Oper) (Q : Exit → Act → World → Prop) (fuel : Nat) (listed : Array Bool) (a : Act) (w : World) : Prop := wpAnyH P md ops Q (Grow w) fuel listed a w

/-- a narrower condition serves for a wider one -/
theorem wpAnyH_wider {S S' : World → Prop} (hS : ∀ w, S' w → S w) : ∀ (fuel : Nat) (listed : Array Bool) (a : Act) (w : World), wpAnyH P md ops Q S' fuel listed a w → wpAnyH P md ops Q S fuel listed a w
  | 0, _, _, _, h => h
  | fuel + 1, _, _, _, h => ⟨h.1, fun i hi => wpOp_mono (fun a' w' k => ⟨hS w' k.1, wpAnyH_wider hS fuel _ a' w' k.2⟩) (h.2 i hi)⟩

/-- what only reads is taken -/
theorem wpG_take (i d : Nat) {oi : Oper} {v : Value} {fuel : Nat} {listed : Array Bool} {a : Act} {w : World} (hi : ops[i]? = some oi) (hd : oi.dst = some d)
    (hs : Region.noSelect ops = true) (hf : Region.free md ops listed i = true) (hr : (Region.ready md ops listed).contains i = true)
    (hQ : ∀ c a w, Q (.panic c) (a.put (some d) v) w → Q (.panic c) a w) (hy : YieldsIf P ops (Grow w) oi v a)
    (h : wpG P md ops Q fuel (listed.setIfInBounds i true) (a.put (some d) v) w) : wpG P md ops Q (fuel + 1) listed a w :=
  wpAnyH_take hi hs hf hr (by rw [hd]; exact hQ) hy (Grow.refl w) (by rw [hd]; exact h)
/-- what calls comes up alone -/
theorem wpG_call (i : Nat) {o : Oper} {fuel : Nat} {listed : Array Bool} {a : Act} {w : World} (hr : Region.ready md ops listed = [i]) (ho : ops[i]? = some o)
    (h : ∀ K' : Act → World → Prop, Shut (∀ a' w', Grow w w' → wpG P md ops Q fuel (listed.setIfInBounds i true) a' w' → K' a' w') → if Region.wanted o (yielded ops a.tmps) = true then Oper.wp P o a w K' Q else K' (a.put o.dst undef) w) :
    wpG P md ops Q (fuel + 1) listed a w :=
  wpAnyH_all hr (by simp) fun j hj => by
    obtain rfl : j = i := by simpa using hj
    exact wpOp_step ho fun K' hK => h K' fun a' w' hg hw => hK a' w' ⟨hg, wpAnyH_wider (fun _ k => hg.trans k) _ _ _ _ hw⟩
theorem wpG_done {listed : Array Bool} {a : Act} {w : World} (hr : Region.ready md ops listed = []) (h : Q .normal a w) (fuel : Nat) : wpG P md ops Q fuel listed a w := wpAnyH_done hr h fuel
theorem wp_region_G {id : Nat} {a : Act} {w : World} (hm : P.follows .mixedOrders = true)
    (h : wpG P .any ops Q ops.size (Array.replicate ops.size false) a w.drew) : (Code.region id ops true).wp P Q a w := wp_region_held hm h
end
end Go.Proofs.YtakbbhhhdcnlnaaDoor
