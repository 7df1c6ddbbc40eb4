/- A region that draws its order, under a condition on the world, where one of three may come up: each is walked. -/
import Derived.Test.YtadbnajodpfpgaaDoorAnyH
namespace Go.Proofs.YtadbnajodpfpgaaDoor
open Go.RowKit
section
variable {P : Program} {ops : Array Oper} {Q : Exit → Act → World → Prop} {md : Region.Mode} {S : World → Prop}
/-- one that comes up, whatever comes up behind it -/
abbrev ComesH (P : Program) (md : Region.Mode) (ops : Array Oper) (Q : Exit → Act → World → Prop) (S : World → Prop) (fuel : Nat) (listed : Array Bool) (a : Act) (w : World) (i : Nat) (o : Oper) : Prop :=
  ∀ K' : Act → World → Prop, Shut (∀ a' w', S w' → wpAnyH P md ops Q S fuel (listed.setIfInBounds i true) a' w' → K' a' w') → if Region.wanted o (yielded ops a.tmps) = true then Oper.wp P o a w K' Q else K' (a.put o.dst undef) w
theorem wpH_three (i j k : Nat) {o o' o'' : Oper} {fuel : Nat} {listed : Array Bool} {a : Act} {w : World} (hr : Region.ready md ops listed = [i, j, k]) (ho : ops[i]? = some o) (ho' : ops[j]? = some o') (ho'' : ops[k]? = some o'')
    (h : ComesH P md ops Q S fuel listed a w i o) (h' : ComesH P md ops Q S fuel listed a w j o') (h'' : ComesH P md ops Q S fuel listed a w k o'') : wpAnyH P md ops Q S (fuel + 1) listed a w :=
  wpAnyH_all hr (by simp) fun m hm => by
    rcases List.mem_cons.1 hm with rfl | hm
    · exact wpOp_step ho fun K' hK => h K' fun a' w' h1 h2 => hK a' w' ⟨h1, h2⟩
    · rcases List.mem_cons.1 hm with rfl | hm
      · exact wpOp_step ho' fun K' hK => h' K' fun a' w' h1 h2 => hK a' w' ⟨h1, h2⟩
      · obtain rfl : m = k := by simpa using hm
        exact wpOp_step ho'' fun K' hK => h'' K' fun a' w' h1 h2 => hK a' w' ⟨h1, h2⟩
end
end Go.Proofs.YtadbnajodpfpgaaDoor
