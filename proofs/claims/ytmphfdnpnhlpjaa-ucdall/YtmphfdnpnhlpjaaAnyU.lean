/- A region that draws its order and ends in one operation that waits for all others (a store, as a rule): what reads memory is taken first under a condition on the world that every operation but that last one keeps: also what reads the very cell that the last one writes. -/
import Derived.Test.YtmphfdnpnhlpjaaAny
import Derived.OrdersHeld
namespace Go.Proofs.Ytmphfdnpnhlpjaa
open Go.RowKit
section
variable {P : Program} {ops : Array Oper} {Q : Exit → Act → World → Prop} {md : Region.Mode} {S : World → Prop} {z : Nat}

/-- whatever order the rest comes up in: S holds behind each operation but number z -/
def wpAnyU (P : Program) (md : Region.Mode) (ops : Array Oper) (Q : Exit → Act → World → Prop) (S : World → Prop) (z : Nat) : Nat → Array Bool → Act → World → Prop
  | 0, listed, a, w => Region.ready md ops listed = [] ∧ Q .normal a w
  | fuel + 1, listed, a, w =>
    (Region.ready md ops listed = [] → Q .normal a w) ∧
    ∀ i ∈ Region.ready md ops listed, wpOp P ops Q i (fun a' w' => (i = z ∨ S w') ∧ wpAnyU P md ops Q S z fuel (listed.setIfInBounds i true) a' w') a w
theorem wpAny_of_U : ∀ (fuel : Nat) (listed : Array Bool) (a : Act) (w : World), wpAnyU P md ops Q S z fuel listed a w → wpAny P md ops Q fuel listed a w
  | 0, _, _, _, h => h
  | fuel + 1, _, _, _, h => ⟨h.1, fun i hi => wpOp_mono (fun a' w' h' => wpAny_of_U fuel _ a' w' h'.2) (h.2 i hi)⟩

/-- number z is not ready while number i, for which it waits, has not come up -/
theorem not_ready {i : Nat} {oz : Oper} (hz : ops[z]? = some oz) {e : Edge} (he : e ∈ oz.after) (hb : Region.binds md e = true) (hi : e.on = i) {listed : Array Bool} (hr : i ∈ Region.ready md ops listed) : z ∉ Region.ready md ops listed := fun hj => by
  obtain ⟨_, oj, hoj, hall⟩ := mem_ready.1 hj
  rw [hz] at hoj
  obtain rfl := Option.some.inj hoj
  have h1 := hall e he hb
  have h0 := (mem_ready.1 hr).1
  rw [hi] at h1
  rcases Nat.lt_or_ge i listed.size with h' | h'
  · simp [h'] at h0 h1; rw [h0] at h1; cases h1
  · simp [Array.getElem?_eq_none h'] at h1

theorem wpAnyU_first {i : Nat} {oi oz : Oper} {v : Value} (hi : ops[i]? = some oi) (hsel : ∀ (j : Nat) (o : Oper) cs b, ops[j]? = some o → o.op ≠ .select cs b)
    (hz : ops[z]? = some oz) {e : Edge} (he : e ∈ oz.after) (hb : Region.binds md e = true) (hei : e.on = i)
    (hQ : ∀ c a w, Q (.panic c) (a.put oi.dst v) w → Q (.panic c) a w) :
    ∀ (fuel : Nat) (listed : Array Bool) (a : Act) (w : World),
      (∀ j oj, ops[j]? = some oj → j ≠ i → listed.getD j true = false → (∀ e ∈ oj.after, Region.binds md e = true → e.on ≠ i) → oi.apart ops oj = true) →
      i ∈ Region.ready md ops listed → YieldsIf P ops S oi v a → S w →
      wpAnyU P md ops Q S z fuel (listed.setIfInBounds i true) (a.put oi.dst v) w → wpAnyU P md ops Q S z (fuel + 1) listed a w := by
  intro fuel
  induction fuel with
  | zero =>
    intro listed a w _ hr hy hS H
    refine ⟨fun h => (by rw [h] at hr; cases hr), fun j hj => ?_⟩
    by_cases hji : j = i
    · subst hji; exact hy.wpOp hi hS ⟨.inr hS, H⟩
    · have := ready_mono hj hji
      rw [H.1] at this
      cases this
  | succ fuel ih =>
    intro listed a w hfree hr hy hS H
    refine ⟨fun h => (by rw [h] at hr; cases hr), fun j hj => ?_⟩
    by_cases hji : j = i
    · subst hji; exact hy.wpOp hi hS ⟨.inr hS, H⟩
    · have hjz : j ≠ z := fun ejz => not_ready hz he hb hei hr (ejz ▸ hj)
      have h1 := H.2 j (ready_mono hj hji)
      obtain ⟨hjun, oj, hoj, hall⟩ := mem_ready.1 hj
      have hnot : ∀ e ∈ oj.after, Region.binds md e = true → e.on ≠ i := fun e he hb heq => by
        have h1 := hall e he hb
        have h0 := (mem_ready.1 hr).1
        rw [heq] at h1
        rcases Nat.lt_or_ge i listed.size with h' | h'
        · simp [h'] at h0 h1; rw [h0] at h1; cases h1
        · simp [Array.getElem?_eq_none h'] at h1
      have h2 := wpOp_putIf hoj (hfree j oj hoj hji hjun hnot) (fun cs b => hsel i oi cs b hi) (fun cs b => hsel j oj cs b hoj) hQ hy h1
      have hfree' : ∀ k ok, ops[k]? = some ok → k ≠ i → (listed.setIfInBounds j true).getD k true = false →
          (∀ e ∈ ok.after, Region.binds md e = true → e.on ≠ i) → oi.apart ops ok = true := fun k ok hk hki hun hno => by
        refine hfree k ok hk hki ?_ hno
        by_cases hjk : j = k
        · subst hjk; exact hjun
        · rw [getD_set_ne true hjk] at hun; exact hun
      refine wpOp_mono (fun a' w' h3 => ?_) h2
      have hS' : S w' := h3.2.1.resolve_left hjz
      refine ⟨.inr hS', ih (listed.setIfInBounds j true) a' w' hfree' (ready_mono hr (Ne.symm hji)) h3.1 hS' ?_⟩
      rw [Array.setIfInBounds_comm _ _ hji]
      exact h3.2.2

/-- does number z wait for number i -/
def waits (md : Region.Mode) (ops : Array Oper) (z i : Nat) : Bool := match ops[z]? with
  | some o => o.after.any fun e => Region.binds md e && e.on == i
  | none => false
theorem waits_spec {i : Nat} (h : waits md ops z i = true) : ∃ oz, ops[z]? = some oz ∧ ∃ e ∈ oz.after, Region.binds md e = true ∧ e.on = i := by
  unfold waits at h
  split at h
  · rename_i o ho
    obtain ⟨k, hk, hb⟩ := Array.any_eq_true.1 h
    simp only [Bool.and_eq_true, beq_iff_eq] at hb
    exact ⟨o, ho, _, Array.getElem_mem hk, hb.1, hb.2⟩
  · cases h

theorem wpU_take (i d : Nat) {oi : Oper} {v : Value} {fuel : Nat} {listed : Array Bool} {a : Act} {w : World} (hi : ops[i]? = some oi) (hd : oi.dst = some d)
    (hs : Region.noSelect ops = true) (hf : Region.free md ops listed i = true) (hr : (Region.ready md ops listed).contains i = true) (hz : waits md ops z i = true)
    (hQ : ∀ c a w, Q (.panic c) (a.put (some d) v) w → Q (.panic c) a w) (hS : S w) (hy : YieldsIf P ops S oi v a)
    (h : wpAnyU P md ops Q S z fuel (listed.setIfInBounds i true) (a.put (some d) v) w) : wpAnyU P md ops Q S z (fuel + 1) listed a w := by
  obtain ⟨oz, hoz, e, he, hb, hei⟩ := waits_spec hz
  exact wpAnyU_first hi (Region.noSelect_spec hs) hoz he hb hei (by rw [hd]; exact hQ) fuel listed a w (Region.free_spec hi hf) (by simpa using hr) hy hS (by rw [hd]; exact h)
/-- it comes up alone -/
theorem wpU_one (i : Nat) {o : Oper} {fuel : Nat} {listed : Array Bool} {a : Act} {w : World} (hr : Region.ready md ops listed = [i]) (ho : ops[i]? = some o)
    (h : ∀ K' : Act → World → Prop, Shut (∀ a' w', S w' → wpAnyU P md ops Q S z fuel (listed.setIfInBounds i true) a' w' → K' a' w') → if Region.wanted o (yielded ops a.tmps) = true then Oper.wp P o a w K' Q else K' (a.put o.dst undef) w) :
    wpAnyU P md ops Q S z (fuel + 1) listed a w :=
  ⟨fun h0 => (by rw [hr] at h0; cases h0), fun j hj => by
    rw [hr] at hj
    obtain rfl : j = i := by simpa using hj
    exact wpOp_step ho fun K' hK => h K' fun a' w' h1 h2 => hK a' w' ⟨.inr h1, h2⟩⟩
/-- the last one -/
theorem wpU_last {o : Oper} {fuel : Nat} {listed : Array Bool} {a : Act} {w : World} (hr : Region.ready md ops listed = [z]) (ho : ops[z]? = some o) (hr' : Region.ready md ops (listed.setIfInBounds z true) = [])
    (h : ∀ K' : Act → World → Prop, Shut (∀ a' w', Q .normal a' w' → K' a' w') → if Region.wanted o (yielded ops a.tmps) = true then Oper.wp P o a w K' Q else K' (a.put o.dst undef) w) :
    wpAnyU P md ops Q S z (fuel + 1) listed a w :=
  ⟨fun h0 => (by rw [hr] at h0; cases h0), fun j hj => by
    rw [hr] at hj
    obtain rfl : j = z := by simpa using hj
    refine wpOp_step ho fun K' hK => h K' fun a' w' h2 => hK a' w' ⟨.inl rfl, ?_⟩
    cases fuel with
    | zero => exact ⟨hr', h2⟩
    | succ f => exact ⟨fun _ => h2, by rw [hr']; simp⟩⟩
theorem wp_region_U (S : World → Prop) (z : Nat) {id : Nat} {a : Act} {w : World} (hm : P.follows .mixedOrders = true)
    (h : wpAnyU P .any ops Q S z ops.size (Array.replicate ops.size false) a w.drew) : (Code.region id ops true).wp P Q a w := wp_region_any hm (wpAny_of_U _ _ _ _ h)
end
end Go.Proofs.Ytmphfdnpnhlpjaa
