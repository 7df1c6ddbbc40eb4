/- A region that draws its order: what reads memory is taken first under a condition on the world that every operation keeps but those (a Bool on their numbers) that wait for all that is taken so: also what reads cells that the region writes. -/
import Derived.Test.YtakbbhhhdcnlnaaDoorAny
import Derived.OrdersHeld
namespace Go.Proofs.YtakbbhhhdcnlnaaDoor
open Go.RowKit
section
variable {P : Program} {ops : Array Oper} {Q : Exit → Act → World → Prop} {md : Region.Mode} {S : World → Prop} {Z : Nat → Bool}

/-- whatever order the rest comes up in: S holds behind each operation but those of Z -/
def wpAnyV (P : Program) (md : Region.Mode) (ops : Array Oper) (Q : Exit → Act → World → Prop) (S : World → Prop) (Z : Nat → Bool) : Nat → Array Bool → Act → World → Prop
  | 0, listed, a, w => Region.ready md ops listed = [] ∧ Q .normal a w
  | fuel + 1, listed, a, w =>
    (Region.ready md ops listed = [] → Q .normal a w) ∧
    ∀ i ∈ Region.ready md ops listed, wpOp P ops Q i (fun a' w' => (Z i = true ∨ S w') ∧ wpAnyV P md ops Q S Z fuel (listed.setIfInBounds i true) a' w') a w
theorem wpAny_of_V : ∀ (fuel : Nat) (listed : Array Bool) (a : Act) (w : World), wpAnyV P md ops Q S Z fuel listed a w → wpAny P md ops Q fuel listed a w
  | 0, _, _, _, h => h
  | fuel + 1, _, _, _, h => ⟨h.1, fun i hi => wpOp_mono (fun a' w' h' => wpAny_of_V fuel _ a' w' h'.2) (h.2 i hi)⟩
/-- does number z wait for number i, in n steps at most -/
def waitsV (md : Region.Mode) (ops : Array Oper) : Nat → Nat → Nat → Bool
  | 0, _, _ => false
  | n + 1, z, i => match ops[z]? with
    | some o => o.after.any fun e => Region.binds md e && (e.on == i || waitsV md ops n e.on i)
    | none => false
/-- what came up came up behind all that it waits for -/
def ClosedV (md : Region.Mode) (ops : Array Oper) (listed : Array Bool) : Prop := ∀ (j : Nat) (o : Oper), ops[j]? = some o → listed.getD j false = true → ∀ e ∈ o.after, Region.binds md e = true → listed.getD e.on false = true
def closedV (md : Region.Mode) (ops : Array Oper) (listed : Array Bool) : Bool := (List.range ops.size).all fun j => match ops[j]? with
  | some o => !listed.getD j false || o.after.all fun e => !Region.binds md e || listed.getD e.on false
  | none => true
theorem closedV_spec {listed : Array Bool} (h : closedV md ops listed = true) : ClosedV md ops listed := fun j o ho hl e he hb => by
  have h1 := List.all_eq_true.1 h j (List.mem_range.2 (Array.getElem?_eq_some_iff.1 ho).1)
  rw [ho] at h1
  dsimp only at h1
  rw [hl, Bool.not_true, Bool.false_or] at h1
  obtain ⟨k, hk, hek⟩ := Array.mem_iff_getElem.1 he
  have h2 := Array.all_eq_true.1 h1 k hk
  rw [hek, hb] at h2
  simpa using h2
theorem getD_set_on {listed : Array Bool} {i j : Nat} (h : listed.getD i false = true) : (listed.setIfInBounds j true).getD i false = true := by
  by_cases hij : j = i
  · subst hij
    rcases Nat.lt_or_ge j listed.size with h' | h'
    · simp [h']
    · simp [Array.getElem?_eq_none h'] at h
  · simp only [Array.getD_eq_getD_getElem?] at h ⊢
    rw [Array.getElem?_setIfInBounds_ne hij]; exact h
theorem ClosedV.step {listed : Array Bool} {j : Nat} (h : ClosedV md ops listed) (hr : j ∈ Region.ready md ops listed) : ClosedV md ops (listed.setIfInBounds j true) := fun k o ho hl e he hb => by
  by_cases hjk : j = k
  · subst hjk
    obtain ⟨_, oj, hoj, hall⟩ := mem_ready.1 hr
    rw [hoj] at ho
    obtain rfl := Option.some.inj ho
    exact getD_set_on (hall e he hb)
  · refine getD_set_on (h k o ho ?_ e he hb)
    simp only [Array.getD_eq_getD_getElem?] at hl ⊢
    rwa [Array.getElem?_setIfInBounds_ne hjk] at hl
theorem waitsV_all {listed : Array Bool} (hc : ClosedV md ops listed) {i : Nat} : ∀ (n z : Nat), waitsV md ops n z i = true → (∀ o, ops[z]? = some o → ∀ e ∈ o.after, Region.binds md e = true → listed.getD e.on false = true) → listed.getD i false = true
  | 0, _, h, _ => by cases h
  | n + 1, z, h, hz => by
    unfold waitsV at h
    cases ho : ops[z]? with
    | none => rw [ho] at h; cases h
    | some o =>
      rw [ho] at h
      obtain ⟨k, hk, hb⟩ := Array.any_eq_true.1 h
      simp only [Bool.and_eq_true, Bool.or_eq_true, beq_iff_eq] at hb
      have h1 := hz o ho _ (Array.getElem_mem hk) hb.1
      rcases hb.2 with e | e
      · rw [e] at h1; exact h1
      · exact waitsV_all hc n _ e fun o' ho' => hc _ o' ho' h1
theorem not_readyV {n i z : Nat} {listed : Array Bool} (hc : ClosedV md ops listed) (hw : waitsV md ops n z i = true) (hr : i ∈ Region.ready md ops listed) : z ∉ Region.ready md ops listed := fun hj => by
  obtain ⟨_, oj, hoj, hall⟩ := mem_ready.1 hj
  have h1 := waitsV_all hc n z hw fun o ho e he hb => by
    rw [hoj] at ho
    obtain rfl := Option.some.inj ho
    exact hall e he hb
  have h0 := (mem_ready.1 hr).1
  rcases Nat.lt_or_ge i listed.size with h' | h'
  · simp [h'] at h0 h1; rw [h0] at h1; cases h1
  · simp [Array.getElem?_eq_none h'] at h1

theorem wpAnyV_first {i : Nat} {oi : Oper} {v : Value} (hi : ops[i]? = some oi) (hsel : ∀ (j : Nat) (o : Oper) cs b, ops[j]? = some o → o.op ≠ .select cs b)
    (hz : ∀ z, Z z = true → waitsV md ops ops.size z i = true)
    (hQ : ∀ c a w, Q (.panic c) (a.put oi.dst v) w → Q (.panic c) a w) :
    ∀ (fuel : Nat) (listed : Array Bool) (a : Act) (w : World),
      (∀ j oj, ops[j]? = some oj → j ≠ i → listed.getD j true = false → (∀ e ∈ oj.after, Region.binds md e = true → e.on ≠ i) → oi.apart ops oj = true) → ClosedV md ops listed →
      i ∈ Region.ready md ops listed → YieldsIf P ops S oi v a → S w →
      wpAnyV P md ops Q S Z fuel (listed.setIfInBounds i true) (a.put oi.dst v) w → wpAnyV P md ops Q S Z (fuel + 1) listed a w := by
  intro fuel
  induction fuel with
  | zero =>
    intro listed a w _ _ hr hy hS H
    refine ⟨fun h => (by rw [h] at hr; cases hr), fun j hj => ?_⟩
    by_cases hji : j = i
    · subst hji; exact hy.wpOp hi hS ⟨.inr hS, H⟩
    · have := ready_mono hj hji
      rw [H.1] at this
      cases this
  | succ fuel ih =>
    intro listed a w hfree hcl hr hy hS H
    refine ⟨fun h => (by rw [h] at hr; cases hr), fun j hj => ?_⟩
    by_cases hji : j = i
    · subst hji; exact hy.wpOp hi hS ⟨.inr hS, H⟩
    · have hjz : ¬ Z j = true := fun ejz => not_readyV hcl (hz j ejz) hr hj
      have h1 := H.2 j (ready_mono hj hji)
      obtain ⟨hjun, oj, hoj, hall⟩ := mem_ready.1 hj
      have hnot : ∀ e ∈ oj.after, Region.binds md e = true → e.on ≠ i := fun e he hb heq => by
        have h1 := hall e he hb
        have h0 := (mem_ready.1 hr).1
        rw [heq] at h1
        rcases Nat.lt_or_ge i listed.size with h' | h'
        · simp [h'] at h0 h1; rw [h0] at h1; cases h1
        · simp [Array.getElem?_eq_none h'] at h1
      have h2 := wpOp_putIf hoj (hfree j oj hoj hji hjun hnot) (fun cs b => hsel i oi cs b hi) (fun cs b => hsel j oj cs b hoj) hQ hy h1
      have hfree' : ∀ k ok, ops[k]? = some ok → k ≠ i → (listed.setIfInBounds j true).getD k true = false →
          (∀ e ∈ ok.after, Region.binds md e = true → e.on ≠ i) → oi.apart ops ok = true := fun k ok hk hki hun hno => by
        refine hfree k ok hk hki ?_ hno
        by_cases hjk : j = k
        · subst hjk; exact hjun
        · rw [getD_set_ne true hjk] at hun; exact hun
      refine wpOp_mono (fun a' w' h3 => ?_) h2
      have hS' : S w' := h3.2.1.resolve_left hjz
      refine ⟨.inr hS', ih (listed.setIfInBounds j true) a' w' hfree' (hcl.step hj) (ready_mono hr (Ne.symm hji)) h3.1 hS' ?_⟩
      rw [Array.setIfInBounds_comm _ _ hji]
      exact h3.2.2
/-- all of a list wait for number i -/
theorem wpV_take (i d : Nat) (zs : List Nat) {oi : Oper} {v : Value} {fuel : Nat} {listed : Array Bool} {a : Act} {w : World} (hi : ops[i]? = some oi) (hd : oi.dst = some d)
    (hs : Region.noSelect ops = true) (hf : Region.free md ops listed i = true) (hr : (Region.ready md ops listed).contains i = true)
    (hz : (zs.all (fun z => waitsV md ops ops.size z i) && closedV md ops listed) = true) (hQ : ∀ c a w, Q (.panic c) (a.put (some d) v) w → Q (.panic c) a w) (hS : S w) (hy : YieldsIf P ops S oi v a)
    (h : wpAnyV P md ops Q S zs.contains fuel (listed.setIfInBounds i true) (a.put (some d) v) w) : wpAnyV P md ops Q S zs.contains (fuel + 1) listed a w :=
  have hz := (Bool.and_eq_true _ _).mp hz
  wpAnyV_first hi (Region.noSelect_spec hs) (fun z hzz => List.all_eq_true.1 hz.1 z (by simpa using hzz)) (by rw [hd]; exact hQ) fuel listed a w (Region.free_spec hi hf) (closedV_spec hz.2) (by simpa using hr) hy hS (by rw [hd]; exact h)
/-- one that comes up, whatever comes up behind it: one that keeps S -/
abbrev ComesV (P : Program) (md : Region.Mode) (ops : Array Oper) (Q : Exit → Act → World → Prop) (S : World → Prop) (Z : Nat → Bool) (fuel : Nat) (listed : Array Bool) (a : Act) (w : World) (i : Nat) (o : Oper) : Prop :=
  ∀ K' : Act → World → Prop, Shut (∀ a' w', (Z i = true ∨ S w') → wpAnyV P md ops Q S Z fuel (listed.setIfInBounds i true) a' w' → K' a' w') → if Region.wanted o (yielded ops a.tmps) = true then Oper.wp P o a w K' Q else K' (a.put o.dst undef) w
theorem wpV_one (i : Nat) {o : Oper} {fuel : Nat} {listed : Array Bool} {a : Act} {w : World} (hr : Region.ready md ops listed = [i]) (ho : ops[i]? = some o)
    (h : ComesV P md ops Q S Z fuel listed a w i o) : wpAnyV P md ops Q S Z (fuel + 1) listed a w :=
  ⟨fun h0 => (by rw [hr] at h0; cases h0), fun j hj => by
    rw [hr] at hj
    obtain rfl : j = i := by simpa using hj
    exact wpOp_step ho fun K' hK => h K' fun a' w' h1 h2 => hK a' w' ⟨h1, h2⟩⟩
theorem wpV_two (i j : Nat) {o o' : Oper} {fuel : Nat} {listed : Array Bool} {a : Act} {w : World} (hr : Region.ready md ops listed = [i, j]) (ho : ops[i]? = some o) (ho' : ops[j]? = some o')
    (h : ComesV P md ops Q S Z fuel listed a w i o) (h' : ComesV P md ops Q S Z fuel listed a w j o') : wpAnyV P md ops Q S Z (fuel + 1) listed a w :=
  ⟨fun h0 => (by rw [hr] at h0; cases h0), fun k hk => by
    rw [hr] at hk
    rcases List.mem_cons.1 hk with rfl | hk
    · exact wpOp_step ho fun K' hK => h K' fun a' w' h1 h2 => hK a' w' ⟨h1, h2⟩
    · obtain rfl : k = j := by simpa using hk
      exact wpOp_step ho' fun K' hK => h' K' fun a' w' h1 h2 => hK a' w' ⟨h1, h2⟩⟩
theorem wpV_done {listed : Array Bool} {a : Act} {w : World} (hr : Region.ready md ops listed = []) (h : Q .normal a w) (fuel : Nat) : wpAnyV P md ops Q S Z fuel listed a w := by
  cases fuel with
  | zero => exact ⟨hr, h⟩
  | succ f => exact ⟨fun _ => h, by rw [hr]; simp⟩
theorem wp_region_V (S : World → Prop) (zs : List Nat) {id : Nat} {a : Act} {w : World} (hm : P.follows .mixedOrders = true)
    (h : wpAnyV P .any ops Q S zs.contains ops.size (Array.replicate ops.size false) a w.drew) : (Code.region id ops true).wp P Q a w := wp_region_any hm (wpAny_of_V _ _ _ _ h)
end
end Go.Proofs.YtakbbhhhdcnlnaaDoor
