/- fault.words by its contract. -/
import Derived.Test.YtakbbhhhdcnlnaaDoorP14Nm
import Derived.Test.YtakbbhhhdcnlnaaDoorP14Dec
namespace Go.Proofs.YtakbbhhhdcnlnaaDoor
set_option maxRecDepth 100000
open Go.RowKit
set_option linter.unusedVariables false
set_option linter.unusedSimpArgs false

/-- what a link says -/
def wdS : Lay → List UInt8
  | .wr _ s => L8 s ++ [58, 32]
  | .inp _ _ => []
  | .pl _ c a => nmF c ++ [32] ++ printF a
  | .re _ => []
/-- of a size -/
def szL : Lay → Prop
  | .wr _ s => s.size ≤ 1000000
  | .inp _ _ => True
  | .pl _ c a => -9223372036854775808 ≤ a ∧ a ≤ 9223372036854775807
  | .re _ => True
theorem wdS_len {x : Lay} (h : szL x) : (wdS x).length ≤ 1000002 := by
  cases x with
  | wr b s => unfold wdS; unfold szL at h; rw [List.length_append, L8_len]; simp; omega
  | inp b n => simp [wdS]
  | pl b c a =>
    unfold wdS; unfold szL at h
    have h1 := nmF_len c
    have h2 := print_len h.1 h.2
    rw [bs_size] at h2
    rw [List.length_append, List.length_append]; simp; omega
  | re c => simp [wdS]

set_option maxHeartbeats 8000000 in
theorem words_any (x : Lay) (l : List Lay) (hx : szL x) (w : World) (hN : NmT w) (hL : Lies w (x :: l)) : Calls Tryd.prog 25 #[hdV (x :: l)] w fun e w' => e = .returned (.string (bs (wdS x))) ∧ Below w.heap.size w w' := by
  match x, hx, hL with
  | .re c, _, _ =>
    have t1 := taRP; have t2 := taRW
    go_enter Tryd.func25, Tryd.ntmps25
    simp only [hdV, tyL, dyn, ptr]
    go_wp2
    go_ret
    exact ⟨rfl, Below.refl _ _⟩
  | .inp b n, _, _ =>
    have t1 := taTP; have t2 := taTW
    go_enter Tryd.func25, Tryd.ntmps25
    simp only [hdV, tyL, dyn, ptr]
    go_wp2
    go_ret
    exact ⟨rfl, Below.refl _ _⟩
  | .wr b s, hs, hL =>
    have t1 := taWP; have t2 := taWW
    have c1 := hL.1.cell 1
    have hlt := hL.1.lt
    simp only [List.getElem?_toArray, List.getElem?_cons_zero, List.getElem?_cons_succ] at c1
    have hR : Hid (s ++ ⟨#[58, 32]⟩ = bs (wdS (.wr b s))) := Lib.hid (L8_inj (by rw [L8_app, L8_bs]; rfl))
    have hz : (⟨#[58, 32]⟩ : ByteArray).size = 2 := rfl
    have hsum : ¬ s.size + (⟨#[58, 32]⟩ : ByteArray).size > 9223372036854775807 := by unfold szL at hs; omega
    clear hL
    generalize bs (wdS (.wr b s)) = R at *
    have e0 : hdV (.wr b s :: l) = .iface 52 (.pointer (some ⟨b, 0, none⟩)) := rfl
    rw [e0]
    go_enter Tryd.func25, Tryd.ntmps25
    go_wp2
    go_ret
    exact ⟨ret_str hR.out, Below.refl _ _⟩
  | .pl b c a, ha, hL =>
    have t1 := taPP
    have c0 := hL.1.cell 0
    have c1 := hL.1.cell 1
    have hlt := hL.1.lt
    simp only [List.getElem?_toArray, List.getElem?_cons_zero, List.getElem?_cons_succ] at c0 c1
    have hR : Hid (bs (nmF c) ++ ⟨#[32]⟩ ++ bs (printF a) = bs (wdS (.pl b c a))) := Lib.hid (L8_inj (by rw [L8_app, L8_app, L8_bs, L8_bs, L8_bs]; rfl))
    have hz : (⟨#[32]⟩ : ByteArray).size = 1 := rfl
    have h1 : (bs (nmF c)).size ≤ 12 := by rw [bs_size]; exact nmF_len c
    have h2 : (bs (printF a)).size ≤ 20 := print_len ha.1 ha.2
    have hn := Lib.hid (fun w => name_any c w)
    have hd := Lib.hid (fun w => decimal_any a w ha.1 ha.2)
    clear hL ha
    generalize bs (wdS (.pl b c a)) = R at *
    generalize bs (nmF c) = P at *
    generalize bs (printF a) = D at *
    obtain ⟨Q, hQ⟩ : ∃ Q, P ++ ⟨#[32]⟩ = Q := ⟨_, rfl⟩
    have hQs : Q.size = P.size + 1 := by rw [← hQ, ByteArray.size_append, hz]
    have hsum : ¬ P.size + (⟨#[32]⟩ : ByteArray).size > 9223372036854775807 := by omega
    have hsum2 : ¬ Q.size + D.size > 9223372036854775807 := by omega
    have hsum3 : ¬ P.size + 1 > 9223372036854775807 := by omega
    have hsum4 : P.size + 1 ≤ 9223372036854775807 := by omega
    have hsum5 : Q.size + D.size ≤ 9223372036854775807 := by omega
    rw [hQ] at hR
    have k0 := World.new_ne w ⟨b, 0, none⟩ c0
    have k1 := World.new_ne w ⟨b, 1, none⟩ c1
    replace hQs := Lib.hid hQs
    have e0 : hdV (.pl b c a :: l) = .iface 48 (.pointer (some ⟨b, 0, none⟩)) := rfl
    rw [e0]
    clear e0
    go_enter Tryd.func25, Tryd.ntmps25
    go_wp2_with fail
    go_region_held3 (fun w' => w'.cell? ⟨b, 0, none⟩ = some (.int .i64 c) ∧ w'.cell? ⟨b, 1, none⟩ = some (.int .i64 a)) (go_keep) (first | (go_at_call 17; refine (hn.out _ ?_).mono ?_; exact hN; rintro e w' ⟨rfl, rfl⟩) | (go_at_call 32; refine (hd.out _).mono ?_; rintro e w' ⟨rfl, hB⟩; have k0' := (hB.cell (p := ⟨b, 0, none⟩) hlt).trans c0; have k1' := (hB.cell (p := ⟨b, 1, none⟩) hlt).trans c1; replace hB := Lib.hid hB))
    go_wp2_with fail
    go_ret
    exact ⟨ret_str hR.out, (Below.refl _ w).drew.trans hB.out⟩
end Go.Proofs.YtakbbhhhdcnlnaaDoor
