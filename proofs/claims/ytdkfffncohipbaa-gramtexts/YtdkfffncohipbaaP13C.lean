/- The program's Gram: New, Copy. -/
import Derived.Test.YtdkfffncohipbaaP13B
import Derived.Test.YtdkfffncohipbaaAppG
import Derived.Test.YtdkfffncohipbaaReg
namespace Go.Proofs.Ytdkfffncohipbaa
set_option maxRecDepth 100000
open Go.ChangeShapes Go.WideShapes Go.ChangeAt Go.RowKit
set_option linter.unusedVariables false
set_option linter.unusedSimpArgs false

theorem new_any (base : Nat) (w : World) (hb : base ≤ w.heap.size) : Calls Try.prog 7 #[] w fun e w' => ∃ g, e = .returned (.pointer (some ⟨g, 0, none⟩)) ∧ w.heap.size ≤ g ∧ GIs w' base g (.slice none 0 0) gm0 ∧ Below w.heap.size w w' := by
  go_enter Try.func7, Try.ntmps7
  go_wp2
  go_ret
  exact ⟨w.heap.size, rfl, Nat.le_refl _, ⟨gok_0, by decide, Blk.new w _ _, World.ownsRow_nil _ _ _ _, hb⟩, (Below.refl _ _).alloc (Nat.le_refl _) _⟩
theorem clone_any (A : Option Addr) (n c : Nat) (xs : List Int) (w : World) (hn : xs.length = n) (hA : A = none → c = 0) (hI : Ints w w.heap.size .u8 A xs) (hl : n ≤ 100000) :
    Calls Try.prog 27 #[.slice A n c] w fun e w' => ∃ v', e = .returned v' ∧ G8r w' w.heap.size v' xs ∧ Below w.heap.size w w' := by
  cases A with
  | none =>
    have hx : xs = [] := by
      rcases hI with h | ⟨b, o, e, _⟩
      · exact h
      · cases e
    subst hx
    have hn0 : n = 0 := by rw [← hn]; rfl
    have hc0 : c = 0 := hA rfl
    subst hn0 hc0
    clear hI hA hn hl
    have hq : Sem.run Try.prog (binOp .eql 38 (.slice none 0 0) (.slice none 0 0)) w = .ok (.bool true) w := by rfl
    go_enter Try.func27, Try.ntmps27
    go_wp2
    go_ret
    exact ⟨_, rfl, World.ownsRow_nil _ _ _ _, Below.refl _ _⟩
  | some ad =>
    have HI := Lib.hid hI
    have HN := Lib.hid hn
    clear hI hn hA
    have hq : Sem.run Try.prog (binOp .eql 38 (.slice (some ad) n c) (.slice none 0 0)) w = .ok (.bool false) w := by rfl
    go_enter Try.func27, Try.ntmps27
    go_wp2_with (at_builtin; refine wpList_appL rfl (.tmp 5) (.tmp 6) 38 rfl w.heap.size 5 .u8 1 Try.underlying38 info_u8g (by omega) _ [] rfl (own_empty w w.heap.size 5 .u8 (Nat.le_refl _)) _ (some ad) n c xs HN.out rfl (fun h => by cases h) (HI.out.below ((Below.refl _ _).alloc (Nat.le_refl _) _) (Nat.le_refl _)) (by rw [HN.out]; simp; omega) (by rw [World.size_alloc]; omega) ?_; intro v3 w3 hO3 hG3; have HO3 := Lib.hid hO3; have HB3 : Hid (Below w.heap.size w w3) := Lib.hid (((Below.refl _ _).alloc (Nat.le_refl _) _).trans (hG3.below (own_empty w w.heap.size 5 .u8 (Nat.le_refl _)) (by rw [World.size_alloc]; omega))); clear hG3; obtain ⟨A3, c3, rfl, _⟩ := own_form hO3; clear hO3)
    go_ret
    exact ⟨_, rfl, HO3.out, HB3.out⟩
theorem rown_weak8 {w : World} {base base0 : Nat} {v : Value} {xs : List Int} {e : TypeId} {k : IntKind} (h : Own w base0 e k v xs) (hb : base ≤ base0) : Own w base e k v xs := by
  refine ⟨h.1, ?_⟩
  rcases h.2 with h2 | ⟨b, cap, cur, hv, hb2, hh, h3⟩
  · exact .inl h2
  · exact .inr ⟨b, cap, cur, hv, Nat.le_trans hb hb2, hh, h3⟩
set_option maxHeartbeats 4000000 in
theorem copy_any (base g : Nat) (v : Value) (q : Gm) (w : World) (h : GIs w base g v q) : Calls Try.prog 12 #[.pointer (some ⟨g, 0, none⟩)] w fun e w' => ∃ c v', e = .returned (.pointer (some ⟨c, 0, none⟩)) ∧ GIs w' w.heap.size c v' q ∧ Below w.heap.size w w' := by
  obtain ⟨A, c, hv, hc, hcm⟩ := own_form h.own
  have HNIL := Lib.hid (own_nil (by have := h.own; rw [hv] at this; exact this))
  have HI := Lib.hid (Ints.own (by have := h.own; rw [hv] at this; exact this) : Ints w w.heap.size .u8 A q.s)
  obtain ⟨n, hnl⟩ : ∃ n, q.s.length = n := ⟨_, rfl⟩
  rw [hnl] at hv hc
  subst hv
  have hlen := h.len
  rw [hnl] at hlen
  have HNL := Lib.hid hnl
  have HG := Lib.hid h
  have c0 : w.cell? ⟨g, 0, none⟩ = some (.int .i64 q.p) := h.blk.cell 0
  have c1 : w.cell? ⟨g, 1, none⟩ = some (.slice A n c) := h.blk.cell 1
  have hlt := h.blk.lt
  clear hnl h
  go_enter Try.func12, Try.ntmps12
  go_wp2_with fail
  refine wp_region_G (by kernel_rfl) ?_
  have hg1 := Grow.drew w
  generalize w.drew = w1 at hg1 ⊢
  have HG1 : Hid (GIs w1 base g (.slice A n c) q) := Lib.hid (HG.out.go hg1)
  clear HG c0 c1 hlt
  have HI1 : Hid (Ints w1 w1.heap.size .u8 A q.s) := Lib.hid (HI.out.go hg1)
  refine wpG_take 0 3 (v := ?v0) rfl rfl (by kernel_rfl) (by kernel_rfl) (by kernel_rfl) (fun _ _ _ h => h) (Or.inl ⟨by rfl, ?y0⟩) ?r0
  case y0 => (intro W hW; have hD := (HG1.out.go hW).blk; have k0 := hD.cell 0; have k1 := hD.cell 1; have hl := hD.lt; (go_simp; try with_reducible rfl))
  simp only [Act.put, List.setIfInBounds_toArray, List.set_cons_zero, List.set_cons_succ]
  refine wpG_take 1 4 (v := ?v1) rfl rfl (by kernel_rfl) (by kernel_rfl) (by kernel_rfl) (fun _ _ _ h => h) (Or.inl ⟨by rfl, ?y1⟩) ?r1
  case y1 => (intro W hW; have hD := (HG1.out.go hW).blk; have k0 := hD.cell 0; have k1 := hD.cell 1; have hl := hD.lt; (go_simp; try with_reducible rfl))
  simp only [Act.put, List.setIfInBounds_toArray, List.set_cons_zero, List.set_cons_succ]
  refine wpG_take 2 5 (v := ?v2) rfl rfl (by kernel_rfl) (by kernel_rfl) (by kernel_rfl) (fun _ _ _ h => h) (Or.inl ⟨by rfl, ?y2⟩) ?r2
  case y2 => (intro W hW; have hD := (HG1.out.go hW).blk; have k0 := hD.cell 0; have k1 := hD.cell 1; have hl := hD.lt; (go_simp; try with_reducible rfl))
  simp only [Act.put, List.setIfInBounds_toArray, List.set_cons_zero, List.set_cons_succ]
  refine wpG_take 3 6 (v := ?v3) rfl rfl (by kernel_rfl) (by kernel_rfl) (by kernel_rfl) (fun _ _ _ h => h) (Or.inl ⟨by rfl, ?y3⟩) ?r3
  case y3 => (intro W hW; have hD := (HG1.out.go hW).blk; have k0 := hD.cell 0; have k1 := hD.cell 1; have hl := hD.lt; (go_simp; try with_reducible rfl))
  simp only [Act.put, List.setIfInBounds_toArray, List.set_cons_zero, List.set_cons_succ]
  refine wpG_take 4 7 (v := ?v4) rfl rfl (by kernel_rfl) (by kernel_rfl) (by kernel_rfl) (fun _ _ _ h => h) (Or.inl ⟨by rfl, ?y4⟩) ?r4
  case y4 => (intro W hW; have hD := (HG1.out.go hW).blk; have k0 := hD.cell 0; have k1 := hD.cell 1; have hl := hD.lt; (go_simp; try with_reducible rfl))
  simp only [Act.put, List.setIfInBounds_toArray, List.set_cons_zero, List.set_cons_succ]
  refine wpG_take 5 8 (v := ?v5) rfl rfl (by kernel_rfl) (by kernel_rfl) (by kernel_rfl) (fun _ _ _ h => h) (Or.inl ⟨by rfl, ?y5⟩) ?r5
  case y5 => (intro W hW; have hD := (HG1.out.go hW).blk; have k0 := hD.cell 0; have k1 := hD.cell 1; have hl := hD.lt; (go_simp; try with_reducible rfl))
  simp only [Act.put, List.setIfInBounds_toArray, List.set_cons_zero, List.set_cons_succ]
  refine wpG_take 6 9 (v := ?v6) rfl rfl (by kernel_rfl) (by kernel_rfl) (by kernel_rfl) (fun _ _ _ h => h) (Or.inl ⟨by rfl, ?y6⟩) ?r6
  case y6 => (intro W hW; have hD := (HG1.out.go hW).blk; have k0 := hD.cell 0; have k1 := hD.cell 1; have hl := hD.lt; (go_simp; try with_reducible rfl))
  simp only [Act.put, List.setIfInBounds_toArray, List.set_cons_zero, List.set_cons_succ]
  refine wpG_take 7 10 (v := ?v7) rfl rfl (by kernel_rfl) (by kernel_rfl) (by kernel_rfl) (fun _ _ _ h => h) (Or.inl ⟨by rfl, ?y7⟩) ?r7
  case y7 => (intro W hW; have hD := (HG1.out.go hW).blk; have k0 := hD.cell 0; have k1 := hD.cell 1; have hl := hD.lt; (go_simp; try with_reducible rfl))
  simp only [Act.put, List.setIfInBounds_toArray, List.set_cons_zero, List.set_cons_succ]
  refine wpG_call 8 (by kernel_rfl) rfl (fun K hK => ?_)
  go_simp
  with_reducible refine (clone_any A n c q.s w1 HNL.out HNIL.out HI1.out (by omega)).mono ?_
  rintro e w2 ⟨v2, rfl, ho2, hb2⟩
  have HO2 := Lib.hid ho2
  have HB2 := Lib.hid hb2
  have hg2 := hg1.trans hb2
  obtain ⟨A2, n2, c2, rfl⟩ : ∃ A2 n2 c2, v2 = .slice A2 n2 c2 := (by obtain ⟨A2, c2, h, _⟩ := own_form ho2; exact ⟨A2, _, c2, h⟩)
  clear ho2
  refine hK.out _ _ ?_ ?_
  · exact hb2
  clear hK K
  refine wpG_take 9 12 (v := ?v9) rfl rfl (by kernel_rfl) (by kernel_rfl) (by kernel_rfl) (fun _ _ _ h => h) (Or.inl ⟨by rfl, ?y9⟩) ?r9
  case y9 => (intro W hW; (go_simp; try with_reducible rfl))
  simp only [Act.put, List.setIfInBounds_toArray, List.set_cons_zero, List.set_cons_succ]
  refine wpG_call 10 (by kernel_rfl) rfl (fun K hK => ?_)
  go_simp
  refine hK.out _ _ ?_ ?_
  · exact (Below.refl _ _).alloc (Nat.le_refl _) _
  clear hK K
  refine wpG_take 11 2 (v := ?v11) rfl rfl (by kernel_rfl) (by kernel_rfl) (by kernel_rfl) (fun _ _ _ h => h) (Or.inl ⟨by rfl, ?y11⟩) ?r11
  case y11 => (intro W hW; (go_simp; try with_reducible rfl))
  simp only [Act.put, List.setIfInBounds_toArray, List.set_cons_zero, List.set_cons_succ]
  refine wpG_done (by kernel_rfl) ?_ _

  go_wp2
  go_ret
  refine ⟨w2.heap.size, _, rfl, ⟨HG1.out.ok, HG1.out.len, Blk.new w2 _ _, ?_, ?_⟩, hg2.alloc hg2.below.size _⟩
  · exact rown_weak8 (HO2.out.alloc _) hg1.size
  · exact hg2.below.size
end Go.Proofs.Ytdkfffncohipbaa
