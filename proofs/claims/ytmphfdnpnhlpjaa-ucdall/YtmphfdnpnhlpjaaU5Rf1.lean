/- Printed by gen_u5r.py. The loop over the entries of text 2 in ucd.Build. -/
import Derived.Test.YtmphfdnpnhlpjaaU5Rnd
namespace Go.Proofs.Ytmphfdnpnhlpjaa
open Go.RowKit Go.Shelf
set_option linter.unusedVariables false
set_option linter.unusedSimpArgs false
attribute [local go_sem] Oper.semAt_some

set_option maxRecDepth 100000 in
set_option maxHeartbeats 4000000 in
theorem rf1_in (F : Fence) (hF : Wide F) (n : Nat) (hn : 3 ≤ n) (T : ByteArray) (hT : Txt T) (hE : endP 0 (esOf T) ≤ 100000000) (C1 : List (Nat × Nat)) (w W0 : World) (gb mb base gx nb ab sb B : Nat) (Ds : List Nat) (hB : W0.heap.size = B) (hL : Lay w gb mb base gx nb ab B Ds)
    (hst : Rst w W0 gb mb base B (B + 3) gx nb ab Ds 1 0 C1 [] []) (hsb : Blk W0 sb 9 #[.string T]) (hs1 : sb < B) (hs2 : gx < sb) (hs3 : sb ≠ ab) (hs4 : sb ≠ nb)
    (u0 u3 u5 u6 u7 u8 u9 u10 u11 u12 u13 u14 u16 u17 u18 u19 u20 u21 u22 u23 u24 u25 u26 u27 u28 u29 u30 u31 u32 u33 u34 u35 u36 u37 u38 u39 u40 u41 : Value) (ds : List Deferred) (Q : Exit → Act → World → Prop)
    (hQ : ∀ W, Rst w W gb mb base B (B + 3) gx nb ab Ds 1 (endP 0 (esOf T)) C1 (prE 0 (esOf T)) [] → W.heap[B]? = some (.deferred (some [])) → (Code.exit 2).wpIn F n Try.prog Q { tmps := #[u0, .pointer (some ⟨gx, 0, none⟩), .pointer (some ⟨nb, 0, none⟩), u3, .pointer (some ⟨ab, 0, none⟩), u5, u6, u7, u8, u9, u10, u11, u12, u13, u14, .func (.func 27) #[] #[.pointer (some ⟨sb, 0, none⟩)], u16, u17, u18, u19, u20, u21, u22, u23, u24, u25, u26, u27, u28, u29, u30, u31, u32, u33, u34, u35, u36, u37, u38, u39, u40, u41], defers := { target := .collected B, args := #[] } :: ds } W) :
    rUcdBuild1.wpIn F n Try.prog Q { tmps := #[u0, .pointer (some ⟨gx, 0, none⟩), .pointer (some ⟨nb, 0, none⟩), u3, .pointer (some ⟨ab, 0, none⟩), u5, u6, u7, u8, u9, u10, u11, u12, u13, u14, .func (.func 27) #[] #[.pointer (some ⟨sb, 0, none⟩)], u16, u17, u18, u19, u20, u21, u22, u23, u24, u25, u26, u27, u28, u29, u30, u31, u32, u33, u34, u35, u36, u37, u38, u39, u40, u41], defers := ds } W0 := by
  have h1 : 1 ≤ n := by omega
  have hro := hF.round
  have hd := hF.depth
  have hdd : ∀ k : Nat, (F.depth.isSome = true → 1 ≤ k) := fun k h => by rw [hd] at h; cases h
  have hf2 := hF.fn 27
  have hf3 := hF.fn 21
  obtain ⟨l1, l2, l3, l4, l5, l6, l7, l8, l9⟩ := hL
  have HQ := Lib.hid hQ
  clear hQ
  unfold rUcdBuild1
  refine wpIn_rangeFuncE hro h1 (gf := 27) (lb := #[.pointer (some ⟨sb, 0, none⟩)]) (by simp [Act.eval]) hf2 (enters_of Try.func27 (by kernel_rfl) rfl)
    (encs := fun x : Ent => #[entV x]) (L := [sb]) (S := fun ys => ys = ents (bytesOf T)) (Sp := fun pre => pre <+: ents (bytesOf T)) (Ei := isEnt) B hB (by simp; omega)
    (fun W1 hs hb => entries_seq F hF (n - 1) sb B T hT.size hT.ok W1 hs (hsb.below hb (by omega)) hs1) (fun _ => rfl)
    (fun (pre : List Ent) W => (∀ e ∈ pre, e.isZ = false) ∧ (Rst w W gb mb base B (B + 3) gx nb ab Ds 1 (endP 0 pre) C1 (prE 0 pre) []) ∧ Blk W sb 9 #[.string T])
    (fun c (pre : List Ent) W => c = .exit 2 ∧ ∃ q, pre = q ++ [zeroE] ∧ Rst w W gb mb base B (B + 3) gx nb ab Ds 1 (endP 0 q) C1 (prE 0 q) [])
    (fun r hr1 hr2 s A C h hb => ⟨h.1, h.2.1.but ⟨l1, l2, l3, l4, l5, l6, l7, l8, l9⟩ hb hr1 hr2, hb.blk h.2.2 (by omega)⟩)
    (fun c r hr1 hr2 s A C h hb => by
      obtain ⟨hc, q, hq, h⟩ := h
      exact ⟨hc, q, hq, h.but ⟨l1, l2, l3, l4, l5, l6, l7, l8, l9⟩ hb hr1 hr2⟩)
    ⟨by simp, hst, hsb⟩
    (fun x a' W => ∃ Bx, B + 3 ≤ Bx ∧ Blk W Bx 60 (entC x) ∧ a' = { tmps := #[u0, .pointer (some ⟨gx, 0, none⟩), .pointer (some ⟨nb, 0, none⟩), u3, .pointer (some ⟨ab, 0, none⟩), .pointer (some ⟨Bx, 0, none⟩), u6, u7, u8, u9, u10, u11, u12, u13, u14, .func (.func 27) #[] #[.pointer (some ⟨sb, 0, none⟩)], entV x, u17, u18, u19, u20, u21, u22, u23, u24, u25, u26, u27, u28, u29, u30, u31, u32, u33, u34, u35, u36, u37, u38, u39, u40, u41], defers := [] })
    (fun x a' r hr1 hr2 s A C h hb => by
      obtain ⟨Bx, hx1, hx2, hx3⟩ := h
      exact ⟨Bx, hx1, hb.blk hx2 (by omega), hx3⟩) ?assign ?body ?done ?stop
  case assign =>
    rintro l pre ⟨n0, n1, n2, li, o⟩ W K ⟨hz, hR, hsw⟩ hsz hK
    unfold entV entC
    gi_wp2
    refine hK _ _ ?_ ⟨hz, hR.grow ⟨l1, l2, l3, l4, l5, l6, l7, l8, l9⟩ ((Below.refl _ W).alloc (Nat.le_refl _) _), hsw.alloc _⟩ ⟨W.heap.size, hsz, Blk.new W 60 _, rfl⟩
    intro i hi
    refine Below.heap_alloc W _ i ?_
    simp only [List.mem_cons, List.not_mem_nil, or_false] at hi
    omega
  case body =>
    rintro l pre ⟨n0, n1, n2, li, o⟩ a' W ⟨hz, hR, hsw⟩ ⟨Bx, hBx, hE, rfl⟩ hp ho0 ⟨lr, ho1⟩ ⟨oe, ho2, ⟨ecs, rfl⟩⟩
    have HP := Lib.hid hp
    have HR := Lib.hid hR
    have hszW : B + 3 ≤ W.heap.size := by have := (Array.getElem?_eq_some_iff.1 ho2).1; omega
    have HE := Lib.hid hE
    have HZ := Lib.hid hz
    have c0 : W.cell? ⟨Bx, 0, none⟩ = some (.int .i32 n0) := hE.cell 0
    have c1 : W.cell? ⟨Bx, 1, none⟩ = some (.int .i32 n1) := hE.cell 1
    have c2 : W.cell? ⟨Bx, 2, none⟩ = some (.int .i32 n2) := hE.cell 2
    have c3 : W.cell? ⟨Bx, 3, none⟩ = some (.int .i64 li) := hE.cell 3
    have c4 : W.cell? ⟨Bx, 4, none⟩ = some (.bool o) := hE.cell 4
    have cn : W.cell? ⟨nb, 0, none⟩ = some (.int .i64 1) := hR.nu.cell 0
    have cg : W.cell? ⟨gx, 0, none⟩ = some (.pointer (some ⟨gb, 0, none⟩)) := hR.gx.cell 0
    have ca : W.cell? ⟨ab, 0, none⟩ = some (.int .i32 (endP 0 pre)) := hR.at0.cell 0
    have HSW := Lib.hid hsw
    have H0 := Lib.hid ho0
    have H1 := Lib.hid ho1
    have H2 := Lib.hid ho2
    clear hp hR hE hz hsw ho0 ho1 ho2
    have hmem : (⟨n0, n1, n2, li, o⟩ : Ent).isZ = true ∨ pre ++ [⟨n0, n1, n2, li, o⟩] <+: esOf T := by
      cases hzz : (⟨n0, n1, n2, li, o⟩ : Ent).isZ
      · exact .inr (hT.pre HP.out hzz)
      · exact .inl rfl
    by_cases hzz : (⟨n0, n1, n2, li, o⟩ : Ent).isZ = true
    · have hz2 := isZ_iff.1 hzz
      unfold zeroE at hz2
      injection hz2 with e0 e1 e2 e3 e4
      subst e0 e1 e2 e3 e4
      clear hzz hmem
      unfold entV entC
      gi_wp2_with (refine wpListIn_ent _ _ rfl rfl zeroE (by decide) (by decide) (by decide) rfl rfl ?_; show wpListIn _ _ _ _ _ _ (Act.put _ _ (.bool true)) _)
      exact ⟨Kept.refl _ _, rfl, pre, rfl, HR.out⟩
    · have hzf : (⟨n0, n1, n2, li, o⟩ : Ent).isZ = false := by simpa using hzz
      have hpre := hmem.resolve_left hzz
      have hpre0 : pre <+: esOf T := (List.prefix_append _ _).trans hpre
      have hsm := hT.small _ (hpre.subset (by simp : (⟨n0, n1, n2, li, o⟩ : Ent) ∈ pre ++ [⟨n0, n1, n2, li, o⟩]))
      dsimp only at hsm
      have hle := endP_pre hpre 0
      rw [endP_snoc] at hle
      have hln := prE_len pre 0
      have hle2 := hpre0.length_le
      have hle3 := hT.len
      dsimp only at hle
      have hRs := HR.out.be.size
      have hmet := pair_any W gb mb base B (B + 3) C1 (prE 0 pre) [] (endP 0 pre) ⟨n0, n1, n2, li, o⟩ HR.out.g (by dsimp only; omega) hsm.1 hsm.2 (by omega) (by omega)
      have HMET := Lib.hid hmet
      have hb0 : n0 ≤ 100000000 := by omega
      have HS : Hid (n1 ≤ 100000000 ∧ n2 ≤ 100000000) := Lib.hid hsm
      have HZF := Lib.hid hzf
      have HPRE := Lib.hid hpre
      clear hmet hmem hsm hzz hzf hpre hpre0
      generalize hA : (endP 0 pre) = A0 at *
      have HA := Lib.hid hA
      clear hA
      unfold entV entC
      gi_wp2_with (first
        | (refine wpListIn_ent _ _ rfl rfl ⟨n0, n1, n2, li, o⟩ hb0 HS.out.1 HS.out.2 rfl rfl ?_; rw [HZF.out])
        | ((try refine ⟨hdd _, ?_⟩); gi_at_call 21; refine (CallsIn.inRound l (hF.calls HMET.out)).mono ?_; rintro e W3 ⟨rfl, hG3, hF3⟩; obtain ⟨x1, x2, hR3⟩ := HR.out.next (a' := A0 + n0) ⟨l1, l2, l3, l4, l5, l6, l7, l8, l9⟩ hG3 hF3))
      have nr : ∀ (k : Nat) (ob : Obj), W.heap[k]? = some ob → k ≠ gb → k ≠ mb → k ≠ ab → notRow rowTs ob → (W3.setCell ⟨ab, 0, none⟩ (.int .i32 ((A0 + n0 : Nat) : Int))).heap[k]? = some ob := fun k ob hk h1 h2 h3 h4 =>
        (Below.heap_setCell W3 ⟨ab, 0, none⟩ _ k h3).trans (hF3.keep k ob hk (by simp [h1, h2]) (.inr h4))
      have e1 : (W3.setCell ⟨ab, 0, none⟩ (.int .i32 ((A0 + n0 : Nat) : Int))) = (W3.setCell ⟨ab, 0, none⟩ (.int .i32 ((A0 : Int) + n0))) := by congr 2
      rw [← e1]
      refine ⟨?_, ?_, ?_, ?_⟩
      · intro i hi
        simp only [List.mem_cons, List.not_mem_nil, or_false] at hi
        rcases hi with rfl | rfl | rfl | rfl
        · exact (nr i _ H0.out (by omega) (by omega) (by omega) (fun cs t m e => by cases e)).trans H0.out.symm
        · exact (nr _ _ H1.out (by omega) (by omega) (by omega) (fun cs t m e => by cases e)).trans H1.out.symm
        · exact (nr _ _ H2.out (by omega) (by omega) (by omega) (fun cs t m e => by cases e; decide)).trans H2.out.symm
        · exact (nr i _ HSW.out (by omega) (by omega) (by omega) (fun cs t m e => by cases e; decide)).trans (show W.heap[i]? = _ from HSW.out).symm
      · intro e he
        rcases List.mem_append.1 he with he | he
        · exact HZ.out e he
        · simp only [List.mem_cons, List.not_mem_nil, or_false] at he
          rw [he]; exact HZF.out
      · rw [prE_snoc, endP_snoc]
        rw [HA.out]
        exact hR3
      · exact nr sb _ HSW.out (by omega) (by omega) (by omega) (fun cs t m e => by cases e; decide)
  case done =>
    rintro xs W rfl ⟨hz, _, _⟩ _
    have := hz zeroE (by rw [hT.ents]; simp)
    exact absurd this (by decide)
  case stop =>
    rintro c pre W hp ⟨rfl, q, rfl, hR⟩ hK
    have hq := hT.all hp
    rw [hq] at hR
    exact HQ.out W hR hK
end Go.Proofs.Ytmphfdnpnhlpjaa
