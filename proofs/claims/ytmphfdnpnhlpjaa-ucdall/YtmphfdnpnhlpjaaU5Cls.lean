/- Printed by gen_u5g.py. The method class of gathered by its contract. -/
import Derived.Test.YtmphfdnpnhlpjaaU5GAt
namespace Go.Proofs.Ytmphfdnpnhlpjaa
open Go.ChangeShapes Go.WideShapes Go.ChangeAt Go.RowKit
set_option linter.unusedVariables false
set_option linter.unusedSimpArgs false

set_option maxHeartbeats 1000000 in
theorem class_any (w : World) (gb mb base lo up : Nat) (C : List (Nat × Nat)) (P : List Pr5) (S : List (Nat × Nat)) (at0 : Nat) (e : Ent) (hG : GAt w gb mb base lo up C P S) (hb : at0 + e.n0 + e.n1 ≤ 100000000) (h2 : e.n2 ≤ 100000000) (hC : C.length + e.n1 ≤ 100000000) (hX : up ≤ w.heap.size) :
    Calls Try.prog 20 #[.pointer (some ⟨gb, 0, none⟩), .int .i32 at0, entV e] w (GPost5 w gb mb base lo up ((at0 + e.n0 + e.n1 : Nat) : Int) (C ++ run5 (at0 + e.n0) e.n1 e.n2) P S) := by
  obtain ⟨n0, n1, n2, li, o⟩ := e
  dsimp only at hb h2 hC
  have HG := Lib.hid hG
  have q0 : (0 : Int) ≤ at0 := by omega
  have q1 : (0 : Int) ≤ n0 := by omega
  have q2 : (0 : Int) ≤ n1 := by omega
  have q3 : (0 : Int) ≤ n2 := by omega
  have q4 : (at0 : Int) + n0 + n1 ≤ 100000000 := by omega
  have q5 : (n2 : Int) ≤ 100000000 := by omega
  have KE := Lib.hid (Blk.new w 60 (entC ⟨n0, n1, n2, li, o⟩))
  clear hG
  unfold entV entC
  go_enter Try.func20, Try.ntmps20
  go_wp2
  go_loopw [9] (fun c wr => ∃ j : Nat, j ≤ n1 ∧ c = .int .i32 ((at0 : Int) + n0 + j) ∧ GAt wr gb mb base lo up (C ++ run5 (at0 + n0) j n2) P S ∧ Fr rowTs [gb, mb] base (w.alloc (.cells (entC ⟨n0, n1, n2, li, o⟩) 60)) wr) (fun c _ => n1 - ((intOf c) - at0 - n0).toNat)
  case atStart => exact ⟨0, by omega, by go_num, by simpa [run5] using HG.out.alloc _, Fr.refl _ _ _ _⟩
  case round =>
    obtain ⟨j, hj, rfl, hR, hF⟩ := hrel
    have hgb : gb < w.heap.size := HG.out.lt
    have hmb : mb < w.heap.size := HG.out.lt'
    by_cases hlt : j < n1
    · have hlt' : (at0 : Int) + n0 + j < at0 + n0 + n1 := by omega
      have hE := hF.blk KE.out (by simp; omega) (by decide)
      have HF := Lib.hid hF
      obtain ⟨v0, v1, v2, v3, v4, hM, hmap, hmb2, hne⟩ := hR
      have ho0 : wr.ownsRow base 78 2 v0 (C ++ run5 (at0 + n0) j n2).length (entsV (castE (C ++ run5 (at0 + n0) j n2))) := hM.own 0 _ rfl
      obtain ⟨A0, cap0, rfl, hc1, hc2⟩ := own_form' ho0
      clear ho0
      have hlen : (C ++ run5 (at0 + n0) j n2).length ≤ 100000000 := by rw [List.length_append, run5_len]; omega
      have HL := Lib.hid (show (C ++ run5 (at0 + n0) j n2).length = C.length + j by rw [List.length_append, run5_len])
      generalize hN : (C ++ run5 (at0 + n0) j n2).length = N at *
      have HN := Lib.hid hN
      clear hN hF
      go_wp2
      have HM := Lib.hid (gm_grow hM (w1 := wr.drew) (Below.refl _ _).drew)
      have HMAP := Lib.hid hmap.drew
      have HFD := Lib.hid HF.out.drew
      have KD := Lib.hid hE.drew
      clear hM hmap hE
      refine wp_region_U (fun u => u.cell? ⟨gb, 0, none⟩ = some (.slice A0 N cap0) ∧ u.frozen? ⟨gb, 0, none⟩ = false ∧ u.cell? ⟨w.heap.size, 2, none⟩ = some (.int .i32 n2)) 15 (by kernel_rfl) ?_
      generalize wr.drew = w2 at *
      have HS : Hid (w2.cell? ⟨gb, 0, none⟩ = some (.slice A0 N cap0) ∧ w2.frozen? ⟨gb, 0, none⟩ = false ∧ w2.cell? ⟨w.heap.size, 2, none⟩ = some (.int .i32 n2)) := Lib.hid ⟨HM.out.blk.cell 0, HM.out.blk.frozen 0, KD.out.cell 2⟩
      have HSA : Hid ((w2.alloc (.cells #[.int .i32 ((at0 : Int) + n0 + j), .int .i64 n2] 78)).cell? ⟨gb, 0, none⟩ = some (.slice A0 N cap0) ∧ (w2.alloc (.cells #[.int .i32 ((at0 : Int) + n0 + j), .int .i64 n2] 78)).frozen? ⟨gb, 0, none⟩ = false ∧ (w2.alloc (.cells #[.int .i32 ((at0 : Int) + n0 + j), .int .i64 n2] 78)).cell? ⟨w.heap.size, 2, none⟩ = some (.int .i32 n2)) := Lib.hid ⟨(HM.out.blk.alloc _).cell 0, (HM.out.blk.alloc _).frozen 0, (KD.out.alloc _).cell 2⟩
      have HX : Hid (up ≤ w2.heap.size) := Lib.hid (by have := HFD.out.size; simp at this; omega)
      have HOWN : Hid (w2.ownsRow base 78 2 (.slice A0 N cap0) N (entsV (castE (C ++ run5 (at0 + n0) j n2)))) := Lib.hid (HM.out.own 0 _ rfl)
      have hwr : IntKind.i64.wrap (n2 : Int) = n2 := by rw [IntKind.wrap_i64]; omega
      have HTOP : Hid (base ≤ (w2.alloc (.cells #[.int .i32 ((at0 : Int) + n0 + j), .int .i64 n2] 78)).heap.size) := Lib.hid (by have := HM.out.top; simp; omega)
      refine wpU_take 0 26 (v := ?v0a) rfl rfl (by kernel_rfl) (by kernel_rfl) (by kernel_rfl) (by kernel_rfl) (fun _ _ _ h => h) HS.out (Or.inl ⟨by rfl, ?y0a⟩) ?r0a
      case y0a => (intro W _; go_simp; try with_reducible rfl)
      try simp only [Act.put, List.setIfInBounds_toArray, List.set_cons_zero, List.set_cons_succ]
      refine wpU_take 1 27 (v := ?v1a) rfl rfl (by kernel_rfl) (by kernel_rfl) (by kernel_rfl) (by kernel_rfl) (fun _ _ _ h => h) HS.out (Or.inl ⟨by rfl, ?y1a⟩) ?r1a
      case y1a => (intro W _; go_simp; try with_reducible rfl)
      try simp only [Act.put, List.setIfInBounds_toArray, List.set_cons_zero, List.set_cons_succ]
      refine wpU_take 2 28 (v := ?v2a) rfl rfl (by kernel_rfl) (by kernel_rfl) (by kernel_rfl) (by kernel_rfl) (fun _ _ _ h => h) HS.out (Or.inl ⟨by rfl, ?y2a⟩) ?r2a
      case y2a => (intro W _; go_simp; try with_reducible rfl)
      try simp only [Act.put, List.setIfInBounds_toArray, List.set_cons_zero, List.set_cons_succ]
      refine wpU_take 3 29 (v := ?v3a) rfl rfl (by kernel_rfl) (by kernel_rfl) (by kernel_rfl) (by kernel_rfl) (fun _ _ _ h => h) HS.out (Or.inl ⟨by rfl, ?y3a⟩) ?r3a
      case y3a => (intro W _; go_simp; try with_reducible rfl)
      try simp only [Act.put, List.setIfInBounds_toArray, List.set_cons_zero, List.set_cons_succ]
      refine wpU_take 4 30 (v := ?v4a) rfl rfl (by kernel_rfl) (by kernel_rfl) (by kernel_rfl) (by kernel_rfl) (fun _ _ _ h => h) HS.out (Or.inl ⟨by rfl, ?y4a⟩) ?r4a
      case y4a => (rintro W ⟨x1, x2, x3⟩; go_simp; try with_reducible rfl)
      try simp only [Act.put, List.setIfInBounds_toArray, List.set_cons_zero, List.set_cons_succ]
      refine wpU_take 5 31 (v := ?v5a) rfl rfl (by kernel_rfl) (by kernel_rfl) (by kernel_rfl) (by kernel_rfl) (fun _ _ _ h => h) HS.out (Or.inl ⟨by rfl, ?y5a⟩) ?r5a
      case y5a => (intro W _; go_simp; try with_reducible rfl)
      try simp only [Act.put, List.setIfInBounds_toArray, List.set_cons_zero, List.set_cons_succ]
      refine wpU_take 6 32 (v := ?v6a) rfl rfl (by kernel_rfl) (by kernel_rfl) (by kernel_rfl) (by kernel_rfl) (fun _ _ _ h => h) HS.out (Or.inl ⟨by rfl, ?y6a⟩) ?r6a
      case y6a => (intro W _; go_simp; try with_reducible rfl)
      try simp only [Act.put, List.setIfInBounds_toArray, List.set_cons_zero, List.set_cons_succ]
      refine wpU_take 7 33 (v := ?v7a) rfl rfl (by kernel_rfl) (by kernel_rfl) (by kernel_rfl) (by kernel_rfl) (fun _ _ _ h => h) HS.out (Or.inl ⟨by rfl, ?y7a⟩) ?r7a
      case y7a => (intro W _; go_simp; try with_reducible rfl)
      try simp only [Act.put, List.setIfInBounds_toArray, List.set_cons_zero, List.set_cons_succ]
      refine wpU_take 8 34 (v := ?v8a) rfl rfl (by kernel_rfl) (by kernel_rfl) (by kernel_rfl) (by kernel_rfl) (fun _ _ _ h => h) HS.out (Or.inl ⟨by rfl, ?y8a⟩) ?r8a
      case y8a => (rintro W ⟨x1, x2, x3⟩; go_simp; try with_reducible rfl)
      try simp only [Act.put, List.setIfInBounds_toArray, List.set_cons_zero, List.set_cons_succ]
      refine wpU_take 9 35 (v := ?v9a) rfl rfl (by kernel_rfl) (by kernel_rfl) (by kernel_rfl) (by kernel_rfl) (fun _ _ _ h => h) HS.out (Or.inl ⟨by rfl, ?y9a⟩) ?r9a
      case y9a => (intro W _; go_simp; try with_reducible rfl)
      try simp only [Act.put, List.setIfInBounds_toArray, List.set_cons_zero, List.set_cons_succ]
      refine wpU_take 10 36 (v := ?v10a) rfl rfl (by kernel_rfl) (by kernel_rfl) (by kernel_rfl) (by kernel_rfl) (fun _ _ _ h => h) HS.out (Or.inl ⟨by rfl, ?y10a⟩) ?r10a
      case y10a => (intro W _; go_simp; try with_reducible rfl)
      try simp only [Act.put, List.setIfInBounds_toArray, List.set_cons_zero, List.set_cons_succ]
      refine wpU_one 11 (by kernel_rfl) rfl (fun K hK => ?_)
      refine wpA_if (by rfl) ?_
      refine wpO_lit 50 78 1 _ rfl zEnt 2 16 Try.underlying50 info_zEnt (by decide) (by decide) (by decide) [.agg #[.int .i32 ((at0 : Int) + n0 + j), .int .i64 n2]] (by simp [Act.eval]) (by simp [Value.cells]) rfl #[.int .i32 ((at0 : Int) + n0 + j), .int .i64 n2] (by simp [Value.cells]) ?_
      refine hK.out _ _ HSA.out ?_
      clear hK K
      try simp only [Act.put, List.setIfInBounds_toArray, List.set_cons_zero, List.set_cons_succ]
      refine wpU_one 12 (by kernel_rfl) rfl (fun K hK => ?_)
      refine wpA_if (by rfl) ?_
      refine wpO_append _ _ 50 rfl base 78 zEnt 2 16 Try.underlying50 info_zEnt rfl (by decide) _ N _ rfl (HOWN.out.alloc _) ⟨w2.heap.size, 0, none⟩ 1 1 [.int .i32 ((at0 : Int) + n0 + j), .int .i64 n2] rfl rfl (cells_new w2 _ _) (by simp [Value.oneCell']) (by simp only [maxLen]; omega) (by omega) HTOP.out ?_
      intro va w3 ho3 hg3 hloc; obtain ⟨A3, cap3, rfl, hq1, hq2⟩ := own_form' ho3
      obtain ⟨hb3, hM3, hF3⟩ := gm_app HM.out (i := 0) rfl hg3 ho3 hloc HX.out
      have HSB : Hid (w3.cell? ⟨gb, 0, none⟩ = some (.slice A0 N cap0) ∧ w3.frozen? ⟨gb, 0, none⟩ = false ∧ w3.cell? ⟨w.heap.size, 2, none⟩ = some (.int .i32 n2)) := Lib.hid ⟨hb3.cell 0, hb3.frozen 0, (row_blk (KD.out.alloc _) (HOWN.out.alloc _) (by decide) hg3).cell 2⟩
      have HM3 := Lib.hid hM3
      have HF3 := Lib.hid (fun L hL => hF3 rowTs L hL (show (78 : Nat) ∈ rowTs by decide))
      clear hb3 hM3 hF3 hloc hg3 ho3
      refine hK.out _ _ HSB.out ?_
      clear hK K
      try simp only [Act.put, List.setIfInBounds_toArray, List.set_cons_zero, List.set_cons_succ]
      refine wpU_one 13 (by kernel_rfl) rfl (fun K hK => ?_)
      go_simp
      refine hK.out _ _ HSB.out ?_
      clear hK K
      try simp only [Act.put, List.setIfInBounds_toArray, List.set_cons_zero, List.set_cons_succ]
      refine wpU_take 14 40 (v := ?v14a) rfl rfl (by kernel_rfl) (by kernel_rfl) (by kernel_rfl) (by kernel_rfl) (fun _ _ _ h => h) HSB.out (Or.inl ⟨by rfl, ?y14a⟩) ?r14a
      case y14a => (intro W _; go_simp; try with_reducible rfl)
      try simp only [Act.put, List.setIfInBounds_toArray, List.set_cons_zero, List.set_cons_succ]
      refine wpU_last (by kernel_rfl) rfl (by kernel_rfl) (fun K hK => ?_)
      have x1 := HSB.out.1
      have x2 := HSB.out.2.1
      go_simp
      refine hK.out _ _ ?_
      clear hK K
      go_wp2
      go_roundw
      case rel =>
        refine ⟨j + 1, by omega, by go_num, ?_, HFD.out.trans (HF3.out _ (by simp))⟩
        have e1 : C ++ run5 (at0 + n0) (j + 1) n2 = (C ++ run5 (at0 + n0) j n2) ++ [(at0 + n0 + j, n2)] := by rw [run5_snoc, List.append_assoc]
        rw [e1]
        refine ⟨.slice A3 (N + 1) cap3, v1, v2, v3, v4, ?_, (Fr.mapIs (HF3.out [gb] (by simp)) HMAP.out (by simp; omega) hmb2), hmb2, hne⟩
        have := HM3.out
        rw [castE_app, entsV_app, List.length_append, HN.out]
        simpa [castE, entsV] using this
      case measure => simp [intOf]; omega
    · obtain rfl : j = n1 := by omega
      have hlt' : ¬ (at0 : Int) + n0 + j < at0 + n0 + j := by omega
      have HR := Lib.hid hR
      have HF := Lib.hid hF
      clear hR hF
      go_wp2
      go_ret
      exact ⟨by simp, HR.out, ((Fr.refl _ _ _ _).alloc _).trans HF.out⟩
end Go.Proofs.Ytmphfdnpnhlpjaa
