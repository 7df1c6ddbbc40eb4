/- Printed by gen_u5g.py. The method single of gathered by its contract. -/
import Derived.Test.YtmphfdnpnhlpjaaU5GAt
namespace Go.Proofs.Ytmphfdnpnhlpjaa
open Go.ChangeShapes Go.WideShapes Go.ChangeAt Go.RowKit
set_option linter.unusedVariables false
set_option linter.unusedSimpArgs false

set_option maxHeartbeats 1000000 in
theorem single_any (w : World) (gb mb base lo up : Nat) (C : List (Nat × Nat)) (P : List Pr5) (S : List (Nat × Nat)) (at0 : Nat) (e : Ent) (hG : GAt w gb mb base lo up C P S) (hb : at0 + e.n0 ≤ 100000000) (h2 : e.n1 ≤ 100000000) (hC : S.length ≤ 100000000) (hX : up ≤ w.heap.size) :
    Calls Try.prog 22 #[.pointer (some ⟨gb, 0, none⟩), .int .i32 at0, entV e] w (GPost5 w gb mb base lo up ((at0 + e.n0 : Nat) : Int) C P (S ++ [(at0 + e.n0, e.n1)])) := by
  obtain ⟨n0, n1, n2, li, o⟩ := e
  dsimp only at hb h2 hC
  have hgb : gb < w.heap.size := hG.lt
  have hmb : mb < w.heap.size := hG.lt'
  have q0 : (0 : Int) ≤ at0 := by omega
  have q1 : (0 : Int) ≤ n0 := by omega
  have q2 : (0 : Int) ≤ n1 := by omega
  have q4 : (at0 : Int) + n0 ≤ 100000000 := by omega
  have q5 : (n1 : Int) ≤ 100000000 := by omega
  have KE := Lib.hid (Blk.new w 60 (entC ⟨n0, n1, n2, li, o⟩))
  have hG2 := hG.alloc (.cells (entC ⟨n0, n1, n2, li, o⟩) 60)
  obtain ⟨v0, v1, v2, v3, v4, hM, hmap, hmb2, hne⟩ := hG2
  have ho0 : (w.alloc (.cells (entC ⟨n0, n1, n2, li, o⟩) 60)).ownsRow base 78 2 v2 S.length (entsV (castE S)) := hM.own 2 _ rfl
  obtain ⟨A0, cap0, rfl, hc1, hc2⟩ := own_form' ho0
  clear ho0 hG
  have HFD := Lib.hid (((Fr.refl rowTs [gb, mb] base w).alloc (.cells (entC ⟨n0, n1, n2, li, o⟩) 60)).drew)
  have HM := Lib.hid (gm_grow hM (w1 := (w.alloc (.cells (entC ⟨n0, n1, n2, li, o⟩) 60)).drew) (Below.refl _ _).drew)
  have HMAP := Lib.hid hmap.drew
  have KD := Lib.hid KE.out.drew
  clear hM hmap
  generalize hN : S.length = N at *
  have HN := Lib.hid hN
  clear hN
  unfold entV
  unfold entC at *
  go_enter Try.func22, Try.ntmps22
  go_wp2
  refine wp_region_U (fun u => u.cell? ⟨gb, 2, none⟩ = some (.slice A0 N cap0) ∧ u.frozen? ⟨gb, 2, none⟩ = false ∧ u.cell? ⟨w.heap.size, 1, none⟩ = some (.int .i32 n1)) 15 (by kernel_rfl) ?_
  generalize (w.alloc (.cells #[.int .i32 n0, .int .i32 n1, .int .i32 n2, .int .i64 li, .bool o] 60)).drew = w2 at *
  have HS : Hid (w2.cell? ⟨gb, 2, none⟩ = some (.slice A0 N cap0) ∧ w2.frozen? ⟨gb, 2, none⟩ = false ∧ w2.cell? ⟨w.heap.size, 1, none⟩ = some (.int .i32 n1)) := Lib.hid ⟨HM.out.blk.cell 2, HM.out.blk.frozen 2, KD.out.cell 1⟩
  have HSA : Hid ((w2.alloc (.cells #[.int .i32 ((at0 : Int) + n0), .int .i64 n1] 78)).cell? ⟨gb, 2, none⟩ = some (.slice A0 N cap0) ∧ (w2.alloc (.cells #[.int .i32 ((at0 : Int) + n0), .int .i64 n1] 78)).frozen? ⟨gb, 2, none⟩ = false ∧ (w2.alloc (.cells #[.int .i32 ((at0 : Int) + n0), .int .i64 n1] 78)).cell? ⟨w.heap.size, 1, none⟩ = some (.int .i32 n1)) := Lib.hid ⟨(HM.out.blk.alloc _).cell 2, (HM.out.blk.alloc _).frozen 2, (KD.out.alloc _).cell 1⟩
  have HX : Hid (up ≤ w2.heap.size) := Lib.hid (by have := HFD.out.size; omega)
  have HOWN : Hid (w2.ownsRow base 78 2 (.slice A0 N cap0) N (entsV (castE S))) := Lib.hid (HM.out.own 2 _ rfl)
  have hwr : IntKind.i64.wrap (n1 : Int) = n1 := by rw [IntKind.wrap_i64]; omega
  have HTOP : Hid (base ≤ (w2.alloc (.cells #[.int .i32 ((at0 : Int) + n0), .int .i64 n1] 78)).heap.size) := Lib.hid (by have := HM.out.top; simp; omega)
  refine wpU_take 0 13 (v := ?v0a) rfl rfl (by kernel_rfl) (by kernel_rfl) (by kernel_rfl) (by kernel_rfl) (fun _ _ _ h => h) HS.out (Or.inl ⟨by rfl, ?y0a⟩) ?r0a
  case y0a => (intro W _; go_simp; try with_reducible rfl)
  try simp only [Act.put, List.setIfInBounds_toArray, List.set_cons_zero, List.set_cons_succ]
  refine wpU_take 1 14 (v := ?v1a) rfl rfl (by kernel_rfl) (by kernel_rfl) (by kernel_rfl) (by kernel_rfl) (fun _ _ _ h => h) HS.out (Or.inl ⟨by rfl, ?y1a⟩) ?r1a
  case y1a => (intro W _; go_simp; try with_reducible rfl)
  try simp only [Act.put, List.setIfInBounds_toArray, List.set_cons_zero, List.set_cons_succ]
  refine wpU_take 2 15 (v := ?v2a) rfl rfl (by kernel_rfl) (by kernel_rfl) (by kernel_rfl) (by kernel_rfl) (fun _ _ _ h => h) HS.out (Or.inl ⟨by rfl, ?y2a⟩) ?r2a
  case y2a => (intro W _; go_simp; try with_reducible rfl)
  try simp only [Act.put, List.setIfInBounds_toArray, List.set_cons_zero, List.set_cons_succ]
  refine wpU_take 3 16 (v := ?v3a) rfl rfl (by kernel_rfl) (by kernel_rfl) (by kernel_rfl) (by kernel_rfl) (fun _ _ _ h => h) HS.out (Or.inl ⟨by rfl, ?y3a⟩) ?r3a
  case y3a => (intro W _; go_simp; try with_reducible rfl)
  try simp only [Act.put, List.setIfInBounds_toArray, List.set_cons_zero, List.set_cons_succ]
  refine wpU_take 4 17 (v := ?v4a) rfl rfl (by kernel_rfl) (by kernel_rfl) (by kernel_rfl) (by kernel_rfl) (fun _ _ _ h => h) HS.out (Or.inl ⟨by rfl, ?y4a⟩) ?r4a
  case y4a => (rintro W ⟨x1, x2, x3⟩; go_simp; try with_reducible rfl)
  try simp only [Act.put, List.setIfInBounds_toArray, List.set_cons_zero, List.set_cons_succ]
  refine wpU_take 5 18 (v := ?v5a) rfl rfl (by kernel_rfl) (by kernel_rfl) (by kernel_rfl) (by kernel_rfl) (fun _ _ _ h => h) HS.out (Or.inl ⟨by rfl, ?y5a⟩) ?r5a
  case y5a => (intro W _; go_simp; try with_reducible rfl)
  try simp only [Act.put, List.setIfInBounds_toArray, List.set_cons_zero, List.set_cons_succ]
  refine wpU_take 6 19 (v := ?v6a) rfl rfl (by kernel_rfl) (by kernel_rfl) (by kernel_rfl) (by kernel_rfl) (fun _ _ _ h => h) HS.out (Or.inl ⟨by rfl, ?y6a⟩) ?r6a
  case y6a => (intro W _; go_simp; try with_reducible rfl)
  try simp only [Act.put, List.setIfInBounds_toArray, List.set_cons_zero, List.set_cons_succ]
  refine wpU_take 7 20 (v := ?v7a) rfl rfl (by kernel_rfl) (by kernel_rfl) (by kernel_rfl) (by kernel_rfl) (fun _ _ _ h => h) HS.out (Or.inl ⟨by rfl, ?y7a⟩) ?r7a
  case y7a => (intro W _; go_simp; try with_reducible rfl)
  try simp only [Act.put, List.setIfInBounds_toArray, List.set_cons_zero, List.set_cons_succ]
  refine wpU_take 8 21 (v := ?v8a) rfl rfl (by kernel_rfl) (by kernel_rfl) (by kernel_rfl) (by kernel_rfl) (fun _ _ _ h => h) HS.out (Or.inl ⟨by rfl, ?y8a⟩) ?r8a
  case y8a => (rintro W ⟨x1, x2, x3⟩; go_simp; try with_reducible rfl)
  try simp only [Act.put, List.setIfInBounds_toArray, List.set_cons_zero, List.set_cons_succ]
  refine wpU_take 9 22 (v := ?v9a) rfl rfl (by kernel_rfl) (by kernel_rfl) (by kernel_rfl) (by kernel_rfl) (fun _ _ _ h => h) HS.out (Or.inl ⟨by rfl, ?y9a⟩) ?r9a
  case y9a => (intro W _; go_simp; try with_reducible rfl)
  try simp only [Act.put, List.setIfInBounds_toArray, List.set_cons_zero, List.set_cons_succ]
  refine wpU_take 10 23 (v := ?v10a) rfl rfl (by kernel_rfl) (by kernel_rfl) (by kernel_rfl) (by kernel_rfl) (fun _ _ _ h => h) HS.out (Or.inl ⟨by rfl, ?y10a⟩) ?r10a
  case y10a => (intro W _; go_simp; try with_reducible rfl)
  try simp only [Act.put, List.setIfInBounds_toArray, List.set_cons_zero, List.set_cons_succ]
  refine wpU_one 11 (by kernel_rfl) rfl (fun K hK => ?_)
  refine wpA_if (by rfl) ?_
  refine wpO_lit 50 78 1 _ rfl zEnt 2 16 Try.underlying50 info_zEnt (by decide) (by decide) (by decide) [.agg #[.int .i32 ((at0 : Int) + n0), .int .i64 n1]] (by simp [Act.eval]) (by simp [Value.cells]) rfl #[.int .i32 ((at0 : Int) + n0), .int .i64 n1] (by simp [Value.cells]) ?_
  refine hK.out _ _ HSA.out ?_
  clear hK K
  try simp only [Act.put, List.setIfInBounds_toArray, List.set_cons_zero, List.set_cons_succ]
  refine wpU_one 12 (by kernel_rfl) rfl (fun K hK => ?_)
  refine wpA_if (by rfl) ?_
  refine wpO_append _ _ 50 rfl base 78 zEnt 2 16 Try.underlying50 info_zEnt rfl (by decide) _ N _ rfl (HOWN.out.alloc _) ⟨w2.heap.size, 0, none⟩ 1 1 [.int .i32 ((at0 : Int) + n0), .int .i64 n1] rfl rfl (cells_new w2 _ _) (by simp [Value.oneCell']) (by simp only [maxLen]; omega) (by omega) HTOP.out ?_
  intro va w3 ho3 hg3 hloc; obtain ⟨A3, cap3, rfl, hq1, hq2⟩ := own_form' ho3
  obtain ⟨hb3, hM3, hF3⟩ := gm_app HM.out (i := 2) rfl hg3 ho3 hloc HX.out
  have HSB : Hid (w3.cell? ⟨gb, 2, none⟩ = some (.slice A0 N cap0) ∧ w3.frozen? ⟨gb, 2, none⟩ = false ∧ w3.cell? ⟨w.heap.size, 1, none⟩ = some (.int .i32 n1)) := Lib.hid ⟨hb3.cell 2, hb3.frozen 2, (row_blk (KD.out.alloc _) (HOWN.out.alloc _) (by decide) hg3).cell 1⟩
  have HM3 := Lib.hid hM3
  have HF3 := Lib.hid (fun L hL => hF3 rowTs L hL (show (78 : Nat) ∈ rowTs by decide))
  clear hb3 hM3 hF3 hloc hg3 ho3
  refine hK.out _ _ HSB.out ?_
  clear hK K
  try simp only [Act.put, List.setIfInBounds_toArray, List.set_cons_zero, List.set_cons_succ]
  refine wpU_one 13 (by kernel_rfl) rfl (fun K hK => ?_)
  go_simp
  refine hK.out _ _ HSB.out ?_
  clear hK K
  try simp only [Act.put, List.setIfInBounds_toArray, List.set_cons_zero, List.set_cons_succ]
  refine wpU_take 14 27 (v := ?v14a) rfl rfl (by kernel_rfl) (by kernel_rfl) (by kernel_rfl) (by kernel_rfl) (fun _ _ _ h => h) HSB.out (Or.inl ⟨by rfl, ?y14a⟩) ?r14a
  case y14a => (intro W _; go_simp; try with_reducible rfl)
  try simp only [Act.put, List.setIfInBounds_toArray, List.set_cons_zero, List.set_cons_succ]
  refine wpU_last (by kernel_rfl) rfl (by kernel_rfl) (fun K hK => ?_)
  have x1 := HSB.out.1
  have x2 := HSB.out.2.1
  go_simp
  refine hK.out _ _ ?_
  clear hK K
  go_wp2
  go_ret
  refine ⟨by simp, ⟨v0, v1, .slice A3 (N + 1) cap3, v3, v4, ?_, (Fr.mapIs (HF3.out [gb] (by simp)) HMAP.out (by simp; omega) hmb2), hmb2, hne⟩, HFD.out.trans (HF3.out _ (by simp))⟩
  have := HM3.out
  rw [castE_app, entsV_app, List.length_append, HN.out]
  simpa [castE, entsV] using this
end Go.Proofs.Ytmphfdnpnhlpjaa
