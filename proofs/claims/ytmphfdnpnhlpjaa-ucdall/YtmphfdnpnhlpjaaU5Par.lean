/- Printed by gen_u5g.py. The method pair of gathered by its contract. -/
import Derived.Test.YtmphfdnpnhlpjaaU5GAt
namespace Go.Proofs.Ytmphfdnpnhlpjaa
open Go.ChangeShapes Go.WideShapes Go.ChangeAt Go.RowKit
set_option linter.unusedVariables false
set_option linter.unusedSimpArgs false

theorem tkv : Kv Try.prog 69 (arrV .i32) DD := arr_kv laidOut4 (of_decide_eq_true (by kernel_rfl)) ts4 Try.underlying69 Try.underlying21 (by kernel_rfl) (by kernel_rfl) (by kernel_rfl)
theorem far_blk {W w1 : World} {v : Value} {k : Nat} {t : TypeId} {cs : Array Value} (hb : Blk W k t cs) (hk : v.ownBlock ≠ some k) (hg : W.grownBy w1 v.ownBlock) : Blk w1 k t cs :=
  (hg.block k hb.lt (fun e => hk e.symm)).trans hb
set_option maxHeartbeats 2000000 in
theorem pair_any (w : World) (gb mb base lo up : Nat) (C : List (Nat × Nat)) (P : List Pr5) (S : List (Nat × Nat)) (at0 : Nat) (e : Ent) (hG : GAt w gb mb base lo up C P S) (hb : at0 + e.n0 ≤ 100000000) (h1 : e.n1 ≤ 100000000) (h2 : e.n2 ≤ 100000000) (hC : P.length ≤ 100000000) (hX : up ≤ w.heap.size) :
    Calls Try.prog 21 #[.pointer (some ⟨gb, 0, none⟩), .int .i32 at0, entV e] w (GPost5 w gb mb base lo up ((at0 + e.n0 : Nat) : Int) C (P ++ [⟨at0 + e.n0, e.n1, e.n2, e.o⟩]) S) := by
  obtain ⟨n0, n1, n2, li, o⟩ := e
  dsimp only at hb h1 h2 hC
  have hgb : gb < w.heap.size := hG.lt
  have hmb : mb < w.heap.size := hG.lt'
  have q0 : (0 : Int) ≤ at0 := by omega
  have q1 : (0 : Int) ≤ n0 := by omega
  have q4 : (at0 : Int) + n0 ≤ 100000000 := by omega
  have hM := (scL_len P)
  have hO := (outs_len P)
  have hO1 : (0 : Int) ≤ outs P := by omega
  have hO2 : (outs P : Int) ≤ 100000000 := by omega
  have hG1 := hG.alloc (.cells (entC ⟨n0, n1, n2, li, o⟩) 60)
  have hG2 := hG1.alloc (.cells #[.int .i32 n1, .int .i32 n2] 69)
  obtain ⟨v0, v1, v2, v3, v4, hM1, hmap1, hmb2, hne⟩ := hG1
  have ho4 : (w.alloc (.cells (entC ⟨n0, n1, n2, li, o⟩) 60)).ownsRow base 69 2 v4 P.length (twV P) := hM1.own 4 _ rfl
  have ho1 : (w.alloc (.cells (entC ⟨n0, n1, n2, li, o⟩) 60)).ownsRow base 78 2 v1 P.length (entsV (castE (prI 0 P))) := hM1.own 1 _ rfl
  have ho3 : (w.alloc (.cells (entC ⟨n0, n1, n2, li, o⟩) 60)).ownsRow base 78 2 v3 (scL P).length (entsV (castE (scL P))) := hM1.own 3 _ rfl
  have ht4 : v4.ownBlock ≠ some (w.heap.size + 1) := fun e => by have := (ho4.lt _ e).2; simp at this
  obtain ⟨A4, cap4, rfl, hc1, hc2⟩ := own_form' ho4
  obtain ⟨A1, cap1, rfl, hc3, hc4⟩ := own_form' ho1
  obtain ⟨A5, cap5, rfl, hc5, hc6⟩ := own_form' ho3
  have KE := Lib.hid ((Blk.new w 60 (entC ⟨n0, n1, n2, li, o⟩)).alloc (.cells #[.int .i32 n1, .int .i32 n2] 69)).drew
  have KT : Hid (Blk ((w.alloc (.cells (entC ⟨n0, n1, n2, li, o⟩) 60)).alloc (.cells #[.int .i32 n1, .int .i32 n2] 69)).drew (w.heap.size + 1) 69 #[.int .i32 n1, .int .i32 n2]) := Lib.hid (by
    have := (Blk.new (w.alloc (.cells (entC ⟨n0, n1, n2, li, o⟩) 60)) 69 #[.int .i32 n1, .int .i32 n2]).drew
    simpa using this)
  have HFD := Lib.hid ((((Fr.refl rowTs [gb, mb] base w).alloc (.cells (entC ⟨n0, n1, n2, li, o⟩) 60)).alloc (.cells #[.int .i32 n1, .int .i32 n2] 69)).drew)
  have HM := Lib.hid (gm_grow hM1 (w1 := ((w.alloc (.cells (entC ⟨n0, n1, n2, li, o⟩) 60)).alloc (.cells #[.int .i32 n1, .int .i32 n2] 69)).drew) (((Below.refl _ _).alloc (Nat.le_refl _) _).drew))
  have HMAP := Lib.hid (hmap1.alloc (.cells #[.int .i32 n1, .int .i32 n2] 69)).drew
  have HT4 := Lib.hid ht4
  clear hG hG2 hM1 hmap1 ho4 ho1 ho3 ht4
  generalize hN : P.length = N at *
  generalize hMN : (scL P).length = M at *
  have HN := Lib.hid hN
  have HMN := Lib.hid hMN
  clear hN hMN
  unfold entV
  unfold entC at *
  go_enter Try.func21, Try.ntmps21
  go_wp2
  refine wp_region_U (fun u => u.cell? ⟨gb, 4, none⟩ = some (.slice A4 N cap4) ∧ u.frozen? ⟨gb, 4, none⟩ = false ∧ u.cell? ⟨w.heap.size + 1, 0, none⟩ = some (.int .i32 n1) ∧ u.cell? ⟨w.heap.size + 1, 1, none⟩ = some (.int .i32 n2)) 10 (by kernel_rfl) ?_
  generalize ((w.alloc (.cells #[.int .i32 n0, .int .i32 n1, .int .i32 n2, .int .i64 li, .bool o] 60)).alloc (.cells #[.int .i32 n1, .int .i32 n2] 69)).drew = w2 at *
  have HS : Hid (w2.cell? ⟨gb, 4, none⟩ = some (.slice A4 N cap4) ∧ w2.frozen? ⟨gb, 4, none⟩ = false ∧ w2.cell? ⟨w.heap.size + 1, 0, none⟩ = some (.int .i32 n1) ∧ w2.cell? ⟨w.heap.size + 1, 1, none⟩ = some (.int .i32 n2)) := Lib.hid ⟨HM.out.blk.cell 4, HM.out.blk.frozen 4, KT.out.cell 0, KT.out.cell 1⟩
  have HSA : Hid ((w2.alloc (.cells #[.int .i32 n1, .int .i32 n2] 69)).cell? ⟨gb, 4, none⟩ = some (.slice A4 N cap4) ∧ (w2.alloc (.cells #[.int .i32 n1, .int .i32 n2] 69)).frozen? ⟨gb, 4, none⟩ = false ∧ (w2.alloc (.cells #[.int .i32 n1, .int .i32 n2] 69)).cell? ⟨w.heap.size + 1, 0, none⟩ = some (.int .i32 n1) ∧ (w2.alloc (.cells #[.int .i32 n1, .int .i32 n2] 69)).cell? ⟨w.heap.size + 1, 1, none⟩ = some (.int .i32 n2)) := Lib.hid ⟨(HM.out.blk.alloc _).cell 4, (HM.out.blk.alloc _).frozen 4, (KT.out.alloc _).cell 0, (KT.out.alloc _).cell 1⟩
  have HX : Hid (up ≤ w2.heap.size) := Lib.hid (by have := HFD.out.size; omega)
  have HOWN : Hid (w2.ownsRow base 69 2 (.slice A4 N cap4) N (twV P)) := Lib.hid (HM.out.own 4 _ rfl)
  have HTOP : Hid (base ≤ (w2.alloc (.cells #[.int .i32 n1, .int .i32 n2] 69)).heap.size) := Lib.hid (by have := HM.out.top; simp; omega)
  refine wpU_take 0 21 (v := ?v0a) rfl rfl (by kernel_rfl) (by kernel_rfl) (by kernel_rfl) (by kernel_rfl) (fun _ _ _ h => h) HS.out (Or.inl ⟨by rfl, ?y0a⟩) ?r0a
  case y0a => (intro W _; go_simp; try with_reducible rfl)
  try simp only [Act.put, List.setIfInBounds_toArray, List.set_cons_zero, List.set_cons_succ]
  refine wpU_take 1 22 (v := ?v1a) rfl rfl (by kernel_rfl) (by kernel_rfl) (by kernel_rfl) (by kernel_rfl) (fun _ _ _ h => h) HS.out (Or.inl ⟨by rfl, ?y1a⟩) ?r1a
  case y1a => (intro W _; go_simp; try with_reducible rfl)
  try simp only [Act.put, List.setIfInBounds_toArray, List.set_cons_zero, List.set_cons_succ]
  refine wpU_take 2 23 (v := ?v2a) rfl rfl (by kernel_rfl) (by kernel_rfl) (by kernel_rfl) (by kernel_rfl) (fun _ _ _ h => h) HS.out (Or.inl ⟨by rfl, ?y2a⟩) ?r2a
  case y2a => (intro W _; go_simp; try with_reducible rfl)
  try simp only [Act.put, List.setIfInBounds_toArray, List.set_cons_zero, List.set_cons_succ]
  refine wpU_take 3 24 (v := ?v3a) rfl rfl (by kernel_rfl) (by kernel_rfl) (by kernel_rfl) (by kernel_rfl) (fun _ _ _ h => h) HS.out (Or.inl ⟨by rfl, ?y3a⟩) ?r3a
  case y3a => (intro W _; go_simp; try with_reducible rfl)
  try simp only [Act.put, List.setIfInBounds_toArray, List.set_cons_zero, List.set_cons_succ]
  refine wpU_take 4 25 (v := ?v4a) rfl rfl (by kernel_rfl) (by kernel_rfl) (by kernel_rfl) (by kernel_rfl) (fun _ _ _ h => h) HS.out (Or.inl ⟨by rfl, ?y4a⟩) ?r4a
  case y4a => (rintro W ⟨x1, x2, x3, x4⟩; go_simp; try with_reducible rfl)
  try simp only [Act.put, List.setIfInBounds_toArray, List.set_cons_zero, List.set_cons_succ]
  refine wpU_take 5 26 (v := ?v5a) rfl rfl (by kernel_rfl) (by kernel_rfl) (by kernel_rfl) (by kernel_rfl) (fun _ _ _ h => h) HS.out (Or.inl ⟨by rfl, ?y5a⟩) ?r5a
  case y5a => (rintro W ⟨x1, x2, x3, x4⟩; go_simp; try with_reducible rfl)
  try simp only [Act.put, List.setIfInBounds_toArray, List.set_cons_zero, List.set_cons_succ]
  refine wpU_one 6 (by kernel_rfl) rfl (fun K hK => ?_)
  refine wpA_if (by rfl) ?_
  refine wpO_lit 51 69 1 _ rfl zTwo 2 8 Try.underlying51 info_zTwo (by decide) (by decide) (by decide) [.agg #[.int .i32 n1, .int .i32 n2]] (by simp [Act.eval]) (by simp [Value.cells]) rfl #[.int .i32 n1, .int .i32 n2] (by simp [Value.cells]) ?_
  refine hK.out _ _ HSA.out ?_
  clear hK K
  try simp only [Act.put, List.setIfInBounds_toArray, List.set_cons_zero, List.set_cons_succ]
  refine wpU_one 7 (by kernel_rfl) rfl (fun K hK => ?_)
  refine wpA_if (by rfl) ?_
  refine wpO_append _ _ 51 rfl base 69 zTwo 2 8 Try.underlying51 info_zTwo rfl (by decide) _ N _ rfl (HOWN.out.alloc _) ⟨w2.heap.size, 0, none⟩ 1 1 [.int .i32 n1, .int .i32 n2] rfl rfl (cells_new w2 _ _) (by simp [Value.oneCell']) (by simp only [maxLen]; omega) (by omega) HTOP.out ?_
  intro va w3 ho3 hg3 hloc; obtain ⟨A3, cap3, rfl, hq1, hq2⟩ := own_form' ho3
  obtain ⟨hb3, hM3, hF3⟩ := gm_app HM.out (i := 4) rfl hg3 ho3 hloc HX.out
  have KT3 := Lib.hid (far_blk (KT.out.alloc _) HT4.out hg3)
  have KE3 := Lib.hid (row_blk (KE.out.alloc _) (HOWN.out.alloc _) (by decide) hg3)
  have HSB : Hid (w3.cell? ⟨gb, 4, none⟩ = some (.slice A4 N cap4) ∧ w3.frozen? ⟨gb, 4, none⟩ = false ∧ w3.cell? ⟨w.heap.size + 1, 0, none⟩ = some (.int .i32 n1) ∧ w3.cell? ⟨w.heap.size + 1, 1, none⟩ = some (.int .i32 n2)) := Lib.hid ⟨hb3.cell 4, hb3.frozen 4, KT3.out.cell 0, KT3.out.cell 1⟩
  have HM3 := Lib.hid hM3
  have HF3 := Lib.hid (fun L hL => hF3 rowTs L hL (show (69 : Nat) ∈ rowTs by decide))
  clear hb3 hM3 hF3 hloc hg3 ho3
  refine hK.out _ _ HSB.out ?_
  clear hK K
  try simp only [Act.put, List.setIfInBounds_toArray, List.set_cons_zero, List.set_cons_succ]
  refine wpU_one 8 (by kernel_rfl) rfl (fun K hK => ?_)
  go_simp
  refine hK.out _ _ HSB.out ?_
  clear hK K
  try simp only [Act.put, List.setIfInBounds_toArray, List.set_cons_zero, List.set_cons_succ]
  refine wpU_take 9 30 (v := ?v9a) rfl rfl (by kernel_rfl) (by kernel_rfl) (by kernel_rfl) (by kernel_rfl) (fun _ _ _ h => h) HSB.out (Or.inl ⟨by rfl, ?y9a⟩) ?r9a
  case y9a => (intro W _; go_simp; try with_reducible rfl)
  try simp only [Act.put, List.setIfInBounds_toArray, List.set_cons_zero, List.set_cons_succ]
  refine wpU_last (by kernel_rfl) rfl (by kernel_rfl) (fun K hK => ?_)
  have x1 := HSB.out.1
  have x2 := HSB.out.2.1
  go_simp
  refine hK.out _ _ ?_
  clear hK K
  go_wp2
  have HMA := Lib.hid (gm_grow HM3.out (w1 := (w3.setCell ⟨gb, 4, none⟩ (.slice A3 (N + 1) cap3)).drew) (Below.refl _ _).drew)
  have HMAPA := Lib.hid (Fr.mapIs (HF3.out [gb] (by simp)) HMAP.out (by simp; omega) hmb2).drew
  have HFA := Lib.hid (HFD.out.trans (HF3.out _ (by simp))).drew
  have KTA := Lib.hid (KT3.out.far (p := ⟨gb, 4, none⟩) (by show w.heap.size + 1 ≠ gb; omega) (.slice A3 (N + 1) cap3)).drew
  have KEA := Lib.hid (KE3.out.far (p := ⟨gb, 4, none⟩) (by show w.heap.size ≠ gb; omega) (.slice A3 (N + 1) cap3)).drew
  clear HM HM3 HMAP HFD KT KT3 KE KE3 HS HSA HSB HOWN HX HTOP HF3 HT4
  refine wp_region_U (fun u => u.cell? ⟨gb, 1, none⟩ = some (.slice A1 N cap1) ∧ u.frozen? ⟨gb, 1, none⟩ = false ∧ u.cell? ⟨gb, 4, none⟩ = some (.slice A3 (N + 1) cap3)) 16 (by kernel_rfl) ?_
  generalize (w3.setCell ⟨gb, 4, none⟩ (.slice A3 (N + 1) cap3)).drew = w2 at *
  have HS : Hid (w2.cell? ⟨gb, 1, none⟩ = some (.slice A1 N cap1) ∧ w2.frozen? ⟨gb, 1, none⟩ = false ∧ w2.cell? ⟨gb, 4, none⟩ = some (.slice A3 (N + 1) cap3)) := Lib.hid ⟨HMA.out.blk.cell 1, HMA.out.blk.frozen 1, HMA.out.blk.cell 4⟩
  have HSA : Hid ((w2.alloc (.cells #[.int .i32 ((at0 : Int) + n0), .int .i64 ((N : Int) + 1)] 78)).cell? ⟨gb, 1, none⟩ = some (.slice A1 N cap1) ∧ (w2.alloc (.cells #[.int .i32 ((at0 : Int) + n0), .int .i64 ((N : Int) + 1)] 78)).frozen? ⟨gb, 1, none⟩ = false ∧ (w2.alloc (.cells #[.int .i32 ((at0 : Int) + n0), .int .i64 ((N : Int) + 1)] 78)).cell? ⟨gb, 4, none⟩ = some (.slice A3 (N + 1) cap3)) := Lib.hid ⟨(HMA.out.blk.alloc _).cell 1, (HMA.out.blk.alloc _).frozen 1, (HMA.out.blk.alloc _).cell 4⟩
  have HX : Hid (up ≤ w2.heap.size) := Lib.hid (by have := HFA.out.size; omega)
  have HOWN : Hid (w2.ownsRow base 78 2 (.slice A1 N cap1) N (entsV (castE (prI 0 P)))) := Lib.hid (HMA.out.own 1 _ rfl)
  have HTOP : Hid (base ≤ (w2.alloc (.cells #[.int .i32 ((at0 : Int) + n0), .int .i64 ((N : Int) + 1)] 78)).heap.size) := Lib.hid (by have := HMA.out.top; simp; omega)
  refine wpU_take 0 31 (v := ?v0b) rfl rfl (by kernel_rfl) (by kernel_rfl) (by kernel_rfl) (by kernel_rfl) (fun _ _ _ h => h) HS.out (Or.inl ⟨by rfl, ?y0b⟩) ?r0b
  case y0b => (intro W _; go_simp; try with_reducible rfl)
  try simp only [Act.put, List.setIfInBounds_toArray, List.set_cons_zero, List.set_cons_succ]
  refine wpU_take 1 32 (v := ?v1b) rfl rfl (by kernel_rfl) (by kernel_rfl) (by kernel_rfl) (by kernel_rfl) (fun _ _ _ h => h) HS.out (Or.inl ⟨by rfl, ?y1b⟩) ?r1b
  case y1b => (intro W _; go_simp; try with_reducible rfl)
  try simp only [Act.put, List.setIfInBounds_toArray, List.set_cons_zero, List.set_cons_succ]
  refine wpU_take 2 33 (v := ?v2b) rfl rfl (by kernel_rfl) (by kernel_rfl) (by kernel_rfl) (by kernel_rfl) (fun _ _ _ h => h) HS.out (Or.inl ⟨by rfl, ?y2b⟩) ?r2b
  case y2b => (intro W _; go_simp; try with_reducible rfl)
  try simp only [Act.put, List.setIfInBounds_toArray, List.set_cons_zero, List.set_cons_succ]
  refine wpU_take 3 34 (v := ?v3b) rfl rfl (by kernel_rfl) (by kernel_rfl) (by kernel_rfl) (by kernel_rfl) (fun _ _ _ h => h) HS.out (Or.inl ⟨by rfl, ?y3b⟩) ?r3b
  case y3b => (intro W _; go_simp; try with_reducible rfl)
  try simp only [Act.put, List.setIfInBounds_toArray, List.set_cons_zero, List.set_cons_succ]
  refine wpU_take 4 35 (v := ?v4b) rfl rfl (by kernel_rfl) (by kernel_rfl) (by kernel_rfl) (by kernel_rfl) (fun _ _ _ h => h) HS.out (Or.inl ⟨by rfl, ?y4b⟩) ?r4b
  case y4b => (rintro W ⟨x1, x2, x3⟩; go_simp; try with_reducible rfl)
  try simp only [Act.put, List.setIfInBounds_toArray, List.set_cons_zero, List.set_cons_succ]
  refine wpU_take 5 36 (v := ?v5b) rfl rfl (by kernel_rfl) (by kernel_rfl) (by kernel_rfl) (by kernel_rfl) (fun _ _ _ h => h) HS.out (Or.inl ⟨by rfl, ?y5b⟩) ?r5b
  case y5b => (intro W _; go_simp; try with_reducible rfl)
  try simp only [Act.put, List.setIfInBounds_toArray, List.set_cons_zero, List.set_cons_succ]
  refine wpU_take 6 37 (v := ?v6b) rfl rfl (by kernel_rfl) (by kernel_rfl) (by kernel_rfl) (by kernel_rfl) (fun _ _ _ h => h) HS.out (Or.inl ⟨by rfl, ?y6b⟩) ?r6b
  case y6b => (intro W _; go_simp; try with_reducible rfl)
  try simp only [Act.put, List.setIfInBounds_toArray, List.set_cons_zero, List.set_cons_succ]
  refine wpU_take 7 38 (v := ?v7b) rfl rfl (by kernel_rfl) (by kernel_rfl) (by kernel_rfl) (by kernel_rfl) (fun _ _ _ h => h) HS.out (Or.inl ⟨by rfl, ?y7b⟩) ?r7b
  case y7b => (intro W _; go_simp; try with_reducible rfl)
  try simp only [Act.put, List.setIfInBounds_toArray, List.set_cons_zero, List.set_cons_succ]
  refine wpU_take 8 39 (v := ?v8b) rfl rfl (by kernel_rfl) (by kernel_rfl) (by kernel_rfl) (by kernel_rfl) (fun _ _ _ h => h) HS.out (Or.inl ⟨by rfl, ?y8b⟩) ?r8b
  case y8b => (intro W _; go_simp; try with_reducible rfl)
  try simp only [Act.put, List.setIfInBounds_toArray, List.set_cons_zero, List.set_cons_succ]
  refine wpU_take 9 40 (v := ?v9b) rfl rfl (by kernel_rfl) (by kernel_rfl) (by kernel_rfl) (by kernel_rfl) (fun _ _ _ h => h) HS.out (Or.inl ⟨by rfl, ?y9b⟩) ?r9b
  case y9b => (rintro W ⟨x1, x2, x3⟩; go_simp; try with_reducible rfl)
  try simp only [Act.put, List.setIfInBounds_toArray, List.set_cons_zero, List.set_cons_succ]
  refine wpU_take 10 41 (v := ?v10b) rfl rfl (by kernel_rfl) (by kernel_rfl) (by kernel_rfl) (by kernel_rfl) (fun _ _ _ h => h) HS.out (Or.inl ⟨by rfl, ?y10b⟩) ?r10b
  case y10b => (intro W _; go_simp; try with_reducible rfl)
  try simp only [Act.put, List.setIfInBounds_toArray, List.set_cons_zero, List.set_cons_succ]
  refine wpU_take 11 42 (v := ?v11b) rfl rfl (by kernel_rfl) (by kernel_rfl) (by kernel_rfl) (by kernel_rfl) (fun _ _ _ h => h) HS.out (Or.inl ⟨by rfl, ?y11b⟩) ?r11b
  case y11b => (intro W _; go_simp; try with_reducible rfl)
  try simp only [Act.put, List.setIfInBounds_toArray, List.set_cons_zero, List.set_cons_succ]
  refine wpU_one 12 (by kernel_rfl) rfl (fun K hK => ?_)
  refine wpA_if (by rfl) ?_
  refine wpO_lit 50 78 1 _ rfl zEnt 2 16 Try.underlying50 info_zEnt (by decide) (by decide) (by decide) [.agg #[.int .i32 ((at0 : Int) + n0), .int .i64 ((N : Int) + 1)]] (by simp [Act.eval]) (by simp [Value.cells]) rfl #[.int .i32 ((at0 : Int) + n0), .int .i64 ((N : Int) + 1)] (by simp [Value.cells]) ?_
  refine hK.out _ _ HSA.out ?_
  clear hK K
  try simp only [Act.put, List.setIfInBounds_toArray, List.set_cons_zero, List.set_cons_succ]
  refine wpU_one 13 (by kernel_rfl) rfl (fun K hK => ?_)
  refine wpA_if (by rfl) ?_
  refine wpO_append _ _ 50 rfl base 78 zEnt 2 16 Try.underlying50 info_zEnt rfl (by decide) _ N _ rfl (HOWN.out.alloc _) ⟨w2.heap.size, 0, none⟩ 1 1 [.int .i32 ((at0 : Int) + n0), .int .i64 ((N : Int) + 1)] rfl rfl (cells_new w2 _ _) (by simp [Value.oneCell']) (by simp only [maxLen]; omega) (by omega) HTOP.out ?_
  intro va wB ho3 hg3 hloc; obtain ⟨AB, capB, rfl, hq3, hq4⟩ := own_form' ho3
  obtain ⟨hb3, hM3, hF3⟩ := gm_app HMA.out (i := 1) rfl hg3 ho3 hloc HX.out
  have KT3 := Lib.hid (row_blk (KTA.out.alloc _) (HOWN.out.alloc _) (by decide) hg3)
  have KE3 := Lib.hid (row_blk (KEA.out.alloc _) (HOWN.out.alloc _) (by decide) hg3)
  have HSB : Hid (wB.cell? ⟨gb, 1, none⟩ = some (.slice A1 N cap1) ∧ wB.frozen? ⟨gb, 1, none⟩ = false ∧ wB.cell? ⟨gb, 4, none⟩ = some (.slice A3 (N + 1) cap3)) := Lib.hid ⟨hb3.cell 1, hb3.frozen 1, hb3.cell 4⟩
  have HM3 := Lib.hid hM3
  have HF3 := Lib.hid (fun L hL => hF3 rowTs L hL (show (78 : Nat) ∈ rowTs by decide))
  clear hb3 hM3 hF3 hloc hg3 ho3
  refine hK.out _ _ HSB.out ?_
  clear hK K
  try simp only [Act.put, List.setIfInBounds_toArray, List.set_cons_zero, List.set_cons_succ]
  refine wpU_one 14 (by kernel_rfl) rfl (fun K hK => ?_)
  go_simp
  refine hK.out _ _ HSB.out ?_
  clear hK K
  try simp only [Act.put, List.setIfInBounds_toArray, List.set_cons_zero, List.set_cons_succ]
  refine wpU_take 15 46 (v := ?v15b) rfl rfl (by kernel_rfl) (by kernel_rfl) (by kernel_rfl) (by kernel_rfl) (fun _ _ _ h => h) HSB.out (Or.inl ⟨by rfl, ?y15b⟩) ?r15b
  case y15b => (intro W _; go_simp; try with_reducible rfl)
  try simp only [Act.put, List.setIfInBounds_toArray, List.set_cons_zero, List.set_cons_succ]
  refine wpU_last (by kernel_rfl) rfl (by kernel_rfl) (fun K hK => ?_)
  have x1 := HSB.out.1
  have x2 := HSB.out.2.1
  go_simp
  refine hK.out _ _ ?_
  clear hK K
  have HMB := Lib.hid HM3.out
  have HMAPB := Lib.hid (Fr.mapIs (HF3.out [gb] (by simp)) HMAPA.out (by simp; omega) hmb2)
  have HFB := Lib.hid (HFA.out.trans (HF3.out _ (by simp)))
  have KTB := Lib.hid (KT3.out.far (p := ⟨gb, 1, none⟩) (by show w.heap.size + 1 ≠ gb; omega) (.slice AB (N + 1) capB))
  have KEB := Lib.hid (KE3.out.far (p := ⟨gb, 1, none⟩) (by show w.heap.size ≠ gb; omega) (.slice AB (N + 1) capB))
  clear HMA HM3 HMAPA HFA KTA KT3 KEA KE3 HS HSA HSB HOWN HX HTOP HF3
  cases o with
  | true =>
    have ce : (wB.setCell ⟨gb, 1, none⟩ (.slice AB (N + 1) capB)).cell? ⟨w.heap.size, 4, none⟩ = some (.bool true) := KEB.out.cell 4
    have co : (wB.setCell ⟨gb, 1, none⟩ (.slice AB (N + 1) capB)).cell? ⟨gb, 6, none⟩ = some (.int .i64 (outs P)) := HMB.out.blk.cell 6
    have fo : (wB.setCell ⟨gb, 1, none⟩ (.slice AB (N + 1) capB)).frozen? ⟨gb, 6, none⟩ = false := HMB.out.blk.frozen 6
    generalize wB.setCell ⟨gb, 1, none⟩ (.slice AB (N + 1) capB) = w4 at *
    go_wp2
    go_ret
    refine ⟨by simp, ⟨v0, .slice AB (N + 1) capB, v2, .slice A5 M cap5, .slice A3 (N + 1) cap3, ?_, ?_, hmb2, hne⟩, HFB.out.but ((But.refl gb _).set _ _) (by simp)⟩
    · have := gm_tail HMB.out 1 (.int .i64 ((outs P : Int) + 1))
      rw [prI_snoc, castE_app, entsV_app, List.length_append, HN.out, scL_app, twV_app, outs_app]
      simpa [castE, entsV, twV, scL, outs, HN.out, HMN.out] using this
    · rw [jst_snoc]
      exact HMAPB.out.far (p := ⟨gb, 6, none⟩) (by show mb ≠ gb; omega) _
  | false =>
    have ce : (wB.setCell ⟨gb, 1, none⟩ (.slice AB (N + 1) capB)).cell? ⟨w.heap.size, 4, none⟩ = some (.bool false) := KEB.out.cell 4
    generalize wB.setCell ⟨gb, 1, none⟩ (.slice AB (N + 1) capB) = w4 at *
    go_wp2
    refine wp_region_still_tail 6 (by kernel_rfl) (by kernel_rfl) ?_
    simp only [List.take_succ_cons, List.take_zero, List.drop_succ_cons, List.drop_zero]
    have HMC := Lib.hid (gm_grow HMB.out (w1 := w4.drew) (Below.refl _ _).drew)
    have HMAPC := Lib.hid HMAPB.out.drew
    have HFC := Lib.hid HFB.out.drew
    have KTC := Lib.hid KTB.out.drew
    have KEC := Lib.hid KEB.out.drew
    clear HMB HMAPB HFB KTB KEB ce
    change wpStill _ _ w4.drew (fun a => wpList _ _ _ _ a w4.drew) _ _
    generalize w4.drew = w5 at *
    have m0 : w5.cell? ⟨gb, 5, none⟩ = some (.map (some mb)) := HMC.out.blk.cell 5
    have t0 : w5.cell? ⟨w.heap.size + 1, 0, none⟩ = some (.int .i32 n1) := KTC.out.cell 0
    have t1 : w5.cell? ⟨w.heap.size + 1, 1, none⟩ = some (.int .i32 n2) := KTC.out.cell 1
    have HD : Hid (DD [(n1 : Int), (n2 : Int)]) := Lib.hid ⟨rfl, fun x hx => by
      rcases List.mem_cons.1 hx with rfl | hx
      · exact WalkArith.wf_i32 (by omega)
      · simp at hx; subst hx; exact WalkArith.wf_i32 (by omega)⟩
    repeat still_step
    refine wpStill_nil ?_
    go_wp2_with (at_mapUpdate; refine wpList_mput rfl _ _ _ 49 rfl 69 21 tkv Try.underlying49 mb rfl HMAPC.out [(n1 : Int), (n2 : Int)] rfl HD.out ((at0 : Int) + n0) rfl ?_; intro w6 hm6 hb6)
    have HMD := Lib.hid (gm_grow (gm_but HMC.out hb6 (Ne.symm hne) hmb2) (w1 := w6.drew) (Below.refl _ _).drew)
    have HMAPD := Lib.hid hm6.drew
    have HFE := Lib.hid (HFC.out.but hb6 (by simp)).drew
    have KTD := Lib.hid (hb6.blk KTC.out (by omega)).drew
    clear HMC HMAPC HFC KTC KEC m0 t0 t1 hm6 hb6
    refine wp_region_U (fun u => u.cell? ⟨gb, 3, none⟩ = some (.slice A5 M cap5) ∧ u.frozen? ⟨gb, 3, none⟩ = false ∧ u.cell? ⟨w.heap.size + 1, 1, none⟩ = some (.int .i32 n2)) 12 (by kernel_rfl) ?_
    generalize w6.drew = w2 at *
    have HS : Hid (w2.cell? ⟨gb, 3, none⟩ = some (.slice A5 M cap5) ∧ w2.frozen? ⟨gb, 3, none⟩ = false ∧ w2.cell? ⟨w.heap.size + 1, 1, none⟩ = some (.int .i32 n2)) := Lib.hid ⟨HMD.out.blk.cell 3, HMD.out.blk.frozen 3, KTD.out.cell 1⟩
    have HSA : Hid ((w2.alloc (.cells #[.int .i32 n2, .int .i64 1] 78)).cell? ⟨gb, 3, none⟩ = some (.slice A5 M cap5) ∧ (w2.alloc (.cells #[.int .i32 n2, .int .i64 1] 78)).frozen? ⟨gb, 3, none⟩ = false ∧ (w2.alloc (.cells #[.int .i32 n2, .int .i64 1] 78)).cell? ⟨w.heap.size + 1, 1, none⟩ = some (.int .i32 n2)) := Lib.hid ⟨(HMD.out.blk.alloc _).cell 3, (HMD.out.blk.alloc _).frozen 3, (KTD.out.alloc _).cell 1⟩
    have HX : Hid (up ≤ w2.heap.size) := Lib.hid (by have := HFE.out.size; omega)
    have HOWN : Hid (w2.ownsRow base 78 2 (.slice A5 M cap5) M (entsV (castE (scL P)))) := Lib.hid (HMD.out.own 3 _ rfl)
    have HTOP : Hid (base ≤ (w2.alloc (.cells #[.int .i32 n2, .int .i64 1] 78)).heap.size) := Lib.hid (by have := HMD.out.top; simp; omega)
    refine wpU_take 0 63 (v := ?v0c) rfl rfl (by kernel_rfl) (by kernel_rfl) (by kernel_rfl) (by kernel_rfl) (fun _ _ _ h => h) HS.out (Or.inl ⟨by rfl, ?y0c⟩) ?r0c
    case y0c => (intro W _; go_simp; try with_reducible rfl)
    try simp only [Act.put, List.setIfInBounds_toArray, List.set_cons_zero, List.set_cons_succ]
    refine wpU_take 1 64 (v := ?v1c) rfl rfl (by kernel_rfl) (by kernel_rfl) (by kernel_rfl) (by kernel_rfl) (fun _ _ _ h => h) HS.out (Or.inl ⟨by rfl, ?y1c⟩) ?r1c
    case y1c => (intro W _; go_simp; try with_reducible rfl)
    try simp only [Act.put, List.setIfInBounds_toArray, List.set_cons_zero, List.set_cons_succ]
    refine wpU_take 2 65 (v := ?v2c) rfl rfl (by kernel_rfl) (by kernel_rfl) (by kernel_rfl) (by kernel_rfl) (fun _ _ _ h => h) HS.out (Or.inl ⟨by rfl, ?y2c⟩) ?r2c
    case y2c => (intro W _; go_simp; try with_reducible rfl)
    try simp only [Act.put, List.setIfInBounds_toArray, List.set_cons_zero, List.set_cons_succ]
    refine wpU_take 3 66 (v := ?v3c) rfl rfl (by kernel_rfl) (by kernel_rfl) (by kernel_rfl) (by kernel_rfl) (fun _ _ _ h => h) HS.out (Or.inl ⟨by rfl, ?y3c⟩) ?r3c
    case y3c => (intro W _; go_simp; try with_reducible rfl)
    try simp only [Act.put, List.setIfInBounds_toArray, List.set_cons_zero, List.set_cons_succ]
    refine wpU_take 4 67 (v := ?v4c) rfl rfl (by kernel_rfl) (by kernel_rfl) (by kernel_rfl) (by kernel_rfl) (fun _ _ _ h => h) HS.out (Or.inl ⟨by rfl, ?y4c⟩) ?r4c
    case y4c => (rintro W ⟨x1, x2, x3⟩; go_simp; try with_reducible rfl)
    try simp only [Act.put, List.setIfInBounds_toArray, List.set_cons_zero, List.set_cons_succ]
    refine wpU_take 5 68 (v := ?v5c) rfl rfl (by kernel_rfl) (by kernel_rfl) (by kernel_rfl) (by kernel_rfl) (fun _ _ _ h => h) HS.out (Or.inl ⟨by rfl, ?y5c⟩) ?r5c
    case y5c => (intro W _; go_simp; try with_reducible rfl)
    try simp only [Act.put, List.setIfInBounds_toArray, List.set_cons_zero, List.set_cons_succ]
    refine wpU_take 6 69 (v := ?v6c) rfl rfl (by kernel_rfl) (by kernel_rfl) (by kernel_rfl) (by kernel_rfl) (fun _ _ _ h => h) HS.out (Or.inl ⟨by rfl, ?y6c⟩) ?r6c
    case y6c => (rintro W ⟨x1, x2, x3⟩; go_simp; try with_reducible rfl)
    try simp only [Act.put, List.setIfInBounds_toArray, List.set_cons_zero, List.set_cons_succ]
    refine wpU_take 7 70 (v := ?v7c) rfl rfl (by kernel_rfl) (by kernel_rfl) (by kernel_rfl) (by kernel_rfl) (fun _ _ _ h => h) HS.out (Or.inl ⟨by rfl, ?y7c⟩) ?r7c
    case y7c => (intro W _; go_simp; try with_reducible rfl)
    try simp only [Act.put, List.setIfInBounds_toArray, List.set_cons_zero, List.set_cons_succ]
    refine wpU_one 8 (by kernel_rfl) rfl (fun K hK => ?_)
    refine wpA_if (by rfl) ?_
    refine wpO_lit 50 78 1 _ rfl zEnt 2 16 Try.underlying50 info_zEnt (by decide) (by decide) (by decide) [.agg #[.int .i32 n2, .int .i64 1]] (by simp [Act.eval]) (by simp [Value.cells]) rfl #[.int .i32 n2, .int .i64 1] (by simp [Value.cells]) ?_
    refine hK.out _ _ HSA.out ?_
    clear hK K
    try simp only [Act.put, List.setIfInBounds_toArray, List.set_cons_zero, List.set_cons_succ]
    refine wpU_one 9 (by kernel_rfl) rfl (fun K hK => ?_)
    refine wpA_if (by rfl) ?_
    refine wpO_append _ _ 50 rfl base 78 zEnt 2 16 Try.underlying50 info_zEnt rfl (by decide) _ M _ rfl (HOWN.out.alloc _) ⟨w2.heap.size, 0, none⟩ 1 1 [.int .i32 n2, .int .i64 1] rfl rfl (cells_new w2 _ _) (by simp [Value.oneCell']) (by simp only [maxLen]; omega) (by omega) HTOP.out ?_
    intro va wD ho3 hg3 hloc; obtain ⟨AD, capD, rfl, hq5, hq6⟩ := own_form' ho3
    obtain ⟨hb3, hM3, hF3⟩ := gm_app HMD.out (i := 3) rfl hg3 ho3 hloc HX.out
    have HSB : Hid (wD.cell? ⟨gb, 3, none⟩ = some (.slice A5 M cap5) ∧ wD.frozen? ⟨gb, 3, none⟩ = false ∧ wD.cell? ⟨w.heap.size + 1, 1, none⟩ = some (.int .i32 n2)) := Lib.hid ⟨hb3.cell 3, hb3.frozen 3, (row_blk (KTD.out.alloc _) (HOWN.out.alloc _) (by decide) hg3).cell 1⟩
    have HM3 := Lib.hid hM3
    have HF3 := Lib.hid (fun L hL => hF3 rowTs L hL (show (78 : Nat) ∈ rowTs by decide))
    clear hb3 hM3 hF3 hloc hg3 ho3
    refine hK.out _ _ HSB.out ?_
    clear hK K
    try simp only [Act.put, List.setIfInBounds_toArray, List.set_cons_zero, List.set_cons_succ]
    refine wpU_one 10 (by kernel_rfl) rfl (fun K hK => ?_)
    go_simp
    refine hK.out _ _ HSB.out ?_
    clear hK K
    try simp only [Act.put, List.setIfInBounds_toArray, List.set_cons_zero, List.set_cons_succ]
    refine wpU_take 11 74 (v := ?v11c) rfl rfl (by kernel_rfl) (by kernel_rfl) (by kernel_rfl) (by kernel_rfl) (fun _ _ _ h => h) HSB.out (Or.inl ⟨by rfl, ?y11c⟩) ?r11c
    case y11c => (intro W _; go_simp; try with_reducible rfl)
    try simp only [Act.put, List.setIfInBounds_toArray, List.set_cons_zero, List.set_cons_succ]
    refine wpU_last (by kernel_rfl) rfl (by kernel_rfl) (fun K hK => ?_)
    have x1 := HSB.out.1
    have x2 := HSB.out.2.1
    go_simp
    refine hK.out _ _ ?_
    clear hK K
    go_wp2
    go_ret
    refine ⟨by simp, ⟨v0, .slice AB (N + 1) capB, v2, .slice AD (M + 1) capD, .slice A3 (N + 1) cap3, ?_, ?_, hmb2, hne⟩, HFE.out.trans (HF3.out _ (by simp))⟩
    · have := HM3.out
      rw [prI_snoc, castE_app, entsV_app, List.length_append, HN.out, scL_app, twV_app, outs_app, castE_app, entsV_app, List.length_append, HMN.out]
      simpa [castE, entsV, twV, scL, outs, HN.out, HMN.out] using this
    · rw [jst_snoc]
      have := Fr.mapIs (HF3.out [gb] (by simp)) HMAPD.out (by simp; omega) hmb2
      simpa [jstep, key5] using this
end Go.Proofs.Ytmphfdnpnhlpjaa
