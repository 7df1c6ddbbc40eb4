/- The document's Build (layer 5): the walk. -/
import Derived.Test.YtmphfdnpnhlpjaaU5RB
namespace Go.Proofs.Ytmphfdnpnhlpjaa
open Go.ChangeShapes Go.WideShapes Go.ChangeAt Go.RowKit
set_option linter.unusedVariables false
set_option linter.unusedSimpArgs false

theorem take_more {α : Type} {l : List α} {k : Nat} {x : α} (h : l[k]? = some x) : l.take (k + 1) = l.take k ++ [x] := by
  rw [List.take_add_one, h]; rfl
theorem row_map {α : Type} {l : List α} {f : α → List Int} {k : Nat} {x : α} (h : l[k]? = some x) : (l.map f)[k]? = some (f x) := by rw [List.getElem?_map, h]; rfl

theorem row_at3 {W : World} {B : Nat} {A : Option Addr} {cap n i : Nat} {es : List Ent} {n0 n1 n2 li : Nat} {o : Bool} (h : RowsIs W B (.slice A n cap) (es.map row3)) (he : es[i]? = some ⟨n0, n1, n2, li, o⟩) :
    ∃ b bi ci, A = some ⟨b, 0, none⟩ ∧ 3 ≤ ci ∧ ci ≤ maxLen ∧ W.cell? ⟨b, i, none⟩ = some (.slice (some ⟨bi, 0, none⟩) 3 ci) ∧ W.cell? ⟨bi, 0, none⟩ = some (.int .i32 n0) ∧ W.cell? ⟨bi, 1, none⟩ = some (.int .i32 n1) ∧ W.cell? ⟨bi, 2, none⟩ = some (.int .i32 n2) := by
  obtain ⟨b, bi, ci, e1, hbb, hbi, hci, hcm, hc0, hcs⟩ := rowsIs_at h (row_map (f := row3) he)
  exact ⟨b, bi, ci, e1, hci, hcm, hc0, hcs 0 _ rfl, hcs 1 _ rfl, hcs 2 _ rfl⟩
theorem row_at4 {W : World} {B : Nat} {A : Option Addr} {cap n i : Nat} {es : List Ent} {n0 n1 n2 li : Nat} {o : Bool} (h : RowsIs W B (.slice A n cap) (es.map row4)) (he : es[i]? = some ⟨n0, n1, n2, li, o⟩) :
    ∃ b bi ci m : Nat, A = some ⟨b, 0, none⟩ ∧ m ≤ ci ∧ ci ≤ maxLen ∧ m = (bif o then 4 else 3) ∧ 3 ≤ m ∧ W.cell? ⟨b, i, none⟩ = some (.slice (some ⟨bi, 0, none⟩) m ci) ∧ W.cell? ⟨bi, 0, none⟩ = some (.int .i32 n0) ∧ W.cell? ⟨bi, 1, none⟩ = some (.int .i32 n1) ∧ W.cell? ⟨bi, 2, none⟩ = some (.int .i32 n2) := by
  obtain ⟨b, bi, ci, e1, hbb, hbi, hci, hcm, hc0, hcs⟩ := rowsIs_at h (row_map (f := row4) he)
  cases o
  · exact ⟨b, bi, ci, 3, e1, hci, hcm, rfl, by omega, hc0, hcs 0 _ rfl, hcs 1 _ rfl, hcs 2 _ rfl⟩
  · exact ⟨b, bi, ci, 4, e1, hci, hcm, rfl, by omega, hc0, hcs 0 _ rfl, hcs 1 _ rfl, hcs 2 _ rfl⟩
theorem row_at2 {W : World} {B : Nat} {A : Option Addr} {cap n i : Nat} {es : List Ent} {n0 n1 n2 li : Nat} {o : Bool} (h : RowsIs W B (.slice A n cap) (es.map row2)) (he : es[i]? = some ⟨n0, n1, n2, li, o⟩) :
    ∃ b bi ci, A = some ⟨b, 0, none⟩ ∧ 2 ≤ ci ∧ ci ≤ maxLen ∧ W.cell? ⟨b, i, none⟩ = some (.slice (some ⟨bi, 0, none⟩) 2 ci) ∧ W.cell? ⟨bi, 0, none⟩ = some (.int .i32 n0) ∧ W.cell? ⟨bi, 1, none⟩ = some (.int .i32 n1) := by
  obtain ⟨b, bi, ci, e1, hbb, hbi, hci, hcm, hc0, hcs⟩ := rowsIs_at h (row_map (f := row2) he)
  exact ⟨b, bi, ci, e1, hci, hcm, hc0, hcs 0 _ rfl, hcs 1 _ rfl⟩

set_option maxRecDepth 100000 in
set_option maxHeartbeats 8000000 in
theorem rbuild_any (w : World) (e1 e2 e3 : List Ent) (H1 : DTxt tOrthoepyref05Build1 e1 row3) (H2 : DTxt tOrthoepyref05Build2 e2 row4) (H3 : DTxt tOrthoepyref05Build3 e3 row2) (b1 : endC 0 e1 ≤ 100000000) (b2 : endP 0 e2 ≤ 100000000) (b3 : endP 0 e3 ≤ 100000000) :
    Calls Try.prog 8 #[] w (DPost w (castE (clsE 0 e1)) (pk5 (prE 0 e2)) (castE (sgE 0 e3)) (jL (prE 0 e2)) (castE (scL (prE 0 e2))) (outs (prE 0 e2))) := by
  have hmm := @run_makeMap Try.prog
  refine calls_of_wp Try.func8 bodyOrthoepyref05Build ?_
  simp only [Try.ntmps8, List.size_toArray, List.length_cons, List.length_nil, Nat.reduceAdd, Nat.reduceSub, Array.replicate_succ, Array.replicate_zero, List.push_toArray, List.append_toArray, List.nil_append, List.cons_append]
  unfold cOrthoepyref05Build
  generalize tOrthoepyref05Build1 = T1 at *
  generalize tOrthoepyref05Build2 = T2 at *
  generalize tOrthoepyref05Build3 = T3 at *
  go_wp2_with fail
  have HR1 := Lib.hid (rows_any T1 (dW w) H1.size H1.ok)
  rw [H1.rows] at HR1
  with_reducible refine HR1.out.mono ?_
  rintro e w1 ⟨v1, rfl, hRI, hb1⟩
  obtain ⟨A1, cap1, rfl, hcp1, hcm1⟩ := rowsIs_form hRI
  have HB0 : Below w.heap.size w (dW w) := ((((((Below.refl _ w).alloc (Nat.le_refl _) _).alloc (by simp) _).alloc (by simp; omega) _).alloc (by simp; omega) _).alloc (by simp; omega) _).alloc (by simp; omega) _
  have HS1 : Hid (DSt w w1.heap.size (.slice A1 (e1.map row3).length cap1) (e1.map row3) [] [] [] [] [] 0 w1) := Lib.hid ⟨(dat_start w).grow hb1, hRI, Nat.le_refl _, HB0.trans (hb1.mono HB0.size)⟩
  have HSM1 := Lib.hid H1.small
  have hl1 := H1.len
  clear hRI hb1 HB0 HR1 H1
  rw [List.length_map] at HS1 ⊢
  have HB1 := Lib.hid b1
  clear b1
  generalize w1.heap.size = Bz at HS1
  go_wp2_with fail
  go_loopw [2, 4, 5] (fun at_ i _ wr => ∃ k : Nat, k ≤ e1.length ∧ i = .int .i64 k ∧ at_ = .int .i32 (endC 0 (e1.take k) : Nat) ∧ DSt w Bz (.slice A1 e1.length cap1) (e1.map row3) (castE (clsE 0 (e1.take k))) [] [] [] [] 0 wr) (fun _ i _ _ => e1.length - (intOf i).toNat)
  case atStart => exact ⟨0, by omega, rfl, rfl, HS1.out⟩
  case round =>
    obtain ⟨k, hk, rfl, rfl, hS⟩ := hrel
    by_cases hlt : k < e1.length
    · have HS := Lib.hid hS
      clear hS
      obtain ⟨⟨n0, n1, n2, li, o⟩, he⟩ : ∃ e, e1[k]? = some e := ⟨_, List.getElem?_eq_getElem hlt⟩
      have HT := Lib.hid (take_more he)
      have hmem := List.mem_of_getElem? he
      obtain ⟨hs1, hs2⟩ := HSM1.out _ hmem
      have hpre : endC 0 (e1.take k ++ [⟨n0, n1, n2, li, o⟩]) ≤ 100000000 := Nat.le_trans (endC_pre (by rw [← HT.out]; exact List.take_prefix _ _) 0) HB1.out
      rw [endC_snoc] at hpre
      dsimp only at hs1 hs2 hpre
      obtain ⟨b, bi, ci, rfl, hci, hcm, hc0, c0, c1, c2⟩ := row_at3 HS.out.rows he
      clear hmem
      have HE := Lib.hid he
      clear he
      generalize hA : endC 0 (e1.take k) = a0 at *
      have HA := Lib.hid hA
      clear hA
      go_wp2_with fail
      go_loopw [2, 5] (fun at_ j wr => ∃ m : Nat, m ≤ n1 ∧ j = .int .i32 m ∧ at_ = .int .i32 ((a0 : Int) + n0 + m) ∧ DSt w Bz (.slice (some ⟨b, 0, none⟩) e1.length cap1) (e1.map row3) (castE (clsE 0 (e1.take k) ++ run5 (a0 + n0) m n2)) [] [] [] [] 0 wr) (fun _ j _ => n1 - (intOf j).toNat)
      case atStart => exact ⟨0, by omega, rfl, by go_num, by simpa [run5] using HS.out⟩
      case round =>
        obtain ⟨m, hm, rfl, rfl, hS2⟩ := hrel
        have HS2 := Lib.hid hS2
        clear hS2 HS hc0 c0 c1 c2 hci hcm
        obtain ⟨b', bi, ci, hb', hci, hcm, hc0, c0, c1, c2⟩ := row_at3 HS2.out.rows HE.out
        injection hb' with hb'; injection hb' with hb'; subst hb'
        by_cases hml : m < n1
        · go_wp2_with fail
          refine wp_region_still_tail 12 (by kernel_rfl) (by kernel_rfl) ?_
          simp only [List.take_succ_cons, List.take_zero, List.drop_succ_cons, List.drop_zero]
          have HS3 := Lib.hid HS2.out.drew
          have hc0 : wr.drew.cell? ⟨b, k, none⟩ = some (.slice (some ⟨bi, 0, none⟩) 3 ci) := hc0
          have c2 : wr.drew.cell? ⟨bi, 2, none⟩ = some (.int .i32 n2) := c2
          change wpStill _ _ wr.drew (fun a => wpList _ _ _ _ a wr.drew) _ _
          clear HS2 c0 c1
          generalize wr.drew = w5 at *
          have t0 : w5.cell? ⟨w.heap.size + 1 + 1 + 1 + 1 + 1, 0, none⟩ = some (.map (some w.heap.size)) := HS3.out.tb.blk.cell 0
          have HD : Hid (D32 ((a0 : Int) + n0 + m)) := Lib.hid (WalkArith.wf_i32 (by omega))
          repeat still_step
          refine wpStill_nil ?_
          obtain ⟨w6, hrun, hm6, hb6⟩ := MapIs.store (t := 32) HS3.out.tb.c kvI Try.underlying32 ((a0 : Int) + n0 + m) HD.out (n2 : Int)
          have HS4 := Lib.hid (HS3.out.putC hm6 hb6)
          clear hm6 hb6 HS3 hc0 c2 t0
          go_wp2_with fail
          rw [hrun]
          go_wp2
          go_roundw
          case rel => exact ⟨m + 1, by omega, by go_num, by go_num, by
            have := HS4.out
            rw [run5_snoc, ← List.append_assoc, castE_app]
            simpa [castE] using this⟩
          case measure => simp [intOf]; omega
        · have hmm1 : m = n1 := by omega
          subst hmm1
          clear hml
          have HS5 := Lib.hid HS2.out
          clear HS2 c2
          go_wp2
          go_roundw
          case rel => exact ⟨k + 1, by omega, by go_num, by rw [HT.out, endC_snoc, HA.out]; go_num, by rw [HT.out, clsE_snoc, HA.out]; exact HS5.out⟩
          case measure => simp [intOf]; omega
    · have hkk : k = e1.length := by omega
      subst hkk
      have HS6 := Lib.hid hS
      rw [List.take_length] at HS6
      clear hS hlt hk HS1 HSM1 HB1
      go_wp2_with fail
      have HR2 := Lib.hid (rows_any T2 wr H2.size H2.ok)
      rw [H2.rows] at HR2
      with_reducible refine HR2.out.mono ?_
      rintro e w2 ⟨v2, rfl, hRI, hb2⟩
      obtain ⟨A2, cap2, rfl, hcp2, hcm2⟩ := rowsIs_form hRI
      have hq := HS6.out.grow hb2
      have HQ1 : Hid (DSt w w2.heap.size (.slice A2 (e2.map row4).length cap2) (e2.map row4) (castE (clsE 0 e1)) [] [] [] [] 0 w2) := Lib.hid ⟨hq.tb, hRI, Nat.le_refl _, hq.be⟩
      have HSM2 := Lib.hid H2.small
      have hl2 := H2.len
      clear hRI hb2 hq HS6 HR2 H2 hcp1 hcm1 hl1
      rw [List.length_map] at HQ1 ⊢
      have HB2 := Lib.hid b2
      clear b2
      generalize w2.heap.size = Bz2 at HQ1
      generalize castE (clsE 0 e1) = CC at *
      go_wp2_with fail
      go_loopw [2, 6, 7] (fun at_ i _ wr => ∃ k : Nat, k ≤ e2.length ∧ i = .int .i64 k ∧ at_ = .int .i32 (endP 0 (e2.take k) : Nat) ∧ DSt w Bz2 (.slice A2 e2.length cap2) (e2.map row4) CC (pk5 (prE 0 (e2.take k))) [] (jL (prE 0 (e2.take k))) (castE (scL (prE 0 (e2.take k)))) (outs (prE 0 (e2.take k))) wr) (fun _ i _ _ => e2.length - (intOf i).toNat)
      case atStart => exact ⟨0, by omega, rfl, rfl, HQ1.out⟩
      case round =>
        obtain ⟨k, hk, rfl, rfl, hS⟩ := hrel
        by_cases hlt : k < e2.length
        · have HS := Lib.hid hS
          clear hS
          obtain ⟨⟨n0, n1, n2, li, o⟩, he⟩ : ∃ e, e2[k]? = some e := ⟨_, List.getElem?_eq_getElem hlt⟩
          have HT := Lib.hid (take_more he)
          have hmem := List.mem_of_getElem? he
          obtain ⟨hs1, hs2⟩ := HSM2.out _ hmem
          have hpre : endP 0 (e2.take k ++ [⟨n0, n1, n2, li, o⟩]) ≤ 100000000 := Nat.le_trans (endP_pre (by rw [← HT.out]; exact List.take_prefix _ _) 0) HB2.out
          rw [endP_snoc] at hpre
          dsimp only at hs1 hs2 hpre
          obtain ⟨b, bi, ci, mm, rfl, hci, hcm, hmo, hm3, hc0, c0, c1, c2⟩ := row_at4 HS.out.rows he
          have HE := Lib.hid he
          clear he hmem
          generalize hA : endP 0 (e2.take k) = a0 at *
          have HA := Lib.hid hA
          clear hA
          have HMO := Lib.hid hmo
          clear hmo
          have hmA : (0 : Int) < mm := by omega
          have hmB : (1 : Int) < mm := by omega
          have hmC : (2 : Int) < mm := by omega
          go_wp2_with fail
          refine wp_region_U (fun u => u.cell? ⟨b, k, none⟩ = some (.slice (some ⟨bi, 0, none⟩) mm ci) ∧ u.cell? ⟨bi, 1, none⟩ = some (.int .i32 n1) ∧ u.cell? ⟨bi, 2, none⟩ = some (.int .i32 n2)) 14 (by kernel_rfl) ?_
          have HSU : Hid (wr.drew.cell? ⟨b, k, none⟩ = some (.slice (some ⟨bi, 0, none⟩) mm ci) ∧ wr.drew.cell? ⟨bi, 1, none⟩ = some (.int .i32 n1) ∧ wr.drew.cell? ⟨bi, 2, none⟩ = some (.int .i32 n2)) := Lib.hid ⟨hc0, c1, c2⟩
          have HSD := Lib.hid HS.out.drew
          have HTBX : Hid (w.heap.size + 5 < wr.drew.heap.size) := Lib.hid HSD.out.tb.lt
          clear hc0 c0 c1 c2 HS
          generalize wr.drew = w3 at *
          refine wpU_take 0 70 (v := ?v0a) rfl rfl (by kernel_rfl) (by kernel_rfl) (by kernel_rfl) (by kernel_rfl) (fun _ _ _ h => h) HSU.out (Or.inl ⟨by rfl, ?y0a⟩) ?r0a
          case y0a => (intro W _; go_simp; try with_reducible rfl)
          try simp only [Act.put, List.setIfInBounds_toArray, List.set_cons_zero, List.set_cons_succ]
          refine wpU_take 1 71 (v := ?v1a) rfl rfl (by kernel_rfl) (by kernel_rfl) (by kernel_rfl) (by kernel_rfl) (fun _ _ _ h => h) HSU.out (Or.inl ⟨by rfl, ?y1a⟩) ?r1a
          case y1a => (intro W _; go_simp; try with_reducible rfl)
          try simp only [Act.put, List.setIfInBounds_toArray, List.set_cons_zero, List.set_cons_succ]
          refine wpU_take 2 72 (v := ?v2a) rfl rfl (by kernel_rfl) (by kernel_rfl) (by kernel_rfl) (by kernel_rfl) (fun _ _ _ h => h) HSU.out (Or.inl ⟨by rfl, ?y2a⟩) ?r2a
          case y2a => (intro W _; go_simp; try with_reducible rfl)
          try simp only [Act.put, List.setIfInBounds_toArray, List.set_cons_zero, List.set_cons_succ]
          refine wpU_take 3 73 (v := ?v3a) rfl rfl (by kernel_rfl) (by kernel_rfl) (by kernel_rfl) (by kernel_rfl) (fun _ _ _ h => h) HSU.out (Or.inl ⟨by rfl, ?y3a⟩) ?r3a
          case y3a => (rintro W ⟨x1, x2, x3⟩; go_simp; try with_reducible rfl)
          try simp only [Act.put, List.setIfInBounds_toArray, List.set_cons_zero, List.set_cons_succ]
          refine wpU_take 4 74 (v := ?v4a) rfl rfl (by kernel_rfl) (by kernel_rfl) (by kernel_rfl) (by kernel_rfl) (fun _ _ _ h => h) HSU.out (Or.inl ⟨by rfl, ?y4a⟩) ?r4a
          case y4a => (intro W _; go_simp; try with_reducible rfl)
          try simp only [Act.put, List.setIfInBounds_toArray, List.set_cons_zero, List.set_cons_succ]
          refine wpU_take 5 75 (v := ?v5a) rfl rfl (by kernel_rfl) (by kernel_rfl) (by kernel_rfl) (by kernel_rfl) (fun _ _ _ h => h) HSU.out (Or.inl ⟨by rfl, ?y5a⟩) ?r5a
          case y5a => (rintro W ⟨x1, x2, x3⟩; go_simp; try with_reducible rfl)
          try simp only [Act.put, List.setIfInBounds_toArray, List.set_cons_zero, List.set_cons_succ]
          refine wpU_take 6 76 (v := ?v6a) rfl rfl (by kernel_rfl) (by kernel_rfl) (by kernel_rfl) (by kernel_rfl) (fun _ _ _ h => h) HSU.out (Or.inl ⟨by rfl, ?y6a⟩) ?r6a
          case y6a => (intro W _; go_simp; try with_reducible rfl)
          try simp only [Act.put, List.setIfInBounds_toArray, List.set_cons_zero, List.set_cons_succ]
          refine wpU_take 7 77 (v := ?v7a) rfl rfl (by kernel_rfl) (by kernel_rfl) (by kernel_rfl) (by kernel_rfl) (fun _ _ _ h => h) HSU.out (Or.inl ⟨by rfl, ?y7a⟩) ?r7a
          case y7a => (intro W _; go_simp; try with_reducible rfl)
          try simp only [Act.put, List.setIfInBounds_toArray, List.set_cons_zero, List.set_cons_succ]
          refine wpU_take 8 78 (v := ?v8a) rfl rfl (by kernel_rfl) (by kernel_rfl) (by kernel_rfl) (by kernel_rfl) (fun _ _ _ h => h) HSU.out (Or.inl ⟨by rfl, ?y8a⟩) ?r8a
          case y8a => (intro W _; go_simp; try with_reducible rfl)
          try simp only [Act.put, List.setIfInBounds_toArray, List.set_cons_zero, List.set_cons_succ]
          refine wpU_take 9 79 (v := ?v9a) rfl rfl (by kernel_rfl) (by kernel_rfl) (by kernel_rfl) (by kernel_rfl) (fun _ _ _ h => h) HSU.out (Or.inl ⟨by rfl, ?y9a⟩) ?r9a
          case y9a => (rintro W ⟨x1, x2, x3⟩; go_simp; try with_reducible rfl)
          try simp only [Act.put, List.setIfInBounds_toArray, List.set_cons_zero, List.set_cons_succ]
          refine wpU_take 10 80 (v := ?v10a) rfl rfl (by kernel_rfl) (by kernel_rfl) (by kernel_rfl) (by kernel_rfl) (fun _ _ _ h => h) HSU.out (Or.inl ⟨by rfl, ?y10a⟩) ?r10a
          case y10a => (intro W _; go_simp; try with_reducible rfl)
          try simp only [Act.put, List.setIfInBounds_toArray, List.set_cons_zero, List.set_cons_succ]
          refine wpU_take 11 81 (v := ?v11a) rfl rfl (by kernel_rfl) (by kernel_rfl) (by kernel_rfl) (by kernel_rfl) (fun _ _ _ h => h) HSU.out (Or.inl ⟨by rfl, ?y11a⟩) ?r11a
          case y11a => (rintro W ⟨x1, x2, x3⟩; go_simp; try with_reducible rfl)
          try simp only [Act.put, List.setIfInBounds_toArray, List.set_cons_zero, List.set_cons_succ]
          refine wpU_take 12 82 (v := ?v12a) rfl rfl (by kernel_rfl) (by kernel_rfl) (by kernel_rfl) (by kernel_rfl) (fun _ _ _ h => h) HSU.out (Or.inl ⟨by rfl, ?y12a⟩) ?r12a
          case y12a => (intro W _; go_simp; try with_reducible rfl)
          try simp only [Act.put, List.setIfInBounds_toArray, List.set_cons_zero, List.set_cons_succ]
          have HSA : Hid ((w3.alloc (.cells #[.int .i32 0, .int .i32 0] 30)).cell? ⟨b, k, none⟩ = some (.slice (some ⟨bi, 0, none⟩) mm ci) ∧ (w3.alloc (.cells #[.int .i32 0, .int .i32 0] 30)).cell? ⟨bi, 1, none⟩ = some (.int .i32 n1) ∧ (w3.alloc (.cells #[.int .i32 0, .int .i32 0] 30)).cell? ⟨bi, 2, none⟩ = some (.int .i32 n2)) := Lib.hid ⟨(Below.cell ((Below.refl _ w3).alloc (Nat.le_refl _) _) (p := ⟨b, k, none⟩) (cell_lt HSU.out.1)).trans HSU.out.1, (Below.cell ((Below.refl _ w3).alloc (Nat.le_refl _) _) (p := ⟨bi, 1, none⟩) (cell_lt HSU.out.2.1)).trans HSU.out.2.1, (Below.cell ((Below.refl _ w3).alloc (Nat.le_refl _) _) (p := ⟨bi, 2, none⟩) (cell_lt HSU.out.2.2)).trans HSU.out.2.2⟩
          refine wpU_one 13 (by kernel_rfl) rfl (fun K hK => ?_)
          go_simp
          refine hK.out _ _ HSA.out ?_
          clear hK K
          try simp only [Act.put, List.setIfInBounds_toArray, List.set_cons_zero, List.set_cons_succ]
          have KZ := Blk.new w3 30 #[.int .i32 0, .int .i32 0]
          have z0 : (w3.alloc (.cells #[.int .i32 0, .int .i32 0] 30)).cell? ⟨w3.heap.size, 0, none⟩ = some (.int .i32 0) := KZ.cell 0
          have z1 : (w3.alloc (.cells #[.int .i32 0, .int .i32 0] 30)).cell? ⟨w3.heap.size, 1, none⟩ = some (.int .i32 0) := KZ.cell 1
          have z2 : (w3.alloc (.cells #[.int .i32 0, .int .i32 0] 30)).frozen? ⟨w3.heap.size, 0, none⟩ = false := KZ.frozen 0
          have z3 : (w3.alloc (.cells #[.int .i32 0, .int .i32 0] 30)).frozen? ⟨w3.heap.size, 1, none⟩ = false := KZ.frozen 1
          refine wpU_last (by kernel_rfl) rfl (by kernel_rfl) (fun K hK => ?_)
          go_simp
          refine hK.out _ _ ?_
          clear hK K z0 z1 z2 z3 HSA
          have KT : Hid (Blk (w3.alloc (.cells #[.int .i32 n1, .int .i32 n2] 30)) w3.heap.size 30 #[.int .i32 n1, .int .i32 n2]) := Lib.hid (Blk.new w3 _ _)
          have HS4 := Lib.hid (HSD.out.grow ((Below.refl _ w3).alloc (Nat.le_refl _) (.cells #[.int .i32 n1, .int .i32 n2] 30)))
          clear KZ HSU HSD
          have HTB : Hid (w.heap.size + 5 < w3.heap.size) := Lib.hid HTBX.out
          generalize w3.alloc (.cells #[.int .i32 n1, .int .i32 n2] 30) = w4 at *
          generalize w3.heap.size = tw at *
          go_wp2_with fail
          refine wp_region_still_tail 6 (by kernel_rfl) (by kernel_rfl) ?_
          simp only [List.take_succ_cons, List.take_zero, List.drop_succ_cons, List.drop_zero]
          change wpStill _ _ w4.drew (fun a => wpList _ _ _ _ a w4.drew) _ _
          have HS5 := Lib.hid HS4.out.drew
          have KT5 := Lib.hid KT.out.drew
          clear HS4 KT
          generalize w4.drew = w5 at *
          have t1 : w5.cell? ⟨w.heap.size + 1 + 1 + 1 + 1 + 1, 1, none⟩ = some (.map (some (w.heap.size + 1))) := HS5.out.tb.blk.cell 1
          have y0 : w5.cell? ⟨tw, 0, none⟩ = some (.int .i32 n1) := KT5.out.cell 0
          have y1 : w5.cell? ⟨tw, 1, none⟩ = some (.int .i32 n2) := KT5.out.cell 1
          have HD : Hid (D32 ((a0 : Int) + n0)) := Lib.hid (WalkArith.wf_i32 (by omega))
          repeat still_step
          refine wpStill_nil ?_
          obtain ⟨w6, hrun, hm6, hb6⟩ := MapIs.store (t := 33) HS5.out.tb.k kvI Try.underlying33 ((a0 : Int) + n0) HD.out [(n1 : Int), (n2 : Int)]
          have hrun : (Instr.mapUpdate 33 (.map (some (w.heap.size + 1))) (.int .i32 ((a0 : Int) + n0)) (.agg #[.int .i32 n1, .int .i32 n2])).run Try.prog w5 = .ok () w6 := hrun
          have HS6 := Lib.hid (HS5.out.putK hm6 hb6)
          have KT6 := Lib.hid (hb6.blk KT5.out (by have := HTB.out; omega))
          clear hm6 hb6 HS5 KT5 t1 y0 y1
          obtain ⟨b', bi, ci, mm', hb', hci, hcm, hmo', hm3', hc0, c0, c1, c2⟩ := row_at4 HS6.out.rows HE.out
          injection hb' with hb'; injection hb' with hb'; subst hb'
          obtain rfl : mm' = mm := by rw [hmo', HMO.out]
          have q0 : w6.cell? ⟨w.heap.size + 1 + 1 + 1 + 1 + 1, 3, none⟩ = some (.map (some (w.heap.size + 1 + 1 + 1))) := HS6.out.tb.blk.cell 3
          cases o with
          | true =>
            obtain rfl : mm' = 4 := hmo'
            have hO := outs_len (prE 0 (e2.take k))
            have hPL : (prE 0 (e2.take k)).length ≤ 100000000 := by rw [prE_len]; simp; omega
            have l0 : w6.cell? ⟨w.heap.size + 1 + 1 + 1 + 1 + 1, 5, none⟩ = some (.int .i64 (outs (prE 0 (e2.take k)) : Nat)) := HS6.out.tb.blk.cell 5
            have l1 : w6.frozen? ⟨w.heap.size + 1 + 1 + 1 + 1 + 1, 5, none⟩ = false := HS6.out.tb.blk.frozen 5
            generalize hou : outs (prE 0 (e2.take k)) = ou at *
            have HOU := Lib.hid hou
            clear hou
            go_wp2
            go_roundw
            case rel => exact ⟨k + 1, by omega, by go_num, by rw [HT.out, endP_snoc, HA.out]; go_num, by
              have := HS6.out.putL ((ou : Int) + 1)
              rw [HT.out, prE_snoc, HA.out, pk5_snoc, jL_snoc, scL_app, outs_app, HOU.out]
              simpa [scL, outs, castE, key5] using this⟩
            case measure => simp [intOf]; omega
          | false =>
            obtain rfl : mm' = 3 := hmo'
            go_wp2_with fail
            refine wp_region_still_tail 6 (by kernel_rfl) (by kernel_rfl) ?_
            simp only [List.take_succ_cons, List.take_zero, List.drop_succ_cons, List.drop_zero]
            change wpStill _ _ w6.drew (fun a => wpList _ _ _ _ a w6.drew) _ _
            have HS7 := Lib.hid HS6.out.drew
            have KT7 := Lib.hid KT6.out.drew
            clear HS6 KT6 hc0 c0 c1 c2 q0
            generalize w6.drew = w7 at *
            have t3 : w7.cell? ⟨w.heap.size + 1 + 1 + 1 + 1 + 1, 3, none⟩ = some (.map (some (w.heap.size + 1 + 1 + 1))) := HS7.out.tb.blk.cell 3
            have y0 : w7.cell? ⟨tw, 0, none⟩ = some (.int .i32 n1) := KT7.out.cell 0
            have y1 : w7.cell? ⟨tw, 1, none⟩ = some (.int .i32 n2) := KT7.out.cell 1
            have HD2 : Hid (DD2 [(n1 : Int), (n2 : Int)]) := Lib.hid ⟨rfl, fun x hx => by
              rcases List.mem_cons.1 hx with rfl | hx
              · exact WalkArith.wf_i32 (by omega)
              · simp at hx; subst hx; exact WalkArith.wf_i32 (by omega)⟩
            repeat still_step
            refine wpStill_nil ?_
            obtain ⟨w8, hrun, hm8, hb8⟩ := MapIs.store (t := 35) HS7.out.tb.j kv2 Try.underlying35 [(n1 : Int), (n2 : Int)] HD2.out ((a0 : Int) + n0)
            have hrun : (Instr.mapUpdate 35 (.map (some (w.heap.size + 1 + 1 + 1))) (.agg #[.int .i32 n1, .int .i32 n2]) (.int .i32 ((a0 : Int) + n0))).run Try.prog w7 = .ok () w8 := hrun
            have HS8 := Lib.hid (HS7.out.putJ hm8 hb8)
            have KT8 := Lib.hid (hb8.blk KT7.out (by have := HTB.out; omega))
            clear hm8 hb8 HS7 KT7 t3 y0 y1
            go_wp2_with fail
            refine wp_region_still_tail 6 (by kernel_rfl) (by kernel_rfl) ?_
            simp only [List.take_succ_cons, List.take_zero, List.drop_succ_cons, List.drop_zero]
            change wpStill _ _ w8.drew (fun a => wpList _ _ _ _ a w8.drew) _ _
            have HS9 := Lib.hid HS8.out.drew
            have KT9 := Lib.hid KT8.out.drew
            clear HS8 KT8
            generalize w8.drew = w9 at *
            have t4 : w9.cell? ⟨w.heap.size + 1 + 1 + 1 + 1 + 1, 4, none⟩ = some (.map (some (w.heap.size + 1 + 1 + 1 + 1))) := HS9.out.tb.blk.cell 4
            have y1 : w9.cell? ⟨tw, 1, none⟩ = some (.int .i32 n2) := KT9.out.cell 1
            have HD3 : Hid (D32 (n2 : Int)) := Lib.hid (WalkArith.wf_i32 (by omega))
            repeat still_step
            refine wpStill_nil ?_
            obtain ⟨wa, hrun, hma, hba⟩ := MapIs.store (t := 32) HS9.out.tb.q kvI Try.underlying32 (n2 : Int) HD3.out (1 : Int)
            have hrun : (Instr.mapUpdate 32 (.map (some (w.heap.size + 1 + 1 + 1 + 1))) (.int .i32 n2) (.int .i64 1)).run Try.prog w9 = .ok () wa := hrun
            have HSB := Lib.hid (HS9.out.putQ hma hba)
            clear hma hba HS9 KT9 t4 y1
            go_wp2
            go_roundw
            case rel => exact ⟨k + 1, by omega, by go_num, by rw [HT.out, endP_snoc, HA.out]; go_num, by
              have := HSB.out
              rw [HT.out, prE_snoc, HA.out, pk5_snoc, jL_snoc, scL_app, outs_app, castE_app]
              simpa [scL, outs, castE, key5] using this⟩
            case measure => simp [intOf]; omega
        · have hkk : k = e2.length := by omega
          subst hkk
          have HS6 := Lib.hid hS
          rw [List.take_length] at HS6
          clear hS hlt hk HQ1 HSM2 HB2
          go_wp2_with fail
          have HR3 := Lib.hid (rows_any T3 wr H3.size H3.ok)
          rw [H3.rows] at HR3
          with_reducible refine HR3.out.mono ?_
          rintro e w3 ⟨v3, rfl, hRI, hb3⟩
          obtain ⟨A3, cap3, rfl, hcp3, hcm3⟩ := rowsIs_form hRI
          have hq := HS6.out.grow hb3
          generalize pk5 (prE 0 e2) = KK at *
          generalize jL (prE 0 e2) = JJ at *
          generalize castE (scL (prE 0 e2)) = QQ at *
          generalize outs (prE 0 e2) = LL at *
          have HQ1 : Hid (DSt w w3.heap.size (.slice A3 (e3.map row2).length cap3) (e3.map row2) CC KK [] JJ QQ LL w3) := Lib.hid ⟨hq.tb, hRI, Nat.le_refl _, hq.be⟩
          have HSM3 := Lib.hid H3.small
          have hl3 := H3.len
          clear hRI hb3 hq HS6 HR3 H3 hcp2 hcm2 hl2
          rw [List.length_map] at HQ1 ⊢
          have HB3 := Lib.hid b3
          clear b3
          generalize w3.heap.size = Bz3 at HQ1
          go_wp2_with fail
          go_loopw [2, 8] (fun at_ i wr => ∃ k : Nat, k ≤ e3.length ∧ i = .int .i64 k ∧ at_ = .int .i32 (endP 0 (e3.take k) : Nat) ∧ DSt w Bz3 (.slice A3 e3.length cap3) (e3.map row2) CC KK (castE (sgE 0 (e3.take k))) JJ QQ LL wr) (fun _ i _ => e3.length - (intOf i).toNat)
          case atStart => exact ⟨0, by omega, rfl, rfl, HQ1.out⟩
          case round =>
            obtain ⟨k, hk, rfl, rfl, hS⟩ := hrel
            by_cases hlt : k < e3.length
            · have HS := Lib.hid hS
              clear hS
              obtain ⟨⟨n0, n1, n2, li, o⟩, he⟩ : ∃ e, e3[k]? = some e := ⟨_, List.getElem?_eq_getElem hlt⟩
              have HT := Lib.hid (take_more he)
              have hmem := List.mem_of_getElem? he
              obtain ⟨hs1, hs2⟩ := HSM3.out _ hmem
              have hpre : endP 0 (e3.take k ++ [⟨n0, n1, n2, li, o⟩]) ≤ 100000000 := Nat.le_trans (endP_pre (by rw [← HT.out]; exact List.take_prefix _ _) 0) HB3.out
              rw [endP_snoc] at hpre
              dsimp only at hs1 hs2 hpre
              obtain ⟨b, bi, ci, rfl, hci, hcm, hc0, c0, c1⟩ := row_at2 HS.out.rows he
              clear he hmem
              generalize hA : endP 0 (e3.take k) = a0 at *
              have HA := Lib.hid hA
              clear hA
              go_wp2_with fail
              refine wp_region_still_tail 11 (by kernel_rfl) (by kernel_rfl) ?_
              simp only [List.take_succ_cons, List.take_zero, List.drop_succ_cons, List.drop_zero]
              change wpStill _ _ wr.drew (fun a => wpList _ _ _ _ a wr.drew) _ _
              have HS5 := Lib.hid HS.out.drew
              have hc0 : wr.drew.cell? ⟨b, k, none⟩ = some (.slice (some ⟨bi, 0, none⟩) 2 ci) := hc0
              have c1 : wr.drew.cell? ⟨bi, 1, none⟩ = some (.int .i32 n1) := c1
              clear HS c0
              generalize wr.drew = w5 at *
              have t2 : w5.cell? ⟨w.heap.size + 1 + 1 + 1 + 1 + 1, 2, none⟩ = some (.map (some (w.heap.size + 1 + 1))) := HS5.out.tb.blk.cell 2
              have HD : Hid (D32 ((a0 : Int) + n0)) := Lib.hid (WalkArith.wf_i32 (by omega))
              repeat still_step
              refine wpStill_nil ?_
              obtain ⟨w6, hrun, hm6, hb6⟩ := MapIs.store (t := 34) HS5.out.tb.s kvI Try.underlying34 ((a0 : Int) + n0) HD.out (n1 : Int)
              have hrun : (Instr.mapUpdate 34 (.map (some (w.heap.size + 1 + 1))) (.int .i32 ((a0 : Int) + n0)) (.int .i32 n1)).run Try.prog w5 = .ok () w6 := hrun
              have HS6 := Lib.hid (HS5.out.putS hm6 hb6)
              clear hm6 hb6 HS5 t2 hc0 c1
              go_wp2
              go_roundw
              case rel => exact ⟨k + 1, by omega, by go_num, by rw [HT.out, endP_snoc, HA.out]; go_num, by
                have := HS6.out
                rw [HT.out, sgE_snoc, HA.out, castE_app]
                simpa [castE] using this⟩
              case measure => simp [intOf]; omega
            · have hkk : k = e3.length := by omega
              subst hkk
              have HS6 := Lib.hid hS
              rw [List.take_length] at HS6
              clear hS hlt hk HQ1 HSM3 HB3
              go_wp2
              go_ret
              exact ⟨rfl, HS6.out.tb, HS6.out.be⟩
end Go.Proofs.Ytmphfdnpnhlpjaa
