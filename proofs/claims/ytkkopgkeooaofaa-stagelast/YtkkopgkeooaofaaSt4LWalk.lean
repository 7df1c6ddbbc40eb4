/- The walk of StageLast. -/
import Derived.Test.YtkkopgkeooaofaaSt4LMath
namespace Go.Proofs.Ytkkopgkeooaofaa
open Go.ChangeShapes Go.WideShapes Go.ChangeAt Go.RowKit
set_option linter.unusedVariables false
set_option linter.unusedSimpArgs false

set_option maxRecDepth 100000 in
set_option maxHeartbeats 4000000 in
theorem stageLast_walk (w : World) (at0 old : Int) (A : Option Addr) (m cap : Nat) (zs : List Int) (hm : zs.length = m) (hm2 : m ≤ maxLen) (hI : Ints w w.heap.size .i64 A zs) (hold : (Lit.int .i64 old).wf = true) :
    Calls Try.prog 4 #[.slice A m cap, .int .i64 at0, .int .i64 old] w (LawPost w) := by
  unfold maxLen at hm2
  have HAW : Hid (∀ W, Calls Try.prog 6 #[] W fun e w' => e = .returned (.bool true) ∧ Below W.heap.size W w') := Lib.hid awake_true
  have HPL : Hid (Calls Try.prog 13 #[.int .i64 at0, .int .i64 1114112] w fun e w' => e = .returned (.int .i64 (at0 % 1114112)) ∧ w = w') := Lib.hid (place_any at0 1114112 w (by omega) (by omega))
  obtain ⟨k, hk⟩ : ∃ k : Nat, at0 % 1114112 = k := ⟨(at0 % 1114112).toNat, by omega⟩
  have hk1 : k < 1114112 := by omega
  rw [hk] at HPL
  have HM := Lib.hid hm
  have HI := Lib.hid hI
  have HO := Lib.hid hold
  clear hm hI hk hold
  obtain ⟨i0, hi0, hz0, hz1, hz2⟩ := info_parts info_ent
  go_enter Try.func4, Try.ntmps4
  go_wp2_with fail
  with_reducible refine HPL.out.mono ?_
  rintro e w' ⟨rfl, rfl⟩
  clear HPL
  go_wp2_with (at_builtin; refine wpList_append_own_at _ rfl _ _ 22 rfl w.heap.size 31 i0 (.agg #[.int .i32 0, .int .i64 0]) 2 16 Try.underlying22 hi0 hz0 hz1 hz2 rfl (by decide) _ _ _ rfl (World.ownsRow_nil _ _ _ _) ⟨w.heap.size, 0, none⟩ 3 3 (entsV (lpre k old)) rfl rfl (cells_new w _ (entsV (lpre k old))) (entsV_one _) (by simp [maxLen]) (by omega) (by simp) ?_; intro u0 w1 ho1 hg1 hnil hloc)
  have HL1 : Hid (L2 w w1 [] (lpre k old) (.slice none 0 0) u0) := Lib.hid ⟨World.ownsRow_nil _ _ _ _, by have h := ho1; rw [Nat.zero_add, List.nil_append] at h; exact h, ((Below.refl _ _).alloc (Nat.le_refl _) _).grown hg1 (by simp) (fun g hv => by cases hv), fun g hv => by cases hv⟩
  clear ho1 hg1 hnil hloc hi0 hz0 hz1 hz2
  go_wp2_with fail
  go_loopw [7, 8, 10] (fun v u i wr => ∃ j : Nat, j ≤ min 100 m ∧ i = .int .i64 j ∧ L2 w wr (lents zs j) (lpre k old ++ lents zs j) v u) (fun _ _ i _ => 100 - (intOf i).toNat)
  case atStart => exact ⟨0, by omega, rfl, by simpa [lents] using HL1.out⟩
  case round =>
    obtain ⟨j, hj, rfl, hR⟩ := hrel
    clear HL1
    have HR := Lib.hid hR
    by_cases hin : j < m ∧ j < 100
    · obtain ⟨hj1, hj2⟩ := hin
      obtain ⟨b, oo, rfl, hbl, hc⟩ := HI.out.at (by rw [HM.out]; omega)
      have c0 := hc j (by rw [HM.out]; omega)
      have c1 : wr.cell? ⟨b, oo + j, none⟩ = _ := (hR.below.cell (p := ⟨b, oo + j, none⟩) hbl).trans c0
      have HT := Lib.hid (lents_succ zs j)
      have hvlt : ∀ g, Value.ownBlock u7 = some g → g < wr.heap.size := fun g hv => (hR.own1.lt g hv).2
      have hult : ∀ g, Value.ownBlock u8 = some g → g < wr.heap.size := fun g hv => (hR.own2.lt g hv).2
      have HLN1 : Hid ((lents zs j).length ≤ 110) := Lib.hid (by rw [lents_len]; omega)
      have HLN2 : Hid ((lpre k old ++ lents zs j).length ≤ 110) := Lib.hid (by rw [List.length_append, lents_len]; simp only [lpre, List.length_cons, List.length_nil]; omega)
      generalize zs.getD j 0 = z at c1 HT
      have HP1 : Hid (∀ W, Calls Try.prog 13 #[.int .i64 z, .int .i64 1114112] W fun e w' => e = .returned (.int .i64 (z % 1114112)) ∧ W = w') := Lib.hid fun W => place_any z 1114112 W (by omega) (by omega)
      have hx1 : 0 ≤ z % 1114112 := by omega
      have hx2 : z % 1114112 < 1114112 := by omega
      have hs10 : decide ((j : Int) < 100) = true := by simp; omega
      have HVL := Lib.hid hvlt
      have HUL := Lib.hid hult
      clear hc c0 hR hvlt hult
      go_wp2_with fail
      with_reducible refine (HP1.out _).mono ?_
      rintro e w' ⟨rfl, rfl⟩
      generalize hcc : z % 1114112 = cc at *
      clear hcc
      go_wp2_with fail
      have HL := Lib.hid ((HR.out.bel (((Below.refl _ _).alloc (Nat.le_refl _) (.cells #[.int .i32 cc, .int .i64 ((j : Int) + 1)] 31)).drew)))
      have hS : (fun W : World => Blk W wr.heap.size 31 #[.int .i32 cc, .int .i64 ((j : Int) + 1)]) (wr.alloc (.cells #[.int .i32 cc, .int .i64 ((j : Int) + 1)] 31)).drew := (Blk.new wr 31 #[.int .i32 cc, .int .i64 ((j : Int) + 1)]).drew
      have hvlt := HVL.out
      have hult := HUL.out
      clear HVL HUL c1 HR
      generalize hxi : wr.heap.size = xi at *
      refine wp_region_H (fun W : World => Blk W xi 31 #[.int .i32 cc, .int .i64 ((j : Int) + 1)]) (by kernel_rfl) ?_
      generalize (wr.alloc (.cells #[.int .i32 cc, .int .i64 ((j : Int) + 1)] 31)).drew = W0 at *
      refine wpH_take 0 46 (v := ?vp1) rfl rfl (by kernel_rfl) (by kernel_rfl) (by kernel_rfl) (fun _ _ _ h => h) hS (Or.inl ⟨by rfl, ?yp1⟩) ?rp1
      case yp1 => (intro W hW; clear hW; go_simp; try with_reducible rfl)
      simp only [Act.put, List.setIfInBounds_toArray, List.set_cons_zero, List.set_cons_succ]
      refine wpH_take 1 47 (v := ?vp2) rfl rfl (by kernel_rfl) (by kernel_rfl) (by kernel_rfl) (fun _ _ _ h => h) hS (Or.inl ⟨by rfl, ?yp2⟩) ?rp2
      case yp2 => (intro W hW; have q0 := Blk.cell hW 0; have q1 := Blk.cell hW 1; clear hW; go_simp; try with_reducible rfl)
      simp only [Act.put, List.setIfInBounds_toArray, List.set_cons_zero, List.set_cons_succ]
      refine wpH_take 4 50 (v := ?vp3) rfl rfl (by kernel_rfl) (by kernel_rfl) (by kernel_rfl) (fun _ _ _ h => h) hS (Or.inl ⟨by rfl, ?yp3⟩) ?rp3
      case yp3 => (intro W hW; clear hW; go_simp; try with_reducible rfl)
      simp only [Act.put, List.setIfInBounds_toArray, List.set_cons_zero, List.set_cons_succ]
      refine wpH_take 5 51 (v := ?vp4) rfl rfl (by kernel_rfl) (by kernel_rfl) (by kernel_rfl) (fun _ _ _ h => h) hS (Or.inl ⟨by rfl, ?yp4⟩) ?rp4
      case yp4 => (intro W hW; have q0 := Blk.cell hW 0; have q1 := Blk.cell hW 1; clear hW; go_simp; try with_reducible rfl)
      simp only [Act.put, List.setIfInBounds_toArray, List.set_cons_zero, List.set_cons_succ]
      refine wpH_two 2 6 (by kernel_rfl) rfl rfl (fun K hK => ?_) (fun K hK => ?_)
      · refine wpA_if (by rfl) ?_
        refine wpO_lit 22 31 1 _ rfl (.agg #[.int .i32 0, .int .i64 0]) 2 16 Try.underlying22 info_ent (by decide) (by decide) (by decide) [.agg #[.int .i32 cc, .int .i64 ((j : Int) + 1)]] (by simp [Act.eval]) (by simp [Value.cells]) rfl #[.int .i32 cc, .int .i64 ((j : Int) + 1)] (by simp [Value.cells]) ?_
        have hS' : (fun W : World => Blk W xi 31 #[.int .i32 cc, .int .i64 ((j : Int) + 1)]) (W0.alloc (.cells #[.int .i32 cc, .int .i64 ((j : Int) + 1)] 31)) := Blk.alloc hS _
        refine hK.out _ _ hS' ?_
        clear hK K
        try simp only [Act.put, List.setIfInBounds_toArray, List.set_cons_zero, List.set_cons_succ]
        clear hS
        have hS : (fun W : World => Blk W xi 31 #[.int .i32 cc, .int .i64 ((j : Int) + 1)]) (W0.alloc (.cells #[.int .i32 cc, .int .i64 ((j : Int) + 1)] 31)) := hS'
        clear hS'
        have HL' := Lib.hid (HL.out.alloc (.cells #[.int .i32 cc, .int .i64 ((j : Int) + 1)] 31))
        clear HL
        have HL := HL'
        clear HL'
        have K2 := Lib.hid (Blk.new W0 31 #[.int .i32 cc, .int .i64 ((j : Int) + 1)])
        have hge2 : xi ≤ W0.heap.size := by have := (show Blk _ xi _ _ from hS).lt; simp at this; omega
        generalize W0.alloc (.cells #[.int .i32 cc, .int .i64 ((j : Int) + 1)] 31) = W1 at *
        generalize W0.heap.size = b2 at *
        refine wpH_two 3 6 (by kernel_rfl) rfl rfl (fun K hK => ?_) (fun K hK => ?_)
        · refine wpA_if (by rfl) ?_
          refine wpO_append _ _ 22 rfl w.heap.size 31 (.agg #[.int .i32 0, .int .i64 0]) 2 16 Try.underlying22 info_ent rfl (by decide) _ _ _ rfl HL.out.own1 ⟨b2, 0, none⟩ 1 1 [.int .i32 cc, .int .i64 ((j : Int) + 1)] rfl rfl (blk_cells (vs := [.int .i32 cc, .int .i64 ((j : Int) + 1)]) K2.out) (ent_one _ _) (by simp only [maxLen]; have := HLN1.out; omega) (by have := HLN1.out; omega) HL.out.below.size ?_
          intro v3 W2 ho3 hg3 hloc
          have hS' : (fun W : World => Blk W xi 31 #[.int .i32 cc, .int .i64 ((j : Int) + 1)]) W2 := blk_app hS hg3 (fun e => by have := hvlt _ e; omega)
          have HL' := Lib.hid (HL.out.app1 ho3 hg3 hloc)
          clear HL
          have HL := HL'
          clear HL'
          refine hK.out _ _ hS' ?_
          clear hK K
          try simp only [Act.put, List.setIfInBounds_toArray, List.set_cons_zero, List.set_cons_succ]
          clear hS ho3 hg3 hloc
          have hS : (fun W : World => Blk W xi 31 #[.int .i32 cc, .int .i64 ((j : Int) + 1)]) W2 := hS'
          clear hS'
          refine wpH_one 6 (by kernel_rfl) rfl (fun K hK => ?_)
          refine wpA_if (by rfl) ?_
          refine wpO_lit 22 31 1 _ rfl (.agg #[.int .i32 0, .int .i64 0]) 2 16 Try.underlying22 info_ent (by decide) (by decide) (by decide) [.agg #[.int .i32 cc, .int .i64 ((j : Int) + 1)]] (by simp [Act.eval]) (by simp [Value.cells]) rfl #[.int .i32 cc, .int .i64 ((j : Int) + 1)] (by simp [Value.cells]) ?_
          have hS' : (fun W : World => Blk W xi 31 #[.int .i32 cc, .int .i64 ((j : Int) + 1)]) (W2.alloc (.cells #[.int .i32 cc, .int .i64 ((j : Int) + 1)] 31)) := Blk.alloc hS _
          refine hK.out _ _ hS' ?_
          clear hK K
          try simp only [Act.put, List.setIfInBounds_toArray, List.set_cons_zero, List.set_cons_succ]
          clear hS
          have hS : (fun W : World => Blk W xi 31 #[.int .i32 cc, .int .i64 ((j : Int) + 1)]) (W2.alloc (.cells #[.int .i32 cc, .int .i64 ((j : Int) + 1)] 31)) := hS'
          clear hS'
          have HL' := Lib.hid (HL.out.alloc (.cells #[.int .i32 cc, .int .i64 ((j : Int) + 1)] 31))
          clear HL
          have HL := HL'
          clear HL'
          have K6 := Lib.hid (Blk.new W2 31 #[.int .i32 cc, .int .i64 ((j : Int) + 1)])
          have hge6 : xi ≤ W2.heap.size := by have := (show Blk _ xi _ _ from hS).lt; simp at this; omega
          generalize W2.alloc (.cells #[.int .i32 cc, .int .i64 ((j : Int) + 1)] 31) = W3 at *
          generalize W2.heap.size = b6 at *
          refine wpH_one 7 (by kernel_rfl) rfl (fun K hK => ?_)
          refine wpA_if (by rfl) ?_
          refine wpO_append _ _ 22 rfl w.heap.size 31 (.agg #[.int .i32 0, .int .i64 0]) 2 16 Try.underlying22 info_ent rfl (by decide) _ _ _ rfl HL.out.own2 ⟨b6, 0, none⟩ 1 1 [.int .i32 cc, .int .i64 ((j : Int) + 1)] rfl rfl (blk_cells (vs := [.int .i32 cc, .int .i64 ((j : Int) + 1)]) K6.out) (ent_one _ _) (by simp only [maxLen]; have := HLN2.out; omega) (by have := HLN2.out; omega) HL.out.below.size ?_
          intro u3 W4 ho3 hg3 hloc
          have hS' : (fun W : World => Blk W xi 31 #[.int .i32 cc, .int .i64 ((j : Int) + 1)]) W4 := blk_app hS hg3 (fun e => by have := hult _ e; omega)
          have HL' := Lib.hid (HL.out.app2 ho3 hg3 hloc)
          clear HL
          have HL := HL'
          clear HL'
          refine hK.out _ _ hS' ?_
          clear hK K
          try simp only [Act.put, List.setIfInBounds_toArray, List.set_cons_zero, List.set_cons_succ]
          clear hS ho3 hg3 hloc
          have hS : (fun W : World => Blk W xi 31 #[.int .i32 cc, .int .i64 ((j : Int) + 1)]) W4 := hS'
          clear hS'
          refine wpH_take 8 7 (v := ?vp5) rfl rfl (by kernel_rfl) (by kernel_rfl) (by kernel_rfl) (fun _ _ _ h => h) hS (Or.inl ⟨by rfl, ?yp5⟩) ?rp5
          case yp5 => (intro W hW; clear hW; go_simp; try with_reducible rfl)
          simp only [Act.put, List.setIfInBounds_toArray, List.set_cons_zero, List.set_cons_succ]
          refine wpH_take 9 8 (v := ?vp6) rfl rfl (by kernel_rfl) (by kernel_rfl) (by kernel_rfl) (fun _ _ _ h => h) hS (Or.inl ⟨by rfl, ?yp6⟩) ?rp6
          case yp6 => (intro W hW; clear hW; go_simp; try with_reducible rfl)
          simp only [Act.put, List.setIfInBounds_toArray, List.set_cons_zero, List.set_cons_succ]
          refine wpH_done (by kernel_rfl) ?_ _
          clear hS hvlt hult
          go_wp2
          go_roundw
          case rel => exact ⟨j + 1, by omega, by go_num, by rw [HT.out, ← List.append_assoc]; exact HL.out⟩
          case measure => simp [intOf]; omega
        · refine wpA_if (by rfl) ?_
          refine wpO_lit 22 31 1 _ rfl (.agg #[.int .i32 0, .int .i64 0]) 2 16 Try.underlying22 info_ent (by decide) (by decide) (by decide) [.agg #[.int .i32 cc, .int .i64 ((j : Int) + 1)]] (by simp [Act.eval]) (by simp [Value.cells]) rfl #[.int .i32 cc, .int .i64 ((j : Int) + 1)] (by simp [Value.cells]) ?_
          have hS' : (fun W : World => Blk W xi 31 #[.int .i32 cc, .int .i64 ((j : Int) + 1)]) (W1.alloc (.cells #[.int .i32 cc, .int .i64 ((j : Int) + 1)] 31)) := Blk.alloc hS _
          refine hK.out _ _ hS' ?_
          clear hK K
          try simp only [Act.put, List.setIfInBounds_toArray, List.set_cons_zero, List.set_cons_succ]
          clear hS
          have hS : (fun W : World => Blk W xi 31 #[.int .i32 cc, .int .i64 ((j : Int) + 1)]) (W1.alloc (.cells #[.int .i32 cc, .int .i64 ((j : Int) + 1)] 31)) := hS'
          clear hS'
          have HL' := Lib.hid (HL.out.alloc (.cells #[.int .i32 cc, .int .i64 ((j : Int) + 1)] 31))
          clear HL
          have HL := HL'
          clear HL'
          have K2' := Lib.hid (K2.out.alloc (.cells #[.int .i32 cc, .int .i64 ((j : Int) + 1)] 31))
          clear K2
          have K2 := K2'
          clear K2'
          have K6 := Lib.hid (Blk.new W1 31 #[.int .i32 cc, .int .i64 ((j : Int) + 1)])
          have hge6 : xi ≤ W1.heap.size := by have := (show Blk _ xi _ _ from hS).lt; simp at this; omega
          generalize W1.alloc (.cells #[.int .i32 cc, .int .i64 ((j : Int) + 1)] 31) = W2 at *
          generalize W1.heap.size = b6 at *
          refine wpH_one 3 (by kernel_rfl) rfl (fun K hK => ?_)
          refine wpA_if (by rfl) ?_
          refine wpO_append _ _ 22 rfl w.heap.size 31 (.agg #[.int .i32 0, .int .i64 0]) 2 16 Try.underlying22 info_ent rfl (by decide) _ _ _ rfl HL.out.own1 ⟨b2, 0, none⟩ 1 1 [.int .i32 cc, .int .i64 ((j : Int) + 1)] rfl rfl (blk_cells (vs := [.int .i32 cc, .int .i64 ((j : Int) + 1)]) K2.out) (ent_one _ _) (by simp only [maxLen]; have := HLN1.out; omega) (by have := HLN1.out; omega) HL.out.below.size ?_
          intro v3 W3 ho3 hg3 hloc
          have hS' : (fun W : World => Blk W xi 31 #[.int .i32 cc, .int .i64 ((j : Int) + 1)]) W3 := blk_app hS hg3 (fun e => by have := hvlt _ e; omega)
          have K6' := Lib.hid (blk_app K6.out hg3 (fun e => by have := hvlt _ e; omega))
          clear K6
          have K6 := K6'
          clear K6'
          have HL' := Lib.hid (HL.out.app1 ho3 hg3 hloc)
          clear HL
          have HL := HL'
          clear HL'
          refine hK.out _ _ hS' ?_
          clear hK K
          try simp only [Act.put, List.setIfInBounds_toArray, List.set_cons_zero, List.set_cons_succ]
          clear hS ho3 hg3 hloc
          have hS : (fun W : World => Blk W xi 31 #[.int .i32 cc, .int .i64 ((j : Int) + 1)]) W3 := hS'
          clear hS'
          refine wpH_one 7 (by kernel_rfl) rfl (fun K hK => ?_)
          refine wpA_if (by rfl) ?_
          refine wpO_append _ _ 22 rfl w.heap.size 31 (.agg #[.int .i32 0, .int .i64 0]) 2 16 Try.underlying22 info_ent rfl (by decide) _ _ _ rfl HL.out.own2 ⟨b6, 0, none⟩ 1 1 [.int .i32 cc, .int .i64 ((j : Int) + 1)] rfl rfl (blk_cells (vs := [.int .i32 cc, .int .i64 ((j : Int) + 1)]) K6.out) (ent_one _ _) (by simp only [maxLen]; have := HLN2.out; omega) (by have := HLN2.out; omega) HL.out.below.size ?_
          intro u3 W4 ho3 hg3 hloc
          have hS' : (fun W : World => Blk W xi 31 #[.int .i32 cc, .int .i64 ((j : Int) + 1)]) W4 := blk_app hS hg3 (fun e => by have := hult _ e; omega)
          have HL' := Lib.hid (HL.out.app2 ho3 hg3 hloc)
          clear HL
          have HL := HL'
          clear HL'
          refine hK.out _ _ hS' ?_
          clear hK K
          try simp only [Act.put, List.setIfInBounds_toArray, List.set_cons_zero, List.set_cons_succ]
          clear hS ho3 hg3 hloc
          have hS : (fun W : World => Blk W xi 31 #[.int .i32 cc, .int .i64 ((j : Int) + 1)]) W4 := hS'
          clear hS'
          refine wpH_take 8 7 (v := ?vp7) rfl rfl (by kernel_rfl) (by kernel_rfl) (by kernel_rfl) (fun _ _ _ h => h) hS (Or.inl ⟨by rfl, ?yp7⟩) ?rp7
          case yp7 => (intro W hW; clear hW; go_simp; try with_reducible rfl)
          simp only [Act.put, List.setIfInBounds_toArray, List.set_cons_zero, List.set_cons_succ]
          refine wpH_take 9 8 (v := ?vp8) rfl rfl (by kernel_rfl) (by kernel_rfl) (by kernel_rfl) (fun _ _ _ h => h) hS (Or.inl ⟨by rfl, ?yp8⟩) ?rp8
          case yp8 => (intro W hW; clear hW; go_simp; try with_reducible rfl)
          simp only [Act.put, List.setIfInBounds_toArray, List.set_cons_zero, List.set_cons_succ]
          refine wpH_done (by kernel_rfl) ?_ _
          clear hS hvlt hult
          go_wp2
          go_roundw
          case rel => exact ⟨j + 1, by omega, by go_num, by rw [HT.out, ← List.append_assoc]; exact HL.out⟩
          case measure => simp [intOf]; omega
      · refine wpA_if (by rfl) ?_
        refine wpO_lit 22 31 1 _ rfl (.agg #[.int .i32 0, .int .i64 0]) 2 16 Try.underlying22 info_ent (by decide) (by decide) (by decide) [.agg #[.int .i32 cc, .int .i64 ((j : Int) + 1)]] (by simp [Act.eval]) (by simp [Value.cells]) rfl #[.int .i32 cc, .int .i64 ((j : Int) + 1)] (by simp [Value.cells]) ?_
        have hS' : (fun W : World => Blk W xi 31 #[.int .i32 cc, .int .i64 ((j : Int) + 1)]) (W0.alloc (.cells #[.int .i32 cc, .int .i64 ((j : Int) + 1)] 31)) := Blk.alloc hS _
        refine hK.out _ _ hS' ?_
        clear hK K
        try simp only [Act.put, List.setIfInBounds_toArray, List.set_cons_zero, List.set_cons_succ]
        clear hS
        have hS : (fun W : World => Blk W xi 31 #[.int .i32 cc, .int .i64 ((j : Int) + 1)]) (W0.alloc (.cells #[.int .i32 cc, .int .i64 ((j : Int) + 1)] 31)) := hS'
        clear hS'
        have HL' := Lib.hid (HL.out.alloc (.cells #[.int .i32 cc, .int .i64 ((j : Int) + 1)] 31))
        clear HL
        have HL := HL'
        clear HL'
        have K6 := Lib.hid (Blk.new W0 31 #[.int .i32 cc, .int .i64 ((j : Int) + 1)])
        have hge6 : xi ≤ W0.heap.size := by have := (show Blk _ xi _ _ from hS).lt; simp at this; omega
        generalize W0.alloc (.cells #[.int .i32 cc, .int .i64 ((j : Int) + 1)] 31) = W1 at *
        generalize W0.heap.size = b6 at *
        refine wpH_one 2 (by kernel_rfl) rfl (fun K hK => ?_)
        refine wpA_if (by rfl) ?_
        refine wpO_lit 22 31 1 _ rfl (.agg #[.int .i32 0, .int .i64 0]) 2 16 Try.underlying22 info_ent (by decide) (by decide) (by decide) [.agg #[.int .i32 cc, .int .i64 ((j : Int) + 1)]] (by simp [Act.eval]) (by simp [Value.cells]) rfl #[.int .i32 cc, .int .i64 ((j : Int) + 1)] (by simp [Value.cells]) ?_
        have hS' : (fun W : World => Blk W xi 31 #[.int .i32 cc, .int .i64 ((j : Int) + 1)]) (W1.alloc (.cells #[.int .i32 cc, .int .i64 ((j : Int) + 1)] 31)) := Blk.alloc hS _
        refine hK.out _ _ hS' ?_
        clear hK K
        try simp only [Act.put, List.setIfInBounds_toArray, List.set_cons_zero, List.set_cons_succ]
        clear hS
        have hS : (fun W : World => Blk W xi 31 #[.int .i32 cc, .int .i64 ((j : Int) + 1)]) (W1.alloc (.cells #[.int .i32 cc, .int .i64 ((j : Int) + 1)] 31)) := hS'
        clear hS'
        have HL' := Lib.hid (HL.out.alloc (.cells #[.int .i32 cc, .int .i64 ((j : Int) + 1)] 31))
        clear HL
        have HL := HL'
        clear HL'
        have K6' := Lib.hid (K6.out.alloc (.cells #[.int .i32 cc, .int .i64 ((j : Int) + 1)] 31))
        clear K6
        have K6 := K6'
        clear K6'
        have K2 := Lib.hid (Blk.new W1 31 #[.int .i32 cc, .int .i64 ((j : Int) + 1)])
        have hge2 : xi ≤ W1.heap.size := by have := (show Blk _ xi _ _ from hS).lt; simp at this; omega
        generalize W1.alloc (.cells #[.int .i32 cc, .int .i64 ((j : Int) + 1)] 31) = W2 at *
        generalize W1.heap.size = b2 at *
        refine wpH_one 3 (by kernel_rfl) rfl (fun K hK => ?_)
        refine wpA_if (by rfl) ?_
        refine wpO_append _ _ 22 rfl w.heap.size 31 (.agg #[.int .i32 0, .int .i64 0]) 2 16 Try.underlying22 info_ent rfl (by decide) _ _ _ rfl HL.out.own1 ⟨b2, 0, none⟩ 1 1 [.int .i32 cc, .int .i64 ((j : Int) + 1)] rfl rfl (blk_cells (vs := [.int .i32 cc, .int .i64 ((j : Int) + 1)]) K2.out) (ent_one _ _) (by simp only [maxLen]; have := HLN1.out; omega) (by have := HLN1.out; omega) HL.out.below.size ?_
        intro v3 W3 ho3 hg3 hloc
        have hS' : (fun W : World => Blk W xi 31 #[.int .i32 cc, .int .i64 ((j : Int) + 1)]) W3 := blk_app hS hg3 (fun e => by have := hvlt _ e; omega)
        have K6' := Lib.hid (blk_app K6.out hg3 (fun e => by have := hvlt _ e; omega))
        clear K6
        have K6 := K6'
        clear K6'
        have HL' := Lib.hid (HL.out.app1 ho3 hg3 hloc)
        clear HL
        have HL := HL'
        clear HL'
        refine hK.out _ _ hS' ?_
        clear hK K
        try simp only [Act.put, List.setIfInBounds_toArray, List.set_cons_zero, List.set_cons_succ]
        clear hS ho3 hg3 hloc
        have hS : (fun W : World => Blk W xi 31 #[.int .i32 cc, .int .i64 ((j : Int) + 1)]) W3 := hS'
        clear hS'
        refine wpH_one 7 (by kernel_rfl) rfl (fun K hK => ?_)
        refine wpA_if (by rfl) ?_
        refine wpO_append _ _ 22 rfl w.heap.size 31 (.agg #[.int .i32 0, .int .i64 0]) 2 16 Try.underlying22 info_ent rfl (by decide) _ _ _ rfl HL.out.own2 ⟨b6, 0, none⟩ 1 1 [.int .i32 cc, .int .i64 ((j : Int) + 1)] rfl rfl (blk_cells (vs := [.int .i32 cc, .int .i64 ((j : Int) + 1)]) K6.out) (ent_one _ _) (by simp only [maxLen]; have := HLN2.out; omega) (by have := HLN2.out; omega) HL.out.below.size ?_
        intro u3 W4 ho3 hg3 hloc
        have hS' : (fun W : World => Blk W xi 31 #[.int .i32 cc, .int .i64 ((j : Int) + 1)]) W4 := blk_app hS hg3 (fun e => by have := hult _ e; omega)
        have HL' := Lib.hid (HL.out.app2 ho3 hg3 hloc)
        clear HL
        have HL := HL'
        clear HL'
        refine hK.out _ _ hS' ?_
        clear hK K
        try simp only [Act.put, List.setIfInBounds_toArray, List.set_cons_zero, List.set_cons_succ]
        clear hS ho3 hg3 hloc
        have hS : (fun W : World => Blk W xi 31 #[.int .i32 cc, .int .i64 ((j : Int) + 1)]) W4 := hS'
        clear hS'
        refine wpH_take 8 7 (v := ?vp9) rfl rfl (by kernel_rfl) (by kernel_rfl) (by kernel_rfl) (fun _ _ _ h => h) hS (Or.inl ⟨by rfl, ?yp9⟩) ?rp9
        case yp9 => (intro W hW; clear hW; go_simp; try with_reducible rfl)
        simp only [Act.put, List.setIfInBounds_toArray, List.set_cons_zero, List.set_cons_succ]
        refine wpH_take 9 8 (v := ?vp10) rfl rfl (by kernel_rfl) (by kernel_rfl) (by kernel_rfl) (fun _ _ _ h => h) hS (Or.inl ⟨by rfl, ?yp10⟩) ?rp10
        case yp10 => (intro W hW; clear hW; go_simp; try with_reducible rfl)
        simp only [Act.put, List.setIfInBounds_toArray, List.set_cons_zero, List.set_cons_succ]
        refine wpH_done (by kernel_rfl) ?_ _
        clear hS hvlt hult
        go_wp2
        go_roundw
        case rel => exact ⟨j + 1, by omega, by go_num, by rw [HT.out, ← List.append_assoc]; exact HL.out⟩
        case measure => simp [intOf]; omega
    · have hjb : j ≤ 100 := by omega
      have hvlt : ∀ g, Value.ownBlock u7 = some g → g < wr.heap.size := fun g hv => (hR.own1.lt g hv).2
      have hult : ∀ g, Value.ownBlock u8 = some g → g < wr.heap.size := fun g hv => (hR.own2.lt g hv).2
      have HLN1 : Hid ((lents zs j).length ≤ 110) := Lib.hid (by rw [lents_len]; omega)
      have HLN2 : Hid ((lpre k old ++ lents zs j).length ≤ 110) := Lib.hid (by rw [List.length_append, lents_len]; simp only [lpre, List.length_cons, List.length_nil]; omega)
      have HVL := Lib.hid hvlt
      have HUL := Lib.hid hult
      clear hvlt hult hR
      by_cases hs1 : j < m
      · have hs10 : decide ((j : Int) < 100) = false := by simp; omega
        clear hin hj
        go_wp2_with fail
        have HL := Lib.hid ((HR.out.bel (((Below.refl _ _).alloc (Nat.le_refl _) (.cells #[.int .i32 (k : Int), .int .i64 1000] 31)).drew)))
        have hS : (fun W : World => Blk W wr.heap.size 31 #[.int .i32 (k : Int), .int .i64 1000]) (wr.alloc (.cells #[.int .i32 (k : Int), .int .i64 1000] 31)).drew := (Blk.new wr 31 #[.int .i32 (k : Int), .int .i64 1000]).drew
        have hvlt := HVL.out
        have hult := HUL.out
        clear HVL HUL HR
        generalize wr.heap.size = xi at *
        refine wp_region_H (fun W : World => Blk W xi 31 #[.int .i32 (k : Int), .int .i64 1000]) (by kernel_rfl) ?_
        generalize (wr.alloc (.cells #[.int .i32 (k : Int), .int .i64 1000] 31)).drew = W0 at *
        refine wpH_take 0 57 (v := ?ve1) rfl rfl (by kernel_rfl) (by kernel_rfl) (by kernel_rfl) (fun _ _ _ h => h) hS (Or.inl ⟨by rfl, ?ye1⟩) ?re1
        case ye1 => (intro W hW; clear hW; go_simp; try with_reducible rfl)
        simp only [Act.put, List.setIfInBounds_toArray, List.set_cons_zero, List.set_cons_succ]
        refine wpH_take 1 58 (v := ?ve2) rfl rfl (by kernel_rfl) (by kernel_rfl) (by kernel_rfl) (fun _ _ _ h => h) hS (Or.inl ⟨by rfl, ?ye2⟩) ?re2
        case ye2 => (intro W hW; have q0 := Blk.cell hW 0; have q1 := Blk.cell hW 1; clear hW; go_simp; try with_reducible rfl)
        simp only [Act.put, List.setIfInBounds_toArray, List.set_cons_zero, List.set_cons_succ]
        refine wpH_take 4 61 (v := ?ve3) rfl rfl (by kernel_rfl) (by kernel_rfl) (by kernel_rfl) (fun _ _ _ h => h) hS (Or.inl ⟨by rfl, ?ye3⟩) ?re3
        case ye3 => (intro W hW; clear hW; go_simp; try with_reducible rfl)
        simp only [Act.put, List.setIfInBounds_toArray, List.set_cons_zero, List.set_cons_succ]
        refine wpH_take 5 62 (v := ?ve4) rfl rfl (by kernel_rfl) (by kernel_rfl) (by kernel_rfl) (fun _ _ _ h => h) hS (Or.inl ⟨by rfl, ?ye4⟩) ?re4
        case ye4 => (intro W hW; have q0 := Blk.cell hW 0; have q1 := Blk.cell hW 1; clear hW; go_simp; try with_reducible rfl)
        simp only [Act.put, List.setIfInBounds_toArray, List.set_cons_zero, List.set_cons_succ]
        refine wpH_two 2 6 (by kernel_rfl) rfl rfl (fun K hK => ?_) (fun K hK => ?_)
        · refine wpA_if (by rfl) ?_
          refine wpO_lit 22 31 1 _ rfl (.agg #[.int .i32 0, .int .i64 0]) 2 16 Try.underlying22 info_ent (by decide) (by decide) (by decide) [.agg #[.int .i32 (k : Int), .int .i64 1000]] (by simp [Act.eval]) (by simp [Value.cells]) rfl #[.int .i32 (k : Int), .int .i64 1000] (by simp [Value.cells]) ?_
          have hS' : (fun W : World => Blk W xi 31 #[.int .i32 (k : Int), .int .i64 1000]) (W0.alloc (.cells #[.int .i32 (k : Int), .int .i64 1000] 31)) := Blk.alloc hS _
          refine hK.out _ _ hS' ?_
          clear hK K
          try simp only [Act.put, List.setIfInBounds_toArray, List.set_cons_zero, List.set_cons_succ]
          clear hS
          have hS : (fun W : World => Blk W xi 31 #[.int .i32 (k : Int), .int .i64 1000]) (W0.alloc (.cells #[.int .i32 (k : Int), .int .i64 1000] 31)) := hS'
          clear hS'
          have HL' := Lib.hid (HL.out.alloc (.cells #[.int .i32 (k : Int), .int .i64 1000] 31))
          clear HL
          have HL := HL'
          clear HL'
          have K2 := Lib.hid (Blk.new W0 31 #[.int .i32 (k : Int), .int .i64 1000])
          have hge2 : xi ≤ W0.heap.size := by have := (show Blk _ xi _ _ from hS).lt; simp at this; omega
          generalize W0.alloc (.cells #[.int .i32 (k : Int), .int .i64 1000] 31) = W1 at *
          generalize W0.heap.size = b2 at *
          refine wpH_two 3 6 (by kernel_rfl) rfl rfl (fun K hK => ?_) (fun K hK => ?_)
          · refine wpA_if (by rfl) ?_
            refine wpO_append _ _ 22 rfl w.heap.size 31 (.agg #[.int .i32 0, .int .i64 0]) 2 16 Try.underlying22 info_ent rfl (by decide) _ _ _ rfl HL.out.own1 ⟨b2, 0, none⟩ 1 1 [.int .i32 (k : Int), .int .i64 1000] rfl rfl (blk_cells (vs := [.int .i32 (k : Int), .int .i64 1000]) K2.out) (ent_one _ _) (by simp only [maxLen]; have := HLN1.out; omega) (by have := HLN1.out; omega) HL.out.below.size ?_
            intro v3 W2 ho3 hg3 hloc
            have hS' : (fun W : World => Blk W xi 31 #[.int .i32 (k : Int), .int .i64 1000]) W2 := blk_app hS hg3 (fun e => by have := hvlt _ e; omega)
            have HL' := Lib.hid (HL.out.app1 ho3 hg3 hloc)
            clear HL
            have HL := HL'
            clear HL'
            refine hK.out _ _ hS' ?_
            clear hK K
            try simp only [Act.put, List.setIfInBounds_toArray, List.set_cons_zero, List.set_cons_succ]
            clear hS ho3 hg3 hloc
            have hS : (fun W : World => Blk W xi 31 #[.int .i32 (k : Int), .int .i64 1000]) W2 := hS'
            clear hS'
            refine wpH_one 6 (by kernel_rfl) rfl (fun K hK => ?_)
            refine wpA_if (by rfl) ?_
            refine wpO_lit 22 31 1 _ rfl (.agg #[.int .i32 0, .int .i64 0]) 2 16 Try.underlying22 info_ent (by decide) (by decide) (by decide) [.agg #[.int .i32 (k : Int), .int .i64 1000]] (by simp [Act.eval]) (by simp [Value.cells]) rfl #[.int .i32 (k : Int), .int .i64 1000] (by simp [Value.cells]) ?_
            have hS' : (fun W : World => Blk W xi 31 #[.int .i32 (k : Int), .int .i64 1000]) (W2.alloc (.cells #[.int .i32 (k : Int), .int .i64 1000] 31)) := Blk.alloc hS _
            refine hK.out _ _ hS' ?_
            clear hK K
            try simp only [Act.put, List.setIfInBounds_toArray, List.set_cons_zero, List.set_cons_succ]
            clear hS
            have hS : (fun W : World => Blk W xi 31 #[.int .i32 (k : Int), .int .i64 1000]) (W2.alloc (.cells #[.int .i32 (k : Int), .int .i64 1000] 31)) := hS'
            clear hS'
            have HL' := Lib.hid (HL.out.alloc (.cells #[.int .i32 (k : Int), .int .i64 1000] 31))
            clear HL
            have HL := HL'
            clear HL'
            have K6 := Lib.hid (Blk.new W2 31 #[.int .i32 (k : Int), .int .i64 1000])
            have hge6 : xi ≤ W2.heap.size := by have := (show Blk _ xi _ _ from hS).lt; simp at this; omega
            generalize W2.alloc (.cells #[.int .i32 (k : Int), .int .i64 1000] 31) = W3 at *
            generalize W2.heap.size = b6 at *
            refine wpH_one 7 (by kernel_rfl) rfl (fun K hK => ?_)
            refine wpA_if (by rfl) ?_
            refine wpO_append _ _ 22 rfl w.heap.size 31 (.agg #[.int .i32 0, .int .i64 0]) 2 16 Try.underlying22 info_ent rfl (by decide) _ _ _ rfl HL.out.own2 ⟨b6, 0, none⟩ 1 1 [.int .i32 (k : Int), .int .i64 1000] rfl rfl (blk_cells (vs := [.int .i32 (k : Int), .int .i64 1000]) K6.out) (ent_one _ _) (by simp only [maxLen]; have := HLN2.out; omega) (by have := HLN2.out; omega) HL.out.below.size ?_
            intro u3 W4 ho3 hg3 hloc
            have hS' : (fun W : World => Blk W xi 31 #[.int .i32 (k : Int), .int .i64 1000]) W4 := blk_app hS hg3 (fun e => by have := hult _ e; omega)
            have HL' := Lib.hid (HL.out.app2 ho3 hg3 hloc)
            clear HL
            have HL := HL'
            clear HL'
            refine hK.out _ _ hS' ?_
            clear hK K
            try simp only [Act.put, List.setIfInBounds_toArray, List.set_cons_zero, List.set_cons_succ]
            clear hS ho3 hg3 hloc
            have hS : (fun W : World => Blk W xi 31 #[.int .i32 (k : Int), .int .i64 1000]) W4 := hS'
            clear hS'
            refine wpH_take 8 7 (v := ?ve5) rfl rfl (by kernel_rfl) (by kernel_rfl) (by kernel_rfl) (fun _ _ _ h => h) hS (Or.inl ⟨by rfl, ?ye5⟩) ?re5
            case ye5 => (intro W hW; clear hW; go_simp; try with_reducible rfl)
            simp only [Act.put, List.setIfInBounds_toArray, List.set_cons_zero, List.set_cons_succ]
            refine wpH_take 9 8 (v := ?ve6) rfl rfl (by kernel_rfl) (by kernel_rfl) (by kernel_rfl) (fun _ _ _ h => h) hS (Or.inl ⟨by rfl, ?ye6⟩) ?re6
            case ye6 => (intro W hW; clear hW; go_simp; try with_reducible rfl)
            simp only [Act.put, List.setIfInBounds_toArray, List.set_cons_zero, List.set_cons_succ]
            refine wpH_done (by kernel_rfl) ?_ _
            clear hS hvlt hult HLN1 HLN2
            have HF1 := Lib.hid (fit_app (lents_fit zs j (by omega)) (end_fit (k := k) (by omega)))
            have HF2 := Lib.hid (fit_app (fit_app (pre_fit (k := k) (old := old) (by omega) HO.out) (lents_fit zs j (by omega))) (end_fit (k := k) (by omega)))
            have HTE := Lib.hid (tab_lpre k old (isPl_iff.2 (by omega)) (lents zs j))
            have HTK := Lib.hid (tab_end k (isPl_iff.2 (by omega)) (lents zs j))
            have HN1 : Hid ((lents zs j ++ [((k : Int), (1000 : Int))]).length = j + 1) := Lib.hid (by rw [List.length_append, lents_len]; rfl)
            have HN2 : Hid ((lpre k old ++ lents zs j ++ [((k : Int), (1000 : Int))]).length = j + 4) := Lib.hid (by rw [List.length_append, List.length_append, lents_len]; simp only [lpre, List.length_cons, List.length_nil]; omega)
            have HL : Hid (L2 w W4 (lents zs j ++ [((k : Int), (1000 : Int))]) (lpre k old ++ lents zs j ++ [((k : Int), (1000 : Int))]) v3 u3) := HL
            generalize lents zs j ++ [((k : Int), (1000 : Int))] = lF at *
            generalize lpre k old ++ lents zs j ++ [((k : Int), (1000 : Int))] = mF at *
            obtain ⟨A1, q1, rfl, hq1, hq2⟩ := own_form' HL.out.own1
            obtain ⟨A2, q2, rfl, hq3, hq4⟩ := own_form' HL.out.own2
            have HE1 := Lib.hid (Ents.own HL.out.own1)
            have HE2 := Lib.hid (Ents.own HL.out.own2)
            have HBW := Lib.hid HL.out.below
            have hsw := HL.out.below.size
            clear HL
            generalize hne1 : lF.length = n1 at *
            generalize hne2 : mF.length = n2 at *
            have HNE1 := Lib.hid hne1
            have HNE2 := Lib.hid hne2
            clear hne1 hne2
            have hn1 : n1 ≤ 110 := by have := HN1.out; omega
            have hn2 : n2 ≤ 110 := by have := HN2.out; omega
            clear HN1 HN2
            have HB1 := Lib.hid (build_any W4 A1 n1 q1 lF HNE1.out (by omega) HE1.out HF1.out)
            go_wp2_with fail
            with_reducible refine HB1.out.mono ?_
            rintro e w5 ⟨g1, U1, rfl, hd1, ht1, hb1⟩
            have hs5 := hb1.size
            have HT1 := Lib.hid ht1
            have HD1 := Lib.hid hd1
            have HB5 := Lib.hid hb1
            have HE12 := Lib.hid ((HE1.out.below hb1 (Nat.le_refl _)).more hs5)
            have HB2 := Lib.hid (build_any w5 A2 n2 q2 mF HNE2.out (by omega) ((HE2.out.below hb1 (Nat.le_refl _)).more hs5) HF2.out)
            clear hd1 ht1 hb1 HB1 HE1 HE2
            go_wp2_with fail
            with_reducible refine HB2.out.mono ?_
            rintro e w6 ⟨g2, U2, rfl, hd2, ht2, hb2⟩
            rw [HTE.out] at hd2 ht2
            rw [← HD1.out.len hd2] at ht2
            have hs6 := hb2.size
            have HT2 := Lib.hid ht2
            have HT1b := Lib.hid ((HT1.out.below hb2 (Nat.le_refl _)).more hs6)
            have HE6 := Lib.hid ((HE12.out.below hb2 (Nat.le_refl _)).more hs6)
            have HB6 := Lib.hid ((HBW.out.trans (HB5.out.mono hsw)).trans (hb2.mono (by omega)))
            clear hd2 ht2 hb2 HB2 HT1 HE12 HB5 HBW HTE HD1
            generalize U1.length = q at *
            go_wp2_with fail
            with_reducible refine (get_any (k : Int) (tab lF) g1 _ q _ (tab_no lF) HT1b.out).mono ?_
            rintro e w7 ⟨rfl, hs7⟩
            rw [HTK.out]
            have S7 := Lib.hid hs7
            clear hs7
            go_wp2_with fail
            with_reducible refine (get_any (k : Int) (tab lF) g2 _ q _ (tab_no lF) (HT2.out.still S7.out)).mono ?_
            rintro e w8 ⟨rfl, hs8⟩
            rw [HTK.out]
            have S8 := Lib.hid (S7.out.trans hs8)
            clear hs8 S7
            go_wp2_with fail
            with_reducible refine (blocks_any (tab lF) g1 _ q _ (HT1b.out.still S8.out)).mono ?_
            rintro e w' ⟨rfl, rfl⟩
            go_wp2_with fail
            with_reducible refine (blocks_any (tab lF) g2 _ q _ (HT2.out.still S8.out)).mono ?_
            rintro e w' ⟨rfl, rfl⟩
            have hqq : ((q : Int) != (q : Int)) = false := by simp
            go_wp2_with fail
            go_loopw [15] (fun i wr => ∃ s : Nat, s ≤ n1 ∧ i = .int .i64 s ∧ Still w6 wr) (fun i _ => n1 - (intOf i).toNat)
            case atStart => exact ⟨0, by omega, rfl, S8.out⟩
            case round =>
              obtain ⟨s, hs, rfl, hst⟩ := hrel
              clear S8
              have HST := Lib.hid hst
              clear hst
              by_cases hlt : s < n1
              · obtain ⟨b, o, rfl, hbl, hc⟩ := HE6.out.at (by rw [HNE1.out]; omega)
                obtain ⟨c0, c1⟩ := hc s (by rw [HNE1.out]; omega)
                clear hc c1
                have c0 : wr.cell? ⟨b, o + s * 2, none⟩ = _ := (HST.out.cell _).trans c0
                generalize (lF.getD s (0, 0)).1 = c at c0
                have HG1 : Hid (∀ q', Calls Try.prog 9 #[.pointer (some ⟨g1, 0, none⟩), .int .i32 c] (wr.drewN q') fun e w'' => e = .returned (.int .i64 (tab lF c)) ∧ ∃ m, w'' = wr.drewN m) := Lib.hid fun q' => quiet_still (get_any c (tab lF) g1 _ _ _ (tab_no lF) ((HT1b.out.still HST.out).still ⟨q', rfl⟩))
                have HG2 : Hid (∀ q', Calls Try.prog 9 #[.pointer (some ⟨g2, 0, none⟩), .int .i32 c] (wr.drewN q') fun e w'' => e = .returned (.int .i64 (tab lF c)) ∧ ∃ m, w'' = wr.drewN m) := Lib.hid fun q' => quiet_still (get_any c (tab lF) g2 _ _ _ (tab_no lF) ((HT2.out.still HST.out).still ⟨q', rfl⟩))
                have hx0 : (tab lF c != tab lF c) = false := by simp
                generalize tab lF c = x at HG1 HG2 hx0
                go_wp2_with fail
                go_quiet ((go_at_call 9; first | with_reducible exact HG1.out _ | with_reducible exact HG2.out _))
                go_wp2
                go_roundw
                case rel => exact ⟨s + 1, by omega, by go_num, HST.out.drewN _⟩
                case measure => simp [intOf]; omega
              · have hkk : s = n1 := by omega
                subst hkk
                have hlt' : ¬ (s : Int) < s := by omega
                have HBW : Hid (Below w.heap.size w wr) := Lib.hid (HB6.out.trans (HST.out.lower _))
                go_wp2_with fail
                with_reducible refine (HAW.out _).mono ?_
                rintro e w10 ⟨rfl, hb10⟩
                have HB10 := Lib.hid hb10
                clear hb10
                go_wp2
                go_ret
                exact ⟨rfl, HBW.out.trans (HB10.out.mono HBW.out.size)⟩
          · refine wpA_if (by rfl) ?_
            refine wpO_lit 22 31 1 _ rfl (.agg #[.int .i32 0, .int .i64 0]) 2 16 Try.underlying22 info_ent (by decide) (by decide) (by decide) [.agg #[.int .i32 (k : Int), .int .i64 1000]] (by simp [Act.eval]) (by simp [Value.cells]) rfl #[.int .i32 (k : Int), .int .i64 1000] (by simp [Value.cells]) ?_
            have hS' : (fun W : World => Blk W xi 31 #[.int .i32 (k : Int), .int .i64 1000]) (W1.alloc (.cells #[.int .i32 (k : Int), .int .i64 1000] 31)) := Blk.alloc hS _
            refine hK.out _ _ hS' ?_
            clear hK K
            try simp only [Act.put, List.setIfInBounds_toArray, List.set_cons_zero, List.set_cons_succ]
            clear hS
            have hS : (fun W : World => Blk W xi 31 #[.int .i32 (k : Int), .int .i64 1000]) (W1.alloc (.cells #[.int .i32 (k : Int), .int .i64 1000] 31)) := hS'
            clear hS'
            have HL' := Lib.hid (HL.out.alloc (.cells #[.int .i32 (k : Int), .int .i64 1000] 31))
            clear HL
            have HL := HL'
            clear HL'
            have K2' := Lib.hid (K2.out.alloc (.cells #[.int .i32 (k : Int), .int .i64 1000] 31))
            clear K2
            have K2 := K2'
            clear K2'
            have K6 := Lib.hid (Blk.new W1 31 #[.int .i32 (k : Int), .int .i64 1000])
            have hge6 : xi ≤ W1.heap.size := by have := (show Blk _ xi _ _ from hS).lt; simp at this; omega
            generalize W1.alloc (.cells #[.int .i32 (k : Int), .int .i64 1000] 31) = W2 at *
            generalize W1.heap.size = b6 at *
            refine wpH_one 3 (by kernel_rfl) rfl (fun K hK => ?_)
            refine wpA_if (by rfl) ?_
            refine wpO_append _ _ 22 rfl w.heap.size 31 (.agg #[.int .i32 0, .int .i64 0]) 2 16 Try.underlying22 info_ent rfl (by decide) _ _ _ rfl HL.out.own1 ⟨b2, 0, none⟩ 1 1 [.int .i32 (k : Int), .int .i64 1000] rfl rfl (blk_cells (vs := [.int .i32 (k : Int), .int .i64 1000]) K2.out) (ent_one _ _) (by simp only [maxLen]; have := HLN1.out; omega) (by have := HLN1.out; omega) HL.out.below.size ?_
            intro v3 W3 ho3 hg3 hloc
            have hS' : (fun W : World => Blk W xi 31 #[.int .i32 (k : Int), .int .i64 1000]) W3 := blk_app hS hg3 (fun e => by have := hvlt _ e; omega)
            have K6' := Lib.hid (blk_app K6.out hg3 (fun e => by have := hvlt _ e; omega))
            clear K6
            have K6 := K6'
            clear K6'
            have HL' := Lib.hid (HL.out.app1 ho3 hg3 hloc)
            clear HL
            have HL := HL'
            clear HL'
            refine hK.out _ _ hS' ?_
            clear hK K
            try simp only [Act.put, List.setIfInBounds_toArray, List.set_cons_zero, List.set_cons_succ]
            clear hS ho3 hg3 hloc
            have hS : (fun W : World => Blk W xi 31 #[.int .i32 (k : Int), .int .i64 1000]) W3 := hS'
            clear hS'
            refine wpH_one 7 (by kernel_rfl) rfl (fun K hK => ?_)
            refine wpA_if (by rfl) ?_
            refine wpO_append _ _ 22 rfl w.heap.size 31 (.agg #[.int .i32 0, .int .i64 0]) 2 16 Try.underlying22 info_ent rfl (by decide) _ _ _ rfl HL.out.own2 ⟨b6, 0, none⟩ 1 1 [.int .i32 (k : Int), .int .i64 1000] rfl rfl (blk_cells (vs := [.int .i32 (k : Int), .int .i64 1000]) K6.out) (ent_one _ _) (by simp only [maxLen]; have := HLN2.out; omega) (by have := HLN2.out; omega) HL.out.below.size ?_
            intro u3 W4 ho3 hg3 hloc
            have hS' : (fun W : World => Blk W xi 31 #[.int .i32 (k : Int), .int .i64 1000]) W4 := blk_app hS hg3 (fun e => by have := hult _ e; omega)
            have HL' := Lib.hid (HL.out.app2 ho3 hg3 hloc)
            clear HL
            have HL := HL'
            clear HL'
            refine hK.out _ _ hS' ?_
            clear hK K
            try simp only [Act.put, List.setIfInBounds_toArray, List.set_cons_zero, List.set_cons_succ]
            clear hS ho3 hg3 hloc
            have hS : (fun W : World => Blk W xi 31 #[.int .i32 (k : Int), .int .i64 1000]) W4 := hS'
            clear hS'
            refine wpH_take 8 7 (v := ?ve7) rfl rfl (by kernel_rfl) (by kernel_rfl) (by kernel_rfl) (fun _ _ _ h => h) hS (Or.inl ⟨by rfl, ?ye7⟩) ?re7
            case ye7 => (intro W hW; clear hW; go_simp; try with_reducible rfl)
            simp only [Act.put, List.setIfInBounds_toArray, List.set_cons_zero, List.set_cons_succ]
            refine wpH_take 9 8 (v := ?ve8) rfl rfl (by kernel_rfl) (by kernel_rfl) (by kernel_rfl) (fun _ _ _ h => h) hS (Or.inl ⟨by rfl, ?ye8⟩) ?re8
            case ye8 => (intro W hW; clear hW; go_simp; try with_reducible rfl)
            simp only [Act.put, List.setIfInBounds_toArray, List.set_cons_zero, List.set_cons_succ]
            refine wpH_done (by kernel_rfl) ?_ _
            clear hS hvlt hult HLN1 HLN2
            have HF1 := Lib.hid (fit_app (lents_fit zs j (by omega)) (end_fit (k := k) (by omega)))
            have HF2 := Lib.hid (fit_app (fit_app (pre_fit (k := k) (old := old) (by omega) HO.out) (lents_fit zs j (by omega))) (end_fit (k := k) (by omega)))
            have HTE := Lib.hid (tab_lpre k old (isPl_iff.2 (by omega)) (lents zs j))
            have HTK := Lib.hid (tab_end k (isPl_iff.2 (by omega)) (lents zs j))
            have HN1 : Hid ((lents zs j ++ [((k : Int), (1000 : Int))]).length = j + 1) := Lib.hid (by rw [List.length_append, lents_len]; rfl)
            have HN2 : Hid ((lpre k old ++ lents zs j ++ [((k : Int), (1000 : Int))]).length = j + 4) := Lib.hid (by rw [List.length_append, List.length_append, lents_len]; simp only [lpre, List.length_cons, List.length_nil]; omega)
            have HL : Hid (L2 w W4 (lents zs j ++ [((k : Int), (1000 : Int))]) (lpre k old ++ lents zs j ++ [((k : Int), (1000 : Int))]) v3 u3) := HL
            generalize lents zs j ++ [((k : Int), (1000 : Int))] = lF at *
            generalize lpre k old ++ lents zs j ++ [((k : Int), (1000 : Int))] = mF at *
            obtain ⟨A1, q1, rfl, hq1, hq2⟩ := own_form' HL.out.own1
            obtain ⟨A2, q2, rfl, hq3, hq4⟩ := own_form' HL.out.own2
            have HE1 := Lib.hid (Ents.own HL.out.own1)
            have HE2 := Lib.hid (Ents.own HL.out.own2)
            have HBW := Lib.hid HL.out.below
            have hsw := HL.out.below.size
            clear HL
            generalize hne1 : lF.length = n1 at *
            generalize hne2 : mF.length = n2 at *
            have HNE1 := Lib.hid hne1
            have HNE2 := Lib.hid hne2
            clear hne1 hne2
            have hn1 : n1 ≤ 110 := by have := HN1.out; omega
            have hn2 : n2 ≤ 110 := by have := HN2.out; omega
            clear HN1 HN2
            have HB1 := Lib.hid (build_any W4 A1 n1 q1 lF HNE1.out (by omega) HE1.out HF1.out)
            go_wp2_with fail
            with_reducible refine HB1.out.mono ?_
            rintro e w5 ⟨g1, U1, rfl, hd1, ht1, hb1⟩
            have hs5 := hb1.size
            have HT1 := Lib.hid ht1
            have HD1 := Lib.hid hd1
            have HB5 := Lib.hid hb1
            have HE12 := Lib.hid ((HE1.out.below hb1 (Nat.le_refl _)).more hs5)
            have HB2 := Lib.hid (build_any w5 A2 n2 q2 mF HNE2.out (by omega) ((HE2.out.below hb1 (Nat.le_refl _)).more hs5) HF2.out)
            clear hd1 ht1 hb1 HB1 HE1 HE2
            go_wp2_with fail
            with_reducible refine HB2.out.mono ?_
            rintro e w6 ⟨g2, U2, rfl, hd2, ht2, hb2⟩
            rw [HTE.out] at hd2 ht2
            rw [← HD1.out.len hd2] at ht2
            have hs6 := hb2.size
            have HT2 := Lib.hid ht2
            have HT1b := Lib.hid ((HT1.out.below hb2 (Nat.le_refl _)).more hs6)
            have HE6 := Lib.hid ((HE12.out.below hb2 (Nat.le_refl _)).more hs6)
            have HB6 := Lib.hid ((HBW.out.trans (HB5.out.mono hsw)).trans (hb2.mono (by omega)))
            clear hd2 ht2 hb2 HB2 HT1 HE12 HB5 HBW HTE HD1
            generalize U1.length = q at *
            go_wp2_with fail
            with_reducible refine (get_any (k : Int) (tab lF) g1 _ q _ (tab_no lF) HT1b.out).mono ?_
            rintro e w7 ⟨rfl, hs7⟩
            rw [HTK.out]
            have S7 := Lib.hid hs7
            clear hs7
            go_wp2_with fail
            with_reducible refine (get_any (k : Int) (tab lF) g2 _ q _ (tab_no lF) (HT2.out.still S7.out)).mono ?_
            rintro e w8 ⟨rfl, hs8⟩
            rw [HTK.out]
            have S8 := Lib.hid (S7.out.trans hs8)
            clear hs8 S7
            go_wp2_with fail
            with_reducible refine (blocks_any (tab lF) g1 _ q _ (HT1b.out.still S8.out)).mono ?_
            rintro e w' ⟨rfl, rfl⟩
            go_wp2_with fail
            with_reducible refine (blocks_any (tab lF) g2 _ q _ (HT2.out.still S8.out)).mono ?_
            rintro e w' ⟨rfl, rfl⟩
            have hqq : ((q : Int) != (q : Int)) = false := by simp
            go_wp2_with fail
            go_loopw [15] (fun i wr => ∃ s : Nat, s ≤ n1 ∧ i = .int .i64 s ∧ Still w6 wr) (fun i _ => n1 - (intOf i).toNat)
            case atStart => exact ⟨0, by omega, rfl, S8.out⟩
            case round =>
              obtain ⟨s, hs, rfl, hst⟩ := hrel
              clear S8
              have HST := Lib.hid hst
              clear hst
              by_cases hlt : s < n1
              · obtain ⟨b, o, rfl, hbl, hc⟩ := HE6.out.at (by rw [HNE1.out]; omega)
                obtain ⟨c0, c1⟩ := hc s (by rw [HNE1.out]; omega)
                clear hc c1
                have c0 : wr.cell? ⟨b, o + s * 2, none⟩ = _ := (HST.out.cell _).trans c0
                generalize (lF.getD s (0, 0)).1 = c at c0
                have HG1 : Hid (∀ q', Calls Try.prog 9 #[.pointer (some ⟨g1, 0, none⟩), .int .i32 c] (wr.drewN q') fun e w'' => e = .returned (.int .i64 (tab lF c)) ∧ ∃ m, w'' = wr.drewN m) := Lib.hid fun q' => quiet_still (get_any c (tab lF) g1 _ _ _ (tab_no lF) ((HT1b.out.still HST.out).still ⟨q', rfl⟩))
                have HG2 : Hid (∀ q', Calls Try.prog 9 #[.pointer (some ⟨g2, 0, none⟩), .int .i32 c] (wr.drewN q') fun e w'' => e = .returned (.int .i64 (tab lF c)) ∧ ∃ m, w'' = wr.drewN m) := Lib.hid fun q' => quiet_still (get_any c (tab lF) g2 _ _ _ (tab_no lF) ((HT2.out.still HST.out).still ⟨q', rfl⟩))
                have hx0 : (tab lF c != tab lF c) = false := by simp
                generalize tab lF c = x at HG1 HG2 hx0
                go_wp2_with fail
                go_quiet ((go_at_call 9; first | with_reducible exact HG1.out _ | with_reducible exact HG2.out _))
                go_wp2
                go_roundw
                case rel => exact ⟨s + 1, by omega, by go_num, HST.out.drewN _⟩
                case measure => simp [intOf]; omega
              · have hkk : s = n1 := by omega
                subst hkk
                have hlt' : ¬ (s : Int) < s := by omega
                have HBW : Hid (Below w.heap.size w wr) := Lib.hid (HB6.out.trans (HST.out.lower _))
                go_wp2_with fail
                with_reducible refine (HAW.out _).mono ?_
                rintro e w10 ⟨rfl, hb10⟩
                have HB10 := Lib.hid hb10
                clear hb10
                go_wp2
                go_ret
                exact ⟨rfl, HBW.out.trans (HB10.out.mono HBW.out.size)⟩
        · refine wpA_if (by rfl) ?_
          refine wpO_lit 22 31 1 _ rfl (.agg #[.int .i32 0, .int .i64 0]) 2 16 Try.underlying22 info_ent (by decide) (by decide) (by decide) [.agg #[.int .i32 (k : Int), .int .i64 1000]] (by simp [Act.eval]) (by simp [Value.cells]) rfl #[.int .i32 (k : Int), .int .i64 1000] (by simp [Value.cells]) ?_
          have hS' : (fun W : World => Blk W xi 31 #[.int .i32 (k : Int), .int .i64 1000]) (W0.alloc (.cells #[.int .i32 (k : Int), .int .i64 1000] 31)) := Blk.alloc hS _
          refine hK.out _ _ hS' ?_
          clear hK K
          try simp only [Act.put, List.setIfInBounds_toArray, List.set_cons_zero, List.set_cons_succ]
          clear hS
          have hS : (fun W : World => Blk W xi 31 #[.int .i32 (k : Int), .int .i64 1000]) (W0.alloc (.cells #[.int .i32 (k : Int), .int .i64 1000] 31)) := hS'
          clear hS'
          have HL' := Lib.hid (HL.out.alloc (.cells #[.int .i32 (k : Int), .int .i64 1000] 31))
          clear HL
          have HL := HL'
          clear HL'
          have K6 := Lib.hid (Blk.new W0 31 #[.int .i32 (k : Int), .int .i64 1000])
          have hge6 : xi ≤ W0.heap.size := by have := (show Blk _ xi _ _ from hS).lt; simp at this; omega
          generalize W0.alloc (.cells #[.int .i32 (k : Int), .int .i64 1000] 31) = W1 at *
          generalize W0.heap.size = b6 at *
          refine wpH_one 2 (by kernel_rfl) rfl (fun K hK => ?_)
          refine wpA_if (by rfl) ?_
          refine wpO_lit 22 31 1 _ rfl (.agg #[.int .i32 0, .int .i64 0]) 2 16 Try.underlying22 info_ent (by decide) (by decide) (by decide) [.agg #[.int .i32 (k : Int), .int .i64 1000]] (by simp [Act.eval]) (by simp [Value.cells]) rfl #[.int .i32 (k : Int), .int .i64 1000] (by simp [Value.cells]) ?_
          have hS' : (fun W : World => Blk W xi 31 #[.int .i32 (k : Int), .int .i64 1000]) (W1.alloc (.cells #[.int .i32 (k : Int), .int .i64 1000] 31)) := Blk.alloc hS _
          refine hK.out _ _ hS' ?_
          clear hK K
          try simp only [Act.put, List.setIfInBounds_toArray, List.set_cons_zero, List.set_cons_succ]
          clear hS
          have hS : (fun W : World => Blk W xi 31 #[.int .i32 (k : Int), .int .i64 1000]) (W1.alloc (.cells #[.int .i32 (k : Int), .int .i64 1000] 31)) := hS'
          clear hS'
          have HL' := Lib.hid (HL.out.alloc (.cells #[.int .i32 (k : Int), .int .i64 1000] 31))
          clear HL
          have HL := HL'
          clear HL'
          have K6' := Lib.hid (K6.out.alloc (.cells #[.int .i32 (k : Int), .int .i64 1000] 31))
          clear K6
          have K6 := K6'
          clear K6'
          have K2 := Lib.hid (Blk.new W1 31 #[.int .i32 (k : Int), .int .i64 1000])
          have hge2 : xi ≤ W1.heap.size := by have := (show Blk _ xi _ _ from hS).lt; simp at this; omega
          generalize W1.alloc (.cells #[.int .i32 (k : Int), .int .i64 1000] 31) = W2 at *
          generalize W1.heap.size = b2 at *
          refine wpH_one 3 (by kernel_rfl) rfl (fun K hK => ?_)
          refine wpA_if (by rfl) ?_
          refine wpO_append _ _ 22 rfl w.heap.size 31 (.agg #[.int .i32 0, .int .i64 0]) 2 16 Try.underlying22 info_ent rfl (by decide) _ _ _ rfl HL.out.own1 ⟨b2, 0, none⟩ 1 1 [.int .i32 (k : Int), .int .i64 1000] rfl rfl (blk_cells (vs := [.int .i32 (k : Int), .int .i64 1000]) K2.out) (ent_one _ _) (by simp only [maxLen]; have := HLN1.out; omega) (by have := HLN1.out; omega) HL.out.below.size ?_
          intro v3 W3 ho3 hg3 hloc
          have hS' : (fun W : World => Blk W xi 31 #[.int .i32 (k : Int), .int .i64 1000]) W3 := blk_app hS hg3 (fun e => by have := hvlt _ e; omega)
          have K6' := Lib.hid (blk_app K6.out hg3 (fun e => by have := hvlt _ e; omega))
          clear K6
          have K6 := K6'
          clear K6'
          have HL' := Lib.hid (HL.out.app1 ho3 hg3 hloc)
          clear HL
          have HL := HL'
          clear HL'
          refine hK.out _ _ hS' ?_
          clear hK K
          try simp only [Act.put, List.setIfInBounds_toArray, List.set_cons_zero, List.set_cons_succ]
          clear hS ho3 hg3 hloc
          have hS : (fun W : World => Blk W xi 31 #[.int .i32 (k : Int), .int .i64 1000]) W3 := hS'
          clear hS'
          refine wpH_one 7 (by kernel_rfl) rfl (fun K hK => ?_)
          refine wpA_if (by rfl) ?_
          refine wpO_append _ _ 22 rfl w.heap.size 31 (.agg #[.int .i32 0, .int .i64 0]) 2 16 Try.underlying22 info_ent rfl (by decide) _ _ _ rfl HL.out.own2 ⟨b6, 0, none⟩ 1 1 [.int .i32 (k : Int), .int .i64 1000] rfl rfl (blk_cells (vs := [.int .i32 (k : Int), .int .i64 1000]) K6.out) (ent_one _ _) (by simp only [maxLen]; have := HLN2.out; omega) (by have := HLN2.out; omega) HL.out.below.size ?_
          intro u3 W4 ho3 hg3 hloc
          have hS' : (fun W : World => Blk W xi 31 #[.int .i32 (k : Int), .int .i64 1000]) W4 := blk_app hS hg3 (fun e => by have := hult _ e; omega)
          have HL' := Lib.hid (HL.out.app2 ho3 hg3 hloc)
          clear HL
          have HL := HL'
          clear HL'
          refine hK.out _ _ hS' ?_
          clear hK K
          try simp only [Act.put, List.setIfInBounds_toArray, List.set_cons_zero, List.set_cons_succ]
          clear hS ho3 hg3 hloc
          have hS : (fun W : World => Blk W xi 31 #[.int .i32 (k : Int), .int .i64 1000]) W4 := hS'
          clear hS'
          refine wpH_take 8 7 (v := ?ve9) rfl rfl (by kernel_rfl) (by kernel_rfl) (by kernel_rfl) (fun _ _ _ h => h) hS (Or.inl ⟨by rfl, ?ye9⟩) ?re9
          case ye9 => (intro W hW; clear hW; go_simp; try with_reducible rfl)
          simp only [Act.put, List.setIfInBounds_toArray, List.set_cons_zero, List.set_cons_succ]
          refine wpH_take 9 8 (v := ?ve10) rfl rfl (by kernel_rfl) (by kernel_rfl) (by kernel_rfl) (fun _ _ _ h => h) hS (Or.inl ⟨by rfl, ?ye10⟩) ?re10
          case ye10 => (intro W hW; clear hW; go_simp; try with_reducible rfl)
          simp only [Act.put, List.setIfInBounds_toArray, List.set_cons_zero, List.set_cons_succ]
          refine wpH_done (by kernel_rfl) ?_ _
          clear hS hvlt hult HLN1 HLN2
          have HF1 := Lib.hid (fit_app (lents_fit zs j (by omega)) (end_fit (k := k) (by omega)))
          have HF2 := Lib.hid (fit_app (fit_app (pre_fit (k := k) (old := old) (by omega) HO.out) (lents_fit zs j (by omega))) (end_fit (k := k) (by omega)))
          have HTE := Lib.hid (tab_lpre k old (isPl_iff.2 (by omega)) (lents zs j))
          have HTK := Lib.hid (tab_end k (isPl_iff.2 (by omega)) (lents zs j))
          have HN1 : Hid ((lents zs j ++ [((k : Int), (1000 : Int))]).length = j + 1) := Lib.hid (by rw [List.length_append, lents_len]; rfl)
          have HN2 : Hid ((lpre k old ++ lents zs j ++ [((k : Int), (1000 : Int))]).length = j + 4) := Lib.hid (by rw [List.length_append, List.length_append, lents_len]; simp only [lpre, List.length_cons, List.length_nil]; omega)
          have HL : Hid (L2 w W4 (lents zs j ++ [((k : Int), (1000 : Int))]) (lpre k old ++ lents zs j ++ [((k : Int), (1000 : Int))]) v3 u3) := HL
          generalize lents zs j ++ [((k : Int), (1000 : Int))] = lF at *
          generalize lpre k old ++ lents zs j ++ [((k : Int), (1000 : Int))] = mF at *
          obtain ⟨A1, q1, rfl, hq1, hq2⟩ := own_form' HL.out.own1
          obtain ⟨A2, q2, rfl, hq3, hq4⟩ := own_form' HL.out.own2
          have HE1 := Lib.hid (Ents.own HL.out.own1)
          have HE2 := Lib.hid (Ents.own HL.out.own2)
          have HBW := Lib.hid HL.out.below
          have hsw := HL.out.below.size
          clear HL
          generalize hne1 : lF.length = n1 at *
          generalize hne2 : mF.length = n2 at *
          have HNE1 := Lib.hid hne1
          have HNE2 := Lib.hid hne2
          clear hne1 hne2
          have hn1 : n1 ≤ 110 := by have := HN1.out; omega
          have hn2 : n2 ≤ 110 := by have := HN2.out; omega
          clear HN1 HN2
          have HB1 := Lib.hid (build_any W4 A1 n1 q1 lF HNE1.out (by omega) HE1.out HF1.out)
          go_wp2_with fail
          with_reducible refine HB1.out.mono ?_
          rintro e w5 ⟨g1, U1, rfl, hd1, ht1, hb1⟩
          have hs5 := hb1.size
          have HT1 := Lib.hid ht1
          have HD1 := Lib.hid hd1
          have HB5 := Lib.hid hb1
          have HE12 := Lib.hid ((HE1.out.below hb1 (Nat.le_refl _)).more hs5)
          have HB2 := Lib.hid (build_any w5 A2 n2 q2 mF HNE2.out (by omega) ((HE2.out.below hb1 (Nat.le_refl _)).more hs5) HF2.out)
          clear hd1 ht1 hb1 HB1 HE1 HE2
          go_wp2_with fail
          with_reducible refine HB2.out.mono ?_
          rintro e w6 ⟨g2, U2, rfl, hd2, ht2, hb2⟩
          rw [HTE.out] at hd2 ht2
          rw [← HD1.out.len hd2] at ht2
          have hs6 := hb2.size
          have HT2 := Lib.hid ht2
          have HT1b := Lib.hid ((HT1.out.below hb2 (Nat.le_refl _)).more hs6)
          have HE6 := Lib.hid ((HE12.out.below hb2 (Nat.le_refl _)).more hs6)
          have HB6 := Lib.hid ((HBW.out.trans (HB5.out.mono hsw)).trans (hb2.mono (by omega)))
          clear hd2 ht2 hb2 HB2 HT1 HE12 HB5 HBW HTE HD1
          generalize U1.length = q at *
          go_wp2_with fail
          with_reducible refine (get_any (k : Int) (tab lF) g1 _ q _ (tab_no lF) HT1b.out).mono ?_
          rintro e w7 ⟨rfl, hs7⟩
          rw [HTK.out]
          have S7 := Lib.hid hs7
          clear hs7
          go_wp2_with fail
          with_reducible refine (get_any (k : Int) (tab lF) g2 _ q _ (tab_no lF) (HT2.out.still S7.out)).mono ?_
          rintro e w8 ⟨rfl, hs8⟩
          rw [HTK.out]
          have S8 := Lib.hid (S7.out.trans hs8)
          clear hs8 S7
          go_wp2_with fail
          with_reducible refine (blocks_any (tab lF) g1 _ q _ (HT1b.out.still S8.out)).mono ?_
          rintro e w' ⟨rfl, rfl⟩
          go_wp2_with fail
          with_reducible refine (blocks_any (tab lF) g2 _ q _ (HT2.out.still S8.out)).mono ?_
          rintro e w' ⟨rfl, rfl⟩
          have hqq : ((q : Int) != (q : Int)) = false := by simp
          go_wp2_with fail
          go_loopw [15] (fun i wr => ∃ s : Nat, s ≤ n1 ∧ i = .int .i64 s ∧ Still w6 wr) (fun i _ => n1 - (intOf i).toNat)
          case atStart => exact ⟨0, by omega, rfl, S8.out⟩
          case round =>
            obtain ⟨s, hs, rfl, hst⟩ := hrel
            clear S8
            have HST := Lib.hid hst
            clear hst
            by_cases hlt : s < n1
            · obtain ⟨b, o, rfl, hbl, hc⟩ := HE6.out.at (by rw [HNE1.out]; omega)
              obtain ⟨c0, c1⟩ := hc s (by rw [HNE1.out]; omega)
              clear hc c1
              have c0 : wr.cell? ⟨b, o + s * 2, none⟩ = _ := (HST.out.cell _).trans c0
              generalize (lF.getD s (0, 0)).1 = c at c0
              have HG1 : Hid (∀ q', Calls Try.prog 9 #[.pointer (some ⟨g1, 0, none⟩), .int .i32 c] (wr.drewN q') fun e w'' => e = .returned (.int .i64 (tab lF c)) ∧ ∃ m, w'' = wr.drewN m) := Lib.hid fun q' => quiet_still (get_any c (tab lF) g1 _ _ _ (tab_no lF) ((HT1b.out.still HST.out).still ⟨q', rfl⟩))
              have HG2 : Hid (∀ q', Calls Try.prog 9 #[.pointer (some ⟨g2, 0, none⟩), .int .i32 c] (wr.drewN q') fun e w'' => e = .returned (.int .i64 (tab lF c)) ∧ ∃ m, w'' = wr.drewN m) := Lib.hid fun q' => quiet_still (get_any c (tab lF) g2 _ _ _ (tab_no lF) ((HT2.out.still HST.out).still ⟨q', rfl⟩))
              have hx0 : (tab lF c != tab lF c) = false := by simp
              generalize tab lF c = x at HG1 HG2 hx0
              go_wp2_with fail
              go_quiet ((go_at_call 9; first | with_reducible exact HG1.out _ | with_reducible exact HG2.out _))
              go_wp2
              go_roundw
              case rel => exact ⟨s + 1, by omega, by go_num, HST.out.drewN _⟩
              case measure => simp [intOf]; omega
            · have hkk : s = n1 := by omega
              subst hkk
              have hlt' : ¬ (s : Int) < s := by omega
              have HBW : Hid (Below w.heap.size w wr) := Lib.hid (HB6.out.trans (HST.out.lower _))
              go_wp2_with fail
              with_reducible refine (HAW.out _).mono ?_
              rintro e w10 ⟨rfl, hb10⟩
              have HB10 := Lib.hid hb10
              clear hb10
              go_wp2
              go_ret
              exact ⟨rfl, HBW.out.trans (HB10.out.mono HBW.out.size)⟩
      · clear hin hj
        go_wp2_with fail
        have HL := Lib.hid ((HR.out.bel (((Below.refl _ _).alloc (Nat.le_refl _) (.cells #[.int .i32 (k : Int), .int .i64 1000] 31)).drew)))
        have hS : (fun W : World => Blk W wr.heap.size 31 #[.int .i32 (k : Int), .int .i64 1000]) (wr.alloc (.cells #[.int .i32 (k : Int), .int .i64 1000] 31)).drew := (Blk.new wr 31 #[.int .i32 (k : Int), .int .i64 1000]).drew
        have hvlt := HVL.out
        have hult := HUL.out
        clear HVL HUL HR
        generalize wr.heap.size = xi at *
        refine wp_region_H (fun W : World => Blk W xi 31 #[.int .i32 (k : Int), .int .i64 1000]) (by kernel_rfl) ?_
        generalize (wr.alloc (.cells #[.int .i32 (k : Int), .int .i64 1000] 31)).drew = W0 at *
        refine wpH_take 0 57 (v := ?vf1) rfl rfl (by kernel_rfl) (by kernel_rfl) (by kernel_rfl) (fun _ _ _ h => h) hS (Or.inl ⟨by rfl, ?yf1⟩) ?rf1
        case yf1 => (intro W hW; clear hW; go_simp; try with_reducible rfl)
        simp only [Act.put, List.setIfInBounds_toArray, List.set_cons_zero, List.set_cons_succ]
        refine wpH_take 1 58 (v := ?vf2) rfl rfl (by kernel_rfl) (by kernel_rfl) (by kernel_rfl) (fun _ _ _ h => h) hS (Or.inl ⟨by rfl, ?yf2⟩) ?rf2
        case yf2 => (intro W hW; have q0 := Blk.cell hW 0; have q1 := Blk.cell hW 1; clear hW; go_simp; try with_reducible rfl)
        simp only [Act.put, List.setIfInBounds_toArray, List.set_cons_zero, List.set_cons_succ]
        refine wpH_take 4 61 (v := ?vf3) rfl rfl (by kernel_rfl) (by kernel_rfl) (by kernel_rfl) (fun _ _ _ h => h) hS (Or.inl ⟨by rfl, ?yf3⟩) ?rf3
        case yf3 => (intro W hW; clear hW; go_simp; try with_reducible rfl)
        simp only [Act.put, List.setIfInBounds_toArray, List.set_cons_zero, List.set_cons_succ]
        refine wpH_take 5 62 (v := ?vf4) rfl rfl (by kernel_rfl) (by kernel_rfl) (by kernel_rfl) (fun _ _ _ h => h) hS (Or.inl ⟨by rfl, ?yf4⟩) ?rf4
        case yf4 => (intro W hW; have q0 := Blk.cell hW 0; have q1 := Blk.cell hW 1; clear hW; go_simp; try with_reducible rfl)
        simp only [Act.put, List.setIfInBounds_toArray, List.set_cons_zero, List.set_cons_succ]
        refine wpH_two 2 6 (by kernel_rfl) rfl rfl (fun K hK => ?_) (fun K hK => ?_)
        · refine wpA_if (by rfl) ?_
          refine wpO_lit 22 31 1 _ rfl (.agg #[.int .i32 0, .int .i64 0]) 2 16 Try.underlying22 info_ent (by decide) (by decide) (by decide) [.agg #[.int .i32 (k : Int), .int .i64 1000]] (by simp [Act.eval]) (by simp [Value.cells]) rfl #[.int .i32 (k : Int), .int .i64 1000] (by simp [Value.cells]) ?_
          have hS' : (fun W : World => Blk W xi 31 #[.int .i32 (k : Int), .int .i64 1000]) (W0.alloc (.cells #[.int .i32 (k : Int), .int .i64 1000] 31)) := Blk.alloc hS _
          refine hK.out _ _ hS' ?_
          clear hK K
          try simp only [Act.put, List.setIfInBounds_toArray, List.set_cons_zero, List.set_cons_succ]
          clear hS
          have hS : (fun W : World => Blk W xi 31 #[.int .i32 (k : Int), .int .i64 1000]) (W0.alloc (.cells #[.int .i32 (k : Int), .int .i64 1000] 31)) := hS'
          clear hS'
          have HL' := Lib.hid (HL.out.alloc (.cells #[.int .i32 (k : Int), .int .i64 1000] 31))
          clear HL
          have HL := HL'
          clear HL'
          have K2 := Lib.hid (Blk.new W0 31 #[.int .i32 (k : Int), .int .i64 1000])
          have hge2 : xi ≤ W0.heap.size := by have := (show Blk _ xi _ _ from hS).lt; simp at this; omega
          generalize W0.alloc (.cells #[.int .i32 (k : Int), .int .i64 1000] 31) = W1 at *
          generalize W0.heap.size = b2 at *
          refine wpH_two 3 6 (by kernel_rfl) rfl rfl (fun K hK => ?_) (fun K hK => ?_)
          · refine wpA_if (by rfl) ?_
            refine wpO_append _ _ 22 rfl w.heap.size 31 (.agg #[.int .i32 0, .int .i64 0]) 2 16 Try.underlying22 info_ent rfl (by decide) _ _ _ rfl HL.out.own1 ⟨b2, 0, none⟩ 1 1 [.int .i32 (k : Int), .int .i64 1000] rfl rfl (blk_cells (vs := [.int .i32 (k : Int), .int .i64 1000]) K2.out) (ent_one _ _) (by simp only [maxLen]; have := HLN1.out; omega) (by have := HLN1.out; omega) HL.out.below.size ?_
            intro v3 W2 ho3 hg3 hloc
            have hS' : (fun W : World => Blk W xi 31 #[.int .i32 (k : Int), .int .i64 1000]) W2 := blk_app hS hg3 (fun e => by have := hvlt _ e; omega)
            have HL' := Lib.hid (HL.out.app1 ho3 hg3 hloc)
            clear HL
            have HL := HL'
            clear HL'
            refine hK.out _ _ hS' ?_
            clear hK K
            try simp only [Act.put, List.setIfInBounds_toArray, List.set_cons_zero, List.set_cons_succ]
            clear hS ho3 hg3 hloc
            have hS : (fun W : World => Blk W xi 31 #[.int .i32 (k : Int), .int .i64 1000]) W2 := hS'
            clear hS'
            refine wpH_one 6 (by kernel_rfl) rfl (fun K hK => ?_)
            refine wpA_if (by rfl) ?_
            refine wpO_lit 22 31 1 _ rfl (.agg #[.int .i32 0, .int .i64 0]) 2 16 Try.underlying22 info_ent (by decide) (by decide) (by decide) [.agg #[.int .i32 (k : Int), .int .i64 1000]] (by simp [Act.eval]) (by simp [Value.cells]) rfl #[.int .i32 (k : Int), .int .i64 1000] (by simp [Value.cells]) ?_
            have hS' : (fun W : World => Blk W xi 31 #[.int .i32 (k : Int), .int .i64 1000]) (W2.alloc (.cells #[.int .i32 (k : Int), .int .i64 1000] 31)) := Blk.alloc hS _
            refine hK.out _ _ hS' ?_
            clear hK K
            try simp only [Act.put, List.setIfInBounds_toArray, List.set_cons_zero, List.set_cons_succ]
            clear hS
            have hS : (fun W : World => Blk W xi 31 #[.int .i32 (k : Int), .int .i64 1000]) (W2.alloc (.cells #[.int .i32 (k : Int), .int .i64 1000] 31)) := hS'
            clear hS'
            have HL' := Lib.hid (HL.out.alloc (.cells #[.int .i32 (k : Int), .int .i64 1000] 31))
            clear HL
            have HL := HL'
            clear HL'
            have K6 := Lib.hid (Blk.new W2 31 #[.int .i32 (k : Int), .int .i64 1000])
            have hge6 : xi ≤ W2.heap.size := by have := (show Blk _ xi _ _ from hS).lt; simp at this; omega
            generalize W2.alloc (.cells #[.int .i32 (k : Int), .int .i64 1000] 31) = W3 at *
            generalize W2.heap.size = b6 at *
            refine wpH_one 7 (by kernel_rfl) rfl (fun K hK => ?_)
            refine wpA_if (by rfl) ?_
            refine wpO_append _ _ 22 rfl w.heap.size 31 (.agg #[.int .i32 0, .int .i64 0]) 2 16 Try.underlying22 info_ent rfl (by decide) _ _ _ rfl HL.out.own2 ⟨b6, 0, none⟩ 1 1 [.int .i32 (k : Int), .int .i64 1000] rfl rfl (blk_cells (vs := [.int .i32 (k : Int), .int .i64 1000]) K6.out) (ent_one _ _) (by simp only [maxLen]; have := HLN2.out; omega) (by have := HLN2.out; omega) HL.out.below.size ?_
            intro u3 W4 ho3 hg3 hloc
            have hS' : (fun W : World => Blk W xi 31 #[.int .i32 (k : Int), .int .i64 1000]) W4 := blk_app hS hg3 (fun e => by have := hult _ e; omega)
            have HL' := Lib.hid (HL.out.app2 ho3 hg3 hloc)
            clear HL
            have HL := HL'
            clear HL'
            refine hK.out _ _ hS' ?_
            clear hK K
            try simp only [Act.put, List.setIfInBounds_toArray, List.set_cons_zero, List.set_cons_succ]
            clear hS ho3 hg3 hloc
            have hS : (fun W : World => Blk W xi 31 #[.int .i32 (k : Int), .int .i64 1000]) W4 := hS'
            clear hS'
            refine wpH_take 8 7 (v := ?vf5) rfl rfl (by kernel_rfl) (by kernel_rfl) (by kernel_rfl) (fun _ _ _ h => h) hS (Or.inl ⟨by rfl, ?yf5⟩) ?rf5
            case yf5 => (intro W hW; clear hW; go_simp; try with_reducible rfl)
            simp only [Act.put, List.setIfInBounds_toArray, List.set_cons_zero, List.set_cons_succ]
            refine wpH_take 9 8 (v := ?vf6) rfl rfl (by kernel_rfl) (by kernel_rfl) (by kernel_rfl) (fun _ _ _ h => h) hS (Or.inl ⟨by rfl, ?yf6⟩) ?rf6
            case yf6 => (intro W hW; clear hW; go_simp; try with_reducible rfl)
            simp only [Act.put, List.setIfInBounds_toArray, List.set_cons_zero, List.set_cons_succ]
            refine wpH_done (by kernel_rfl) ?_ _
            clear hS hvlt hult HLN1 HLN2
            have HF1 := Lib.hid (fit_app (lents_fit zs j (by omega)) (end_fit (k := k) (by omega)))
            have HF2 := Lib.hid (fit_app (fit_app (pre_fit (k := k) (old := old) (by omega) HO.out) (lents_fit zs j (by omega))) (end_fit (k := k) (by omega)))
            have HTE := Lib.hid (tab_lpre k old (isPl_iff.2 (by omega)) (lents zs j))
            have HTK := Lib.hid (tab_end k (isPl_iff.2 (by omega)) (lents zs j))
            have HN1 : Hid ((lents zs j ++ [((k : Int), (1000 : Int))]).length = j + 1) := Lib.hid (by rw [List.length_append, lents_len]; rfl)
            have HN2 : Hid ((lpre k old ++ lents zs j ++ [((k : Int), (1000 : Int))]).length = j + 4) := Lib.hid (by rw [List.length_append, List.length_append, lents_len]; simp only [lpre, List.length_cons, List.length_nil]; omega)
            have HL : Hid (L2 w W4 (lents zs j ++ [((k : Int), (1000 : Int))]) (lpre k old ++ lents zs j ++ [((k : Int), (1000 : Int))]) v3 u3) := HL
            generalize lents zs j ++ [((k : Int), (1000 : Int))] = lF at *
            generalize lpre k old ++ lents zs j ++ [((k : Int), (1000 : Int))] = mF at *
            obtain ⟨A1, q1, rfl, hq1, hq2⟩ := own_form' HL.out.own1
            obtain ⟨A2, q2, rfl, hq3, hq4⟩ := own_form' HL.out.own2
            have HE1 := Lib.hid (Ents.own HL.out.own1)
            have HE2 := Lib.hid (Ents.own HL.out.own2)
            have HBW := Lib.hid HL.out.below
            have hsw := HL.out.below.size
            clear HL
            generalize hne1 : lF.length = n1 at *
            generalize hne2 : mF.length = n2 at *
            have HNE1 := Lib.hid hne1
            have HNE2 := Lib.hid hne2
            clear hne1 hne2
            have hn1 : n1 ≤ 110 := by have := HN1.out; omega
            have hn2 : n2 ≤ 110 := by have := HN2.out; omega
            clear HN1 HN2
            have HB1 := Lib.hid (build_any W4 A1 n1 q1 lF HNE1.out (by omega) HE1.out HF1.out)
            go_wp2_with fail
            with_reducible refine HB1.out.mono ?_
            rintro e w5 ⟨g1, U1, rfl, hd1, ht1, hb1⟩
            have hs5 := hb1.size
            have HT1 := Lib.hid ht1
            have HD1 := Lib.hid hd1
            have HB5 := Lib.hid hb1
            have HE12 := Lib.hid ((HE1.out.below hb1 (Nat.le_refl _)).more hs5)
            have HB2 := Lib.hid (build_any w5 A2 n2 q2 mF HNE2.out (by omega) ((HE2.out.below hb1 (Nat.le_refl _)).more hs5) HF2.out)
            clear hd1 ht1 hb1 HB1 HE1 HE2
            go_wp2_with fail
            with_reducible refine HB2.out.mono ?_
            rintro e w6 ⟨g2, U2, rfl, hd2, ht2, hb2⟩
            rw [HTE.out] at hd2 ht2
            rw [← HD1.out.len hd2] at ht2
            have hs6 := hb2.size
            have HT2 := Lib.hid ht2
            have HT1b := Lib.hid ((HT1.out.below hb2 (Nat.le_refl _)).more hs6)
            have HE6 := Lib.hid ((HE12.out.below hb2 (Nat.le_refl _)).more hs6)
            have HB6 := Lib.hid ((HBW.out.trans (HB5.out.mono hsw)).trans (hb2.mono (by omega)))
            clear hd2 ht2 hb2 HB2 HT1 HE12 HB5 HBW HTE HD1
            generalize U1.length = q at *
            go_wp2_with fail
            with_reducible refine (get_any (k : Int) (tab lF) g1 _ q _ (tab_no lF) HT1b.out).mono ?_
            rintro e w7 ⟨rfl, hs7⟩
            rw [HTK.out]
            have S7 := Lib.hid hs7
            clear hs7
            go_wp2_with fail
            with_reducible refine (get_any (k : Int) (tab lF) g2 _ q _ (tab_no lF) (HT2.out.still S7.out)).mono ?_
            rintro e w8 ⟨rfl, hs8⟩
            rw [HTK.out]
            have S8 := Lib.hid (S7.out.trans hs8)
            clear hs8 S7
            go_wp2_with fail
            with_reducible refine (blocks_any (tab lF) g1 _ q _ (HT1b.out.still S8.out)).mono ?_
            rintro e w' ⟨rfl, rfl⟩
            go_wp2_with fail
            with_reducible refine (blocks_any (tab lF) g2 _ q _ (HT2.out.still S8.out)).mono ?_
            rintro e w' ⟨rfl, rfl⟩
            have hqq : ((q : Int) != (q : Int)) = false := by simp
            go_wp2_with fail
            go_loopw [15] (fun i wr => ∃ s : Nat, s ≤ n1 ∧ i = .int .i64 s ∧ Still w6 wr) (fun i _ => n1 - (intOf i).toNat)
            case atStart => exact ⟨0, by omega, rfl, S8.out⟩
            case round =>
              obtain ⟨s, hs, rfl, hst⟩ := hrel
              clear S8
              have HST := Lib.hid hst
              clear hst
              by_cases hlt : s < n1
              · obtain ⟨b, o, rfl, hbl, hc⟩ := HE6.out.at (by rw [HNE1.out]; omega)
                obtain ⟨c0, c1⟩ := hc s (by rw [HNE1.out]; omega)
                clear hc c1
                have c0 : wr.cell? ⟨b, o + s * 2, none⟩ = _ := (HST.out.cell _).trans c0
                generalize (lF.getD s (0, 0)).1 = c at c0
                have HG1 : Hid (∀ q', Calls Try.prog 9 #[.pointer (some ⟨g1, 0, none⟩), .int .i32 c] (wr.drewN q') fun e w'' => e = .returned (.int .i64 (tab lF c)) ∧ ∃ m, w'' = wr.drewN m) := Lib.hid fun q' => quiet_still (get_any c (tab lF) g1 _ _ _ (tab_no lF) ((HT1b.out.still HST.out).still ⟨q', rfl⟩))
                have HG2 : Hid (∀ q', Calls Try.prog 9 #[.pointer (some ⟨g2, 0, none⟩), .int .i32 c] (wr.drewN q') fun e w'' => e = .returned (.int .i64 (tab lF c)) ∧ ∃ m, w'' = wr.drewN m) := Lib.hid fun q' => quiet_still (get_any c (tab lF) g2 _ _ _ (tab_no lF) ((HT2.out.still HST.out).still ⟨q', rfl⟩))
                have hx0 : (tab lF c != tab lF c) = false := by simp
                generalize tab lF c = x at HG1 HG2 hx0
                go_wp2_with fail
                go_quiet ((go_at_call 9; first | with_reducible exact HG1.out _ | with_reducible exact HG2.out _))
                go_wp2
                go_roundw
                case rel => exact ⟨s + 1, by omega, by go_num, HST.out.drewN _⟩
                case measure => simp [intOf]; omega
              · have hkk : s = n1 := by omega
                subst hkk
                have hlt' : ¬ (s : Int) < s := by omega
                have HBW : Hid (Below w.heap.size w wr) := Lib.hid (HB6.out.trans (HST.out.lower _))
                go_wp2_with fail
                with_reducible refine (HAW.out _).mono ?_
                rintro e w10 ⟨rfl, hb10⟩
                have HB10 := Lib.hid hb10
                clear hb10
                go_wp2
                go_ret
                exact ⟨rfl, HBW.out.trans (HB10.out.mono HBW.out.size)⟩
          · refine wpA_if (by rfl) ?_
            refine wpO_lit 22 31 1 _ rfl (.agg #[.int .i32 0, .int .i64 0]) 2 16 Try.underlying22 info_ent (by decide) (by decide) (by decide) [.agg #[.int .i32 (k : Int), .int .i64 1000]] (by simp [Act.eval]) (by simp [Value.cells]) rfl #[.int .i32 (k : Int), .int .i64 1000] (by simp [Value.cells]) ?_
            have hS' : (fun W : World => Blk W xi 31 #[.int .i32 (k : Int), .int .i64 1000]) (W1.alloc (.cells #[.int .i32 (k : Int), .int .i64 1000] 31)) := Blk.alloc hS _
            refine hK.out _ _ hS' ?_
            clear hK K
            try simp only [Act.put, List.setIfInBounds_toArray, List.set_cons_zero, List.set_cons_succ]
            clear hS
            have hS : (fun W : World => Blk W xi 31 #[.int .i32 (k : Int), .int .i64 1000]) (W1.alloc (.cells #[.int .i32 (k : Int), .int .i64 1000] 31)) := hS'
            clear hS'
            have HL' := Lib.hid (HL.out.alloc (.cells #[.int .i32 (k : Int), .int .i64 1000] 31))
            clear HL
            have HL := HL'
            clear HL'
            have K2' := Lib.hid (K2.out.alloc (.cells #[.int .i32 (k : Int), .int .i64 1000] 31))
            clear K2
            have K2 := K2'
            clear K2'
            have K6 := Lib.hid (Blk.new W1 31 #[.int .i32 (k : Int), .int .i64 1000])
            have hge6 : xi ≤ W1.heap.size := by have := (show Blk _ xi _ _ from hS).lt; simp at this; omega
            generalize W1.alloc (.cells #[.int .i32 (k : Int), .int .i64 1000] 31) = W2 at *
            generalize W1.heap.size = b6 at *
            refine wpH_one 3 (by kernel_rfl) rfl (fun K hK => ?_)
            refine wpA_if (by rfl) ?_
            refine wpO_append _ _ 22 rfl w.heap.size 31 (.agg #[.int .i32 0, .int .i64 0]) 2 16 Try.underlying22 info_ent rfl (by decide) _ _ _ rfl HL.out.own1 ⟨b2, 0, none⟩ 1 1 [.int .i32 (k : Int), .int .i64 1000] rfl rfl (blk_cells (vs := [.int .i32 (k : Int), .int .i64 1000]) K2.out) (ent_one _ _) (by simp only [maxLen]; have := HLN1.out; omega) (by have := HLN1.out; omega) HL.out.below.size ?_
            intro v3 W3 ho3 hg3 hloc
            have hS' : (fun W : World => Blk W xi 31 #[.int .i32 (k : Int), .int .i64 1000]) W3 := blk_app hS hg3 (fun e => by have := hvlt _ e; omega)
            have K6' := Lib.hid (blk_app K6.out hg3 (fun e => by have := hvlt _ e; omega))
            clear K6
            have K6 := K6'
            clear K6'
            have HL' := Lib.hid (HL.out.app1 ho3 hg3 hloc)
            clear HL
            have HL := HL'
            clear HL'
            refine hK.out _ _ hS' ?_
            clear hK K
            try simp only [Act.put, List.setIfInBounds_toArray, List.set_cons_zero, List.set_cons_succ]
            clear hS ho3 hg3 hloc
            have hS : (fun W : World => Blk W xi 31 #[.int .i32 (k : Int), .int .i64 1000]) W3 := hS'
            clear hS'
            refine wpH_one 7 (by kernel_rfl) rfl (fun K hK => ?_)
            refine wpA_if (by rfl) ?_
            refine wpO_append _ _ 22 rfl w.heap.size 31 (.agg #[.int .i32 0, .int .i64 0]) 2 16 Try.underlying22 info_ent rfl (by decide) _ _ _ rfl HL.out.own2 ⟨b6, 0, none⟩ 1 1 [.int .i32 (k : Int), .int .i64 1000] rfl rfl (blk_cells (vs := [.int .i32 (k : Int), .int .i64 1000]) K6.out) (ent_one _ _) (by simp only [maxLen]; have := HLN2.out; omega) (by have := HLN2.out; omega) HL.out.below.size ?_
            intro u3 W4 ho3 hg3 hloc
            have hS' : (fun W : World => Blk W xi 31 #[.int .i32 (k : Int), .int .i64 1000]) W4 := blk_app hS hg3 (fun e => by have := hult _ e; omega)
            have HL' := Lib.hid (HL.out.app2 ho3 hg3 hloc)
            clear HL
            have HL := HL'
            clear HL'
            refine hK.out _ _ hS' ?_
            clear hK K
            try simp only [Act.put, List.setIfInBounds_toArray, List.set_cons_zero, List.set_cons_succ]
            clear hS ho3 hg3 hloc
            have hS : (fun W : World => Blk W xi 31 #[.int .i32 (k : Int), .int .i64 1000]) W4 := hS'
            clear hS'
            refine wpH_take 8 7 (v := ?vf7) rfl rfl (by kernel_rfl) (by kernel_rfl) (by kernel_rfl) (fun _ _ _ h => h) hS (Or.inl ⟨by rfl, ?yf7⟩) ?rf7
            case yf7 => (intro W hW; clear hW; go_simp; try with_reducible rfl)
            simp only [Act.put, List.setIfInBounds_toArray, List.set_cons_zero, List.set_cons_succ]
            refine wpH_take 9 8 (v := ?vf8) rfl rfl (by kernel_rfl) (by kernel_rfl) (by kernel_rfl) (fun _ _ _ h => h) hS (Or.inl ⟨by rfl, ?yf8⟩) ?rf8
            case yf8 => (intro W hW; clear hW; go_simp; try with_reducible rfl)
            simp only [Act.put, List.setIfInBounds_toArray, List.set_cons_zero, List.set_cons_succ]
            refine wpH_done (by kernel_rfl) ?_ _
            clear hS hvlt hult HLN1 HLN2
            have HF1 := Lib.hid (fit_app (lents_fit zs j (by omega)) (end_fit (k := k) (by omega)))
            have HF2 := Lib.hid (fit_app (fit_app (pre_fit (k := k) (old := old) (by omega) HO.out) (lents_fit zs j (by omega))) (end_fit (k := k) (by omega)))
            have HTE := Lib.hid (tab_lpre k old (isPl_iff.2 (by omega)) (lents zs j))
            have HTK := Lib.hid (tab_end k (isPl_iff.2 (by omega)) (lents zs j))
            have HN1 : Hid ((lents zs j ++ [((k : Int), (1000 : Int))]).length = j + 1) := Lib.hid (by rw [List.length_append, lents_len]; rfl)
            have HN2 : Hid ((lpre k old ++ lents zs j ++ [((k : Int), (1000 : Int))]).length = j + 4) := Lib.hid (by rw [List.length_append, List.length_append, lents_len]; simp only [lpre, List.length_cons, List.length_nil]; omega)
            have HL : Hid (L2 w W4 (lents zs j ++ [((k : Int), (1000 : Int))]) (lpre k old ++ lents zs j ++ [((k : Int), (1000 : Int))]) v3 u3) := HL
            generalize lents zs j ++ [((k : Int), (1000 : Int))] = lF at *
            generalize lpre k old ++ lents zs j ++ [((k : Int), (1000 : Int))] = mF at *
            obtain ⟨A1, q1, rfl, hq1, hq2⟩ := own_form' HL.out.own1
            obtain ⟨A2, q2, rfl, hq3, hq4⟩ := own_form' HL.out.own2
            have HE1 := Lib.hid (Ents.own HL.out.own1)
            have HE2 := Lib.hid (Ents.own HL.out.own2)
            have HBW := Lib.hid HL.out.below
            have hsw := HL.out.below.size
            clear HL
            generalize hne1 : lF.length = n1 at *
            generalize hne2 : mF.length = n2 at *
            have HNE1 := Lib.hid hne1
            have HNE2 := Lib.hid hne2
            clear hne1 hne2
            have hn1 : n1 ≤ 110 := by have := HN1.out; omega
            have hn2 : n2 ≤ 110 := by have := HN2.out; omega
            clear HN1 HN2
            have HB1 := Lib.hid (build_any W4 A1 n1 q1 lF HNE1.out (by omega) HE1.out HF1.out)
            go_wp2_with fail
            with_reducible refine HB1.out.mono ?_
            rintro e w5 ⟨g1, U1, rfl, hd1, ht1, hb1⟩
            have hs5 := hb1.size
            have HT1 := Lib.hid ht1
            have HD1 := Lib.hid hd1
            have HB5 := Lib.hid hb1
            have HE12 := Lib.hid ((HE1.out.below hb1 (Nat.le_refl _)).more hs5)
            have HB2 := Lib.hid (build_any w5 A2 n2 q2 mF HNE2.out (by omega) ((HE2.out.below hb1 (Nat.le_refl _)).more hs5) HF2.out)
            clear hd1 ht1 hb1 HB1 HE1 HE2
            go_wp2_with fail
            with_reducible refine HB2.out.mono ?_
            rintro e w6 ⟨g2, U2, rfl, hd2, ht2, hb2⟩
            rw [HTE.out] at hd2 ht2
            rw [← HD1.out.len hd2] at ht2
            have hs6 := hb2.size
            have HT2 := Lib.hid ht2
            have HT1b := Lib.hid ((HT1.out.below hb2 (Nat.le_refl _)).more hs6)
            have HE6 := Lib.hid ((HE12.out.below hb2 (Nat.le_refl _)).more hs6)
            have HB6 := Lib.hid ((HBW.out.trans (HB5.out.mono hsw)).trans (hb2.mono (by omega)))
            clear hd2 ht2 hb2 HB2 HT1 HE12 HB5 HBW HTE HD1
            generalize U1.length = q at *
            go_wp2_with fail
            with_reducible refine (get_any (k : Int) (tab lF) g1 _ q _ (tab_no lF) HT1b.out).mono ?_
            rintro e w7 ⟨rfl, hs7⟩
            rw [HTK.out]
            have S7 := Lib.hid hs7
            clear hs7
            go_wp2_with fail
            with_reducible refine (get_any (k : Int) (tab lF) g2 _ q _ (tab_no lF) (HT2.out.still S7.out)).mono ?_
            rintro e w8 ⟨rfl, hs8⟩
            rw [HTK.out]
            have S8 := Lib.hid (S7.out.trans hs8)
            clear hs8 S7
            go_wp2_with fail
            with_reducible refine (blocks_any (tab lF) g1 _ q _ (HT1b.out.still S8.out)).mono ?_
            rintro e w' ⟨rfl, rfl⟩
            go_wp2_with fail
            with_reducible refine (blocks_any (tab lF) g2 _ q _ (HT2.out.still S8.out)).mono ?_
            rintro e w' ⟨rfl, rfl⟩
            have hqq : ((q : Int) != (q : Int)) = false := by simp
            go_wp2_with fail
            go_loopw [15] (fun i wr => ∃ s : Nat, s ≤ n1 ∧ i = .int .i64 s ∧ Still w6 wr) (fun i _ => n1 - (intOf i).toNat)
            case atStart => exact ⟨0, by omega, rfl, S8.out⟩
            case round =>
              obtain ⟨s, hs, rfl, hst⟩ := hrel
              clear S8
              have HST := Lib.hid hst
              clear hst
              by_cases hlt : s < n1
              · obtain ⟨b, o, rfl, hbl, hc⟩ := HE6.out.at (by rw [HNE1.out]; omega)
                obtain ⟨c0, c1⟩ := hc s (by rw [HNE1.out]; omega)
                clear hc c1
                have c0 : wr.cell? ⟨b, o + s * 2, none⟩ = _ := (HST.out.cell _).trans c0
                generalize (lF.getD s (0, 0)).1 = c at c0
                have HG1 : Hid (∀ q', Calls Try.prog 9 #[.pointer (some ⟨g1, 0, none⟩), .int .i32 c] (wr.drewN q') fun e w'' => e = .returned (.int .i64 (tab lF c)) ∧ ∃ m, w'' = wr.drewN m) := Lib.hid fun q' => quiet_still (get_any c (tab lF) g1 _ _ _ (tab_no lF) ((HT1b.out.still HST.out).still ⟨q', rfl⟩))
                have HG2 : Hid (∀ q', Calls Try.prog 9 #[.pointer (some ⟨g2, 0, none⟩), .int .i32 c] (wr.drewN q') fun e w'' => e = .returned (.int .i64 (tab lF c)) ∧ ∃ m, w'' = wr.drewN m) := Lib.hid fun q' => quiet_still (get_any c (tab lF) g2 _ _ _ (tab_no lF) ((HT2.out.still HST.out).still ⟨q', rfl⟩))
                have hx0 : (tab lF c != tab lF c) = false := by simp
                generalize tab lF c = x at HG1 HG2 hx0
                go_wp2_with fail
                go_quiet ((go_at_call 9; first | with_reducible exact HG1.out _ | with_reducible exact HG2.out _))
                go_wp2
                go_roundw
                case rel => exact ⟨s + 1, by omega, by go_num, HST.out.drewN _⟩
                case measure => simp [intOf]; omega
              · have hkk : s = n1 := by omega
                subst hkk
                have hlt' : ¬ (s : Int) < s := by omega
                have HBW : Hid (Below w.heap.size w wr) := Lib.hid (HB6.out.trans (HST.out.lower _))
                go_wp2_with fail
                with_reducible refine (HAW.out _).mono ?_
                rintro e w10 ⟨rfl, hb10⟩
                have HB10 := Lib.hid hb10
                clear hb10
                go_wp2
                go_ret
                exact ⟨rfl, HBW.out.trans (HB10.out.mono HBW.out.size)⟩
        · refine wpA_if (by rfl) ?_
          refine wpO_lit 22 31 1 _ rfl (.agg #[.int .i32 0, .int .i64 0]) 2 16 Try.underlying22 info_ent (by decide) (by decide) (by decide) [.agg #[.int .i32 (k : Int), .int .i64 1000]] (by simp [Act.eval]) (by simp [Value.cells]) rfl #[.int .i32 (k : Int), .int .i64 1000] (by simp [Value.cells]) ?_
          have hS' : (fun W : World => Blk W xi 31 #[.int .i32 (k : Int), .int .i64 1000]) (W0.alloc (.cells #[.int .i32 (k : Int), .int .i64 1000] 31)) := Blk.alloc hS _
          refine hK.out _ _ hS' ?_
          clear hK K
          try simp only [Act.put, List.setIfInBounds_toArray, List.set_cons_zero, List.set_cons_succ]
          clear hS
          have hS : (fun W : World => Blk W xi 31 #[.int .i32 (k : Int), .int .i64 1000]) (W0.alloc (.cells #[.int .i32 (k : Int), .int .i64 1000] 31)) := hS'
          clear hS'
          have HL' := Lib.hid (HL.out.alloc (.cells #[.int .i32 (k : Int), .int .i64 1000] 31))
          clear HL
          have HL := HL'
          clear HL'
          have K6 := Lib.hid (Blk.new W0 31 #[.int .i32 (k : Int), .int .i64 1000])
          have hge6 : xi ≤ W0.heap.size := by have := (show Blk _ xi _ _ from hS).lt; simp at this; omega
          generalize W0.alloc (.cells #[.int .i32 (k : Int), .int .i64 1000] 31) = W1 at *
          generalize W0.heap.size = b6 at *
          refine wpH_one 2 (by kernel_rfl) rfl (fun K hK => ?_)
          refine wpA_if (by rfl) ?_
          refine wpO_lit 22 31 1 _ rfl (.agg #[.int .i32 0, .int .i64 0]) 2 16 Try.underlying22 info_ent (by decide) (by decide) (by decide) [.agg #[.int .i32 (k : Int), .int .i64 1000]] (by simp [Act.eval]) (by simp [Value.cells]) rfl #[.int .i32 (k : Int), .int .i64 1000] (by simp [Value.cells]) ?_
          have hS' : (fun W : World => Blk W xi 31 #[.int .i32 (k : Int), .int .i64 1000]) (W1.alloc (.cells #[.int .i32 (k : Int), .int .i64 1000] 31)) := Blk.alloc hS _
          refine hK.out _ _ hS' ?_
          clear hK K
          try simp only [Act.put, List.setIfInBounds_toArray, List.set_cons_zero, List.set_cons_succ]
          clear hS
          have hS : (fun W : World => Blk W xi 31 #[.int .i32 (k : Int), .int .i64 1000]) (W1.alloc (.cells #[.int .i32 (k : Int), .int .i64 1000] 31)) := hS'
          clear hS'
          have HL' := Lib.hid (HL.out.alloc (.cells #[.int .i32 (k : Int), .int .i64 1000] 31))
          clear HL
          have HL := HL'
          clear HL'
          have K6' := Lib.hid (K6.out.alloc (.cells #[.int .i32 (k : Int), .int .i64 1000] 31))
          clear K6
          have K6 := K6'
          clear K6'
          have K2 := Lib.hid (Blk.new W1 31 #[.int .i32 (k : Int), .int .i64 1000])
          have hge2 : xi ≤ W1.heap.size := by have := (show Blk _ xi _ _ from hS).lt; simp at this; omega
          generalize W1.alloc (.cells #[.int .i32 (k : Int), .int .i64 1000] 31) = W2 at *
          generalize W1.heap.size = b2 at *
          refine wpH_one 3 (by kernel_rfl) rfl (fun K hK => ?_)
          refine wpA_if (by rfl) ?_
          refine wpO_append _ _ 22 rfl w.heap.size 31 (.agg #[.int .i32 0, .int .i64 0]) 2 16 Try.underlying22 info_ent rfl (by decide) _ _ _ rfl HL.out.own1 ⟨b2, 0, none⟩ 1 1 [.int .i32 (k : Int), .int .i64 1000] rfl rfl (blk_cells (vs := [.int .i32 (k : Int), .int .i64 1000]) K2.out) (ent_one _ _) (by simp only [maxLen]; have := HLN1.out; omega) (by have := HLN1.out; omega) HL.out.below.size ?_
          intro v3 W3 ho3 hg3 hloc
          have hS' : (fun W : World => Blk W xi 31 #[.int .i32 (k : Int), .int .i64 1000]) W3 := blk_app hS hg3 (fun e => by have := hvlt _ e; omega)
          have K6' := Lib.hid (blk_app K6.out hg3 (fun e => by have := hvlt _ e; omega))
          clear K6
          have K6 := K6'
          clear K6'
          have HL' := Lib.hid (HL.out.app1 ho3 hg3 hloc)
          clear HL
          have HL := HL'
          clear HL'
          refine hK.out _ _ hS' ?_
          clear hK K
          try simp only [Act.put, List.setIfInBounds_toArray, List.set_cons_zero, List.set_cons_succ]
          clear hS ho3 hg3 hloc
          have hS : (fun W : World => Blk W xi 31 #[.int .i32 (k : Int), .int .i64 1000]) W3 := hS'
          clear hS'
          refine wpH_one 7 (by kernel_rfl) rfl (fun K hK => ?_)
          refine wpA_if (by rfl) ?_
          refine wpO_append _ _ 22 rfl w.heap.size 31 (.agg #[.int .i32 0, .int .i64 0]) 2 16 Try.underlying22 info_ent rfl (by decide) _ _ _ rfl HL.out.own2 ⟨b6, 0, none⟩ 1 1 [.int .i32 (k : Int), .int .i64 1000] rfl rfl (blk_cells (vs := [.int .i32 (k : Int), .int .i64 1000]) K6.out) (ent_one _ _) (by simp only [maxLen]; have := HLN2.out; omega) (by have := HLN2.out; omega) HL.out.below.size ?_
          intro u3 W4 ho3 hg3 hloc
          have hS' : (fun W : World => Blk W xi 31 #[.int .i32 (k : Int), .int .i64 1000]) W4 := blk_app hS hg3 (fun e => by have := hult _ e; omega)
          have HL' := Lib.hid (HL.out.app2 ho3 hg3 hloc)
          clear HL
          have HL := HL'
          clear HL'
          refine hK.out _ _ hS' ?_
          clear hK K
          try simp only [Act.put, List.setIfInBounds_toArray, List.set_cons_zero, List.set_cons_succ]
          clear hS ho3 hg3 hloc
          have hS : (fun W : World => Blk W xi 31 #[.int .i32 (k : Int), .int .i64 1000]) W4 := hS'
          clear hS'
          refine wpH_take 8 7 (v := ?vf9) rfl rfl (by kernel_rfl) (by kernel_rfl) (by kernel_rfl) (fun _ _ _ h => h) hS (Or.inl ⟨by rfl, ?yf9⟩) ?rf9
          case yf9 => (intro W hW; clear hW; go_simp; try with_reducible rfl)
          simp only [Act.put, List.setIfInBounds_toArray, List.set_cons_zero, List.set_cons_succ]
          refine wpH_take 9 8 (v := ?vf10) rfl rfl (by kernel_rfl) (by kernel_rfl) (by kernel_rfl) (fun _ _ _ h => h) hS (Or.inl ⟨by rfl, ?yf10⟩) ?rf10
          case yf10 => (intro W hW; clear hW; go_simp; try with_reducible rfl)
          simp only [Act.put, List.setIfInBounds_toArray, List.set_cons_zero, List.set_cons_succ]
          refine wpH_done (by kernel_rfl) ?_ _
          clear hS hvlt hult HLN1 HLN2
          have HF1 := Lib.hid (fit_app (lents_fit zs j (by omega)) (end_fit (k := k) (by omega)))
          have HF2 := Lib.hid (fit_app (fit_app (pre_fit (k := k) (old := old) (by omega) HO.out) (lents_fit zs j (by omega))) (end_fit (k := k) (by omega)))
          have HTE := Lib.hid (tab_lpre k old (isPl_iff.2 (by omega)) (lents zs j))
          have HTK := Lib.hid (tab_end k (isPl_iff.2 (by omega)) (lents zs j))
          have HN1 : Hid ((lents zs j ++ [((k : Int), (1000 : Int))]).length = j + 1) := Lib.hid (by rw [List.length_append, lents_len]; rfl)
          have HN2 : Hid ((lpre k old ++ lents zs j ++ [((k : Int), (1000 : Int))]).length = j + 4) := Lib.hid (by rw [List.length_append, List.length_append, lents_len]; simp only [lpre, List.length_cons, List.length_nil]; omega)
          have HL : Hid (L2 w W4 (lents zs j ++ [((k : Int), (1000 : Int))]) (lpre k old ++ lents zs j ++ [((k : Int), (1000 : Int))]) v3 u3) := HL
          generalize lents zs j ++ [((k : Int), (1000 : Int))] = lF at *
          generalize lpre k old ++ lents zs j ++ [((k : Int), (1000 : Int))] = mF at *
          obtain ⟨A1, q1, rfl, hq1, hq2⟩ := own_form' HL.out.own1
          obtain ⟨A2, q2, rfl, hq3, hq4⟩ := own_form' HL.out.own2
          have HE1 := Lib.hid (Ents.own HL.out.own1)
          have HE2 := Lib.hid (Ents.own HL.out.own2)
          have HBW := Lib.hid HL.out.below
          have hsw := HL.out.below.size
          clear HL
          generalize hne1 : lF.length = n1 at *
          generalize hne2 : mF.length = n2 at *
          have HNE1 := Lib.hid hne1
          have HNE2 := Lib.hid hne2
          clear hne1 hne2
          have hn1 : n1 ≤ 110 := by have := HN1.out; omega
          have hn2 : n2 ≤ 110 := by have := HN2.out; omega
          clear HN1 HN2
          have HB1 := Lib.hid (build_any W4 A1 n1 q1 lF HNE1.out (by omega) HE1.out HF1.out)
          go_wp2_with fail
          with_reducible refine HB1.out.mono ?_
          rintro e w5 ⟨g1, U1, rfl, hd1, ht1, hb1⟩
          have hs5 := hb1.size
          have HT1 := Lib.hid ht1
          have HD1 := Lib.hid hd1
          have HB5 := Lib.hid hb1
          have HE12 := Lib.hid ((HE1.out.below hb1 (Nat.le_refl _)).more hs5)
          have HB2 := Lib.hid (build_any w5 A2 n2 q2 mF HNE2.out (by omega) ((HE2.out.below hb1 (Nat.le_refl _)).more hs5) HF2.out)
          clear hd1 ht1 hb1 HB1 HE1 HE2
          go_wp2_with fail
          with_reducible refine HB2.out.mono ?_
          rintro e w6 ⟨g2, U2, rfl, hd2, ht2, hb2⟩
          rw [HTE.out] at hd2 ht2
          rw [← HD1.out.len hd2] at ht2
          have hs6 := hb2.size
          have HT2 := Lib.hid ht2
          have HT1b := Lib.hid ((HT1.out.below hb2 (Nat.le_refl _)).more hs6)
          have HE6 := Lib.hid ((HE12.out.below hb2 (Nat.le_refl _)).more hs6)
          have HB6 := Lib.hid ((HBW.out.trans (HB5.out.mono hsw)).trans (hb2.mono (by omega)))
          clear hd2 ht2 hb2 HB2 HT1 HE12 HB5 HBW HTE HD1
          generalize U1.length = q at *
          go_wp2_with fail
          with_reducible refine (get_any (k : Int) (tab lF) g1 _ q _ (tab_no lF) HT1b.out).mono ?_
          rintro e w7 ⟨rfl, hs7⟩
          rw [HTK.out]
          have S7 := Lib.hid hs7
          clear hs7
          go_wp2_with fail
          with_reducible refine (get_any (k : Int) (tab lF) g2 _ q _ (tab_no lF) (HT2.out.still S7.out)).mono ?_
          rintro e w8 ⟨rfl, hs8⟩
          rw [HTK.out]
          have S8 := Lib.hid (S7.out.trans hs8)
          clear hs8 S7
          go_wp2_with fail
          with_reducible refine (blocks_any (tab lF) g1 _ q _ (HT1b.out.still S8.out)).mono ?_
          rintro e w' ⟨rfl, rfl⟩
          go_wp2_with fail
          with_reducible refine (blocks_any (tab lF) g2 _ q _ (HT2.out.still S8.out)).mono ?_
          rintro e w' ⟨rfl, rfl⟩
          have hqq : ((q : Int) != (q : Int)) = false := by simp
          go_wp2_with fail
          go_loopw [15] (fun i wr => ∃ s : Nat, s ≤ n1 ∧ i = .int .i64 s ∧ Still w6 wr) (fun i _ => n1 - (intOf i).toNat)
          case atStart => exact ⟨0, by omega, rfl, S8.out⟩
          case round =>
            obtain ⟨s, hs, rfl, hst⟩ := hrel
            clear S8
            have HST := Lib.hid hst
            clear hst
            by_cases hlt : s < n1
            · obtain ⟨b, o, rfl, hbl, hc⟩ := HE6.out.at (by rw [HNE1.out]; omega)
              obtain ⟨c0, c1⟩ := hc s (by rw [HNE1.out]; omega)
              clear hc c1
              have c0 : wr.cell? ⟨b, o + s * 2, none⟩ = _ := (HST.out.cell _).trans c0
              generalize (lF.getD s (0, 0)).1 = c at c0
              have HG1 : Hid (∀ q', Calls Try.prog 9 #[.pointer (some ⟨g1, 0, none⟩), .int .i32 c] (wr.drewN q') fun e w'' => e = .returned (.int .i64 (tab lF c)) ∧ ∃ m, w'' = wr.drewN m) := Lib.hid fun q' => quiet_still (get_any c (tab lF) g1 _ _ _ (tab_no lF) ((HT1b.out.still HST.out).still ⟨q', rfl⟩))
              have HG2 : Hid (∀ q', Calls Try.prog 9 #[.pointer (some ⟨g2, 0, none⟩), .int .i32 c] (wr.drewN q') fun e w'' => e = .returned (.int .i64 (tab lF c)) ∧ ∃ m, w'' = wr.drewN m) := Lib.hid fun q' => quiet_still (get_any c (tab lF) g2 _ _ _ (tab_no lF) ((HT2.out.still HST.out).still ⟨q', rfl⟩))
              have hx0 : (tab lF c != tab lF c) = false := by simp
              generalize tab lF c = x at HG1 HG2 hx0
              go_wp2_with fail
              go_quiet ((go_at_call 9; first | with_reducible exact HG1.out _ | with_reducible exact HG2.out _))
              go_wp2
              go_roundw
              case rel => exact ⟨s + 1, by omega, by go_num, HST.out.drewN _⟩
              case measure => simp [intOf]; omega
            · have hkk : s = n1 := by omega
              subst hkk
              have hlt' : ¬ (s : Int) < s := by omega
              have HBW : Hid (Below w.heap.size w wr) := Lib.hid (HB6.out.trans (HST.out.lower _))
              go_wp2_with fail
              with_reducible refine (HAW.out _).mono ?_
              rintro e w10 ⟨rfl, hb10⟩
              have HB10 := Lib.hid hb10
              clear hb10
              go_wp2
              go_ret
              exact ⟨rfl, HBW.out.trans (HB10.out.mono HBW.out.size)⟩
end Go.Proofs.Ytkkopgkeooaofaa
