/- The walk of StageBlocks. -/
import Derived.Test.YtkkopgkeooaofaaSt4BMath
import Derived.Test.YtkkopgkeooaofaaSt4AllWalk
import Derived.Test.YtkkopgkeooaofaaPlace4
import Derived.Test.YtkkopgkeooaofaaAnyH
namespace Go.Proofs.Ytkkopgkeooaofaa
open Go.ChangeShapes Go.WideShapes Go.ChangeAt Go.RowKit
set_option linter.unusedVariables false
set_option linter.unusedSimpArgs false

theorem info_ent : (Try.prog.info? 31).map (fun i => (i.zero, i.size, i.bytes)) = some (some (.agg #[.int .i32 0, .int .i64 0]), 2, 16) := by kernel_rfl
/-- a row of entries of the call's own -/
structure SRel (w : World) (l : List (Int × Int)) (v : Value) (wr : World) : Prop where
  own : wr.ownsRow w.heap.size 31 2 v l.length (entsV l)
  below : Below w.heap.size w wr
theorem srel_app {w wr W w3 : World} {l : List (Int × Int)} {v v3 : Value} {c x : Int} (h : SRel w l v wr) (hW : Below wr.heap.size wr W) (ho : w3.ownsRow w.heap.size 31 2 v3 (l.length + 1) (entsV l ++ [.int .i32 c, .int .i64 x])) (hg : W.grownBy w3 v.ownBlock) : SRel w (l ++ [(c, x)]) v3 w3 := by
  have hs := h.below.size
  have hWs := hW.size
  refine ⟨?_, ?_⟩
  · have e : entsV (l ++ [(c, x)]) = entsV l ++ [.int .i32 c, .int .i64 x] := by rw [entsV_app]; rfl
    rw [e, List.length_append]
    exact ho
  · exact (h.below.trans (hW.mono hs)).grown hg (by omega) (fun g hv => (h.own.lt g hv).1)
theorem own_bel {w w' : World} {base e s n B : Nat} {v : Value} {xs : List Value} (h : w.ownsRow base e s v n xs) (hb : Below B w w') (hB : w.heap.size ≤ B) : w'.ownsRow base e s v n xs :=
  h.kept (row := none) ⟨hb.os, hb.tape, hb.output, hb.size, fun i hi _ => hb.block i (by omega)⟩ (by
    cases hv : v.ownBlock with
    | none => exact .inl rfl
    | some g => exact .inr (by simp))

set_option maxRecDepth 100000 in
set_option maxHeartbeats 2000000 in
theorem stageBlocks_walk (w : World) (n : Int) (A : Option Addr) (m cap : Nat) (zs : List Int) (o : Bool) (hm : zs.length = m) (hm2 : m ≤ maxLen) (hI : Ints w w.heap.size .i64 A zs) :
    Calls Try.prog 5 #[.int .i64 n, .slice A m cap, .bool o] w (LawPost w) := by
  unfold maxLen at hm2
  have HAW : Hid (∀ W, Calls Try.prog 6 #[] W fun e w' => e = .returned (.bool true) ∧ Below W.heap.size W w') := Lib.hid awake_true
  have HPL : Hid (Calls Try.prog 13 #[.int .i64 n, .int .i64 40] w fun e w' => e = .returned (.int .i64 (n % 40)) ∧ w = w') := Lib.hid (place_any n 40 w (by omega) (by omega))
  obtain ⟨k, hk⟩ : ∃ k : Nat, n % 40 + 1 = k := ⟨(n % 40 + 1).toNat, by omega⟩
  have hk1 : 1 ≤ k := by omega
  have hk2 : k ≤ 40 := by omega
  have hnk : n % 40 = (k : Int) - 1 := by omega
  rw [hnk] at HPL
  have HM := Lib.hid hm
  have HI := Lib.hid hI
  clear hm hI hk hnk
  go_enter Try.func5, Try.ntmps5
  go_wp2_with fail
  with_reducible refine HPL.out.mono ?_
  rintro e w' ⟨rfl, rfl⟩
  clear HPL
  go_wp2_with fail
  have e1 : (1 : Int) + ((k : Int) - 1) = k := by omega
  rw [e1]
  clear e1
  generalize (k : Int) - 1 = k1
  go_loopw [8, 9] (fun v i wr => ∃ t : Nat, t ≤ k ∧ i = .int .i64 t ∧ SRel w (ents (zs.take 10) t) v wr) (fun _ i _ => k - (intOf i).toNat)
  case atStart => exact ⟨0, by omega, rfl, World.ownsRow_nil _ _ _ _, Below.refl _ _⟩
  case round =>
    obtain ⟨t, ht, rfl, hR⟩ := hrel
    by_cases hlt : t < k
    · have HR := Lib.hid hR
      clear hR
      generalize hwo : wr = wo at *
      clear hwo
      go_wp2_with fail
      go_loopw [8, 10] (fun v j wr => ∃ s : Nat, s ≤ (zs.take 10).length ∧ j = .int .i64 s ∧ SRel w (ents (zs.take 10) t ++ ((zs.take 10).take s).map (ent t)) v wr) (fun _ j _ => 10 - (intOf j).toNat)
      case atStart => exact ⟨0, by omega, rfl, by simpa using HR.out⟩
      case round =>
        obtain ⟨s, hs, rfl, hR⟩ := hrel
        clear HR
        have HR := Lib.hid hR
        have hq : (zs.take 10).length = min 10 m := by rw [List.length_take, HM.out]
        rw [hq] at hs
        by_cases hin : s < m ∧ s < 10
        · obtain ⟨hs1, hs2⟩ := hin
          obtain ⟨b, oo, rfl, hbl, hc⟩ := HI.out.at (by rw [HM.out]; omega)
          have c0 := hc s (by rw [HM.out]; omega)
          have HT : Hid ((zs.take 10).take (s + 1) = (zs.take 10).take s ++ [zs.getD s 0]) := Lib.hid (by
            rw [List.take_succ_eq_append_getElem (by rw [hq]; omega), List.getElem_take, List.getD_eq_getElem?_getD, List.getElem?_eq_getElem (by rw [HM.out]; omega)]; rfl)
          have HLN : Hid ((ents (zs.take 10) t ++ ((zs.take 10).take s).map (ent t)).length ≤ 410) := Lib.hid (by
            simp only [List.length_append, ents_len, List.length_map, List.length_take, HM.out]
            have : t * min 10 m ≤ 40 * 10 := Nat.mul_le_mul (by omega) (by omega)
            omega)
          have c1 : wr.drew.cell? ⟨b, oo + s, none⟩ = _ := (hR.below.cell (p := ⟨b, oo + s, none⟩) hbl).trans c0
          have HRD : Hid (SRel w (ents (zs.take 10) t ++ ((zs.take 10).take s).map (ent t)) u8 wr.drew) := Lib.hid ⟨own_bel hR.own (Below.refl _ _).drew (Nat.le_refl _), hR.below.drew⟩
          generalize zs.getD s 0 = x at c1 HT
          have HP1 : Hid (∀ W, Calls Try.prog 13 #[.int .i64 x, .int .i64 256] W fun e w' => e = .returned (.int .i64 (x % 256)) ∧ W = w') := Lib.hid fun W => place_any x 256 W (by omega) (by omega)
          have HP2 : Hid (∀ W, Calls Try.prog 13 #[.int .i64 x, .int .i64 9] W fun e w' => e = .returned (.int .i64 (x % 9)) ∧ W = w') := Lib.hid fun W => place_any x 9 W (by omega) (by omega)
          have hx1 : 0 ≤ x % 256 := by omega
          have hx2 : x % 256 < 256 := by omega
          have hx3 : 0 ≤ x % 9 := by omega
          have hx4 : x % 9 < 9 := by omega
          have hs10 : decide ((s : Int) < 10) = true := by simp; omega
          clear hc c0 hR hq HR
          go_wp2_with fail
          refine wp_region_H (fun W => W.cell? ⟨b, oo + s, none⟩ = some (.int .i64 x)) (by kernel_rfl) ?_
          have hS : (fun W : World => W.cell? ⟨b, oo + s, none⟩ = some (.int .i64 x)) wr.drew := c1
          clear c1
          generalize wr.drew = wd at *
          have hw4 : IntKind.i64.wrap (256 * (7 * (t : Int) + 3) + x % 256) = 256 * (7 * (t : Int) + 3) + x % 256 := IntWalk.i64_in _ (by omega)
          have hw5 : IntKind.i32.wrap (256 * (7 * (t : Int) + 3) + x % 256) = 256 * (7 * (t : Int) + 3) + x % 256 := IntWalk.i32_in _ (by omega)
          have hw6 : IntKind.i64.wrap (1 + x % 9) = 1 + x % 9 := IntWalk.i64_in _ (by omega)
          have hw3 : IntKind.i64.wrap (256 * (7 * (t : Int) + 3)) = 256 * (7 * (t : Int) + 3) := IntWalk.i64_in _ (by omega)
          have hw2 : IntKind.i64.wrap (7 * (t : Int) + 3) = 7 * (t : Int) + 3 := IntWalk.i64_in _ (by omega)
          have hw1 : IntKind.i64.wrap (7 * (t : Int)) = 7 * (t : Int) := IntWalk.i64_in _ (by omega)
          refine wpH_take 0 31 (v := ?v0) rfl rfl (by kernel_rfl) (by kernel_rfl) (by kernel_rfl) (fun _ _ _ h => h) hS (Or.inl ⟨by rfl, ?y0⟩) ?r0
          case y0 => (intro W hW; go_simp; try with_reducible rfl)
          simp only [Act.put, List.setIfInBounds_toArray, List.set_cons_zero, List.set_cons_succ]
          refine wpH_take 1 32 (v := ?v1) rfl rfl (by kernel_rfl) (by kernel_rfl) (by kernel_rfl) (fun _ _ _ h => h) hS (Or.inl ⟨by rfl, ?y1⟩) ?r1
          case y1 => (intro W hW; go_simp; try with_reducible rfl)
          simp only [Act.put, List.setIfInBounds_toArray, List.set_cons_zero, List.set_cons_succ]
          refine wpH_take 2 33 (v := ?v2) rfl rfl (by kernel_rfl) (by kernel_rfl) (by kernel_rfl) (fun _ _ _ h => h) hS (Or.inl ⟨by rfl, ?y2⟩) ?r2
          case y2 => (intro W hW; go_simp; try with_reducible rfl)
          simp only [Act.put, List.setIfInBounds_toArray, List.set_cons_zero, List.set_cons_succ]
          refine wpH_take 3 34 (v := ?v3) rfl rfl (by kernel_rfl) (by kernel_rfl) (by kernel_rfl) (fun _ _ _ h => h) hS (Or.inl ⟨by rfl, ?y3⟩) ?r3
          case y3 => (intro W hW; go_simp; try with_reducible rfl)
          simp only [Act.put, List.setIfInBounds_toArray, List.set_cons_zero, List.set_cons_succ]
          refine wpH_take 4 35 (v := ?v4) rfl rfl (by kernel_rfl) (by kernel_rfl) (by kernel_rfl) (fun _ _ _ h => h) hS (Or.inl ⟨by rfl, ?y4⟩) ?r4
          case y4 => (intro W hW; go_simp; try with_reducible rfl)
          simp only [Act.put, List.setIfInBounds_toArray, List.set_cons_zero, List.set_cons_succ]
          refine wpH_take 5 36 (v := ?v5) rfl rfl (by kernel_rfl) (by kernel_rfl) (by kernel_rfl) (fun _ _ _ h => h) hS (Or.inl ⟨by rfl, ?y5⟩) ?r5
          case y5 => (intro W hW; go_simp; try with_reducible rfl)
          simp only [Act.put, List.setIfInBounds_toArray, List.set_cons_zero, List.set_cons_succ]
          refine wpH_take 6 37 (v := ?v6) rfl rfl (by kernel_rfl) (by kernel_rfl) (by kernel_rfl) (fun _ _ _ h => h) hS (Or.inl ⟨by rfl, ?y6⟩) ?r6
          case y6 => (intro W hW; go_simp; try with_reducible rfl)
          simp only [Act.put, List.setIfInBounds_toArray, List.set_cons_zero, List.set_cons_succ]
          refine wpH_take 7 38 (v := ?v7) rfl rfl (by kernel_rfl) (by kernel_rfl) (by kernel_rfl) (fun _ _ _ h => h) hS (Or.inl ⟨by rfl, ?y7⟩) ?r7
          case y7 => (intro W hW; go_simp; try with_reducible rfl)
          simp only [Act.put, List.setIfInBounds_toArray, List.set_cons_zero, List.set_cons_succ]
          refine wpH_take 8 39 (v := ?v8) rfl rfl (by kernel_rfl) (by kernel_rfl) (by kernel_rfl) (fun _ _ _ h => h) hS (Or.inl ⟨by rfl, ?y8⟩) ?r8
          case y8 => (intro W hW; go_simp; try with_reducible rfl)
          simp only [Act.put, List.setIfInBounds_toArray, List.set_cons_zero, List.set_cons_succ]
          refine wpH_take 12 43 (v := ?v12) rfl rfl (by kernel_rfl) (by kernel_rfl) (by kernel_rfl) (fun _ _ _ h => h) hS (Or.inl ⟨by rfl, ?y12⟩) ?r12
          case y12 => (intro W hW; go_simp; try with_reducible rfl)
          simp only [Act.put, List.setIfInBounds_toArray, List.set_cons_zero, List.set_cons_succ]
          refine wpH_take 13 44 (v := ?v13) rfl rfl (by kernel_rfl) (by kernel_rfl) (by kernel_rfl) (fun _ _ _ h => h) hS (Or.inl ⟨by rfl, ?y13⟩) ?r13
          case y13 => (intro W hW; go_simp; try with_reducible rfl)
          simp only [Act.put, List.setIfInBounds_toArray, List.set_cons_zero, List.set_cons_succ]
          refine wpH_take 14 45 (v := ?v14) rfl rfl (by kernel_rfl) (by kernel_rfl) (by kernel_rfl) (fun _ _ _ h => h) hS (Or.inl ⟨by rfl, ?y14⟩) ?r14
          case y14 => (intro W hW; go_simp; try with_reducible rfl)
          simp only [Act.put, List.setIfInBounds_toArray, List.set_cons_zero, List.set_cons_succ]
          refine wpH_take 15 46 (v := ?v15) rfl rfl (by kernel_rfl) (by kernel_rfl) (by kernel_rfl) (fun _ _ _ h => h) hS (Or.inl ⟨by rfl, ?y15⟩) ?r15
          case y15 => (intro W hW; go_simp; try with_reducible rfl)
          simp only [Act.put, List.setIfInBounds_toArray, List.set_cons_zero, List.set_cons_succ]
          refine wpH_one 9 (by kernel_rfl) rfl (fun K hK => ?_)
          go_simp
          with_reducible refine (HP1.out _).mono ?_
          rintro e w' ⟨rfl, rfl⟩
          refine hK.out _ _ hS ?_
          clear hK K
          try simp only [Act.put, List.setIfInBounds_toArray, List.set_cons_zero, List.set_cons_succ]
          refine wpH_take 10 41 (v := ?v10) rfl rfl (by kernel_rfl) (by kernel_rfl) (by kernel_rfl) (fun _ _ _ h => h) hS (Or.inl ⟨by rfl, ?y10⟩) ?r10
          case y10 => (intro W hW; go_simp; try with_reducible rfl)
          simp only [Act.put, List.setIfInBounds_toArray, List.set_cons_zero, List.set_cons_succ]
          refine wpH_take 11 42 (v := ?v11) rfl rfl (by kernel_rfl) (by kernel_rfl) (by kernel_rfl) (fun _ _ _ h => h) hS (Or.inl ⟨by rfl, ?y11⟩) ?r11
          case y11 => (intro W hW; go_simp; try with_reducible rfl)
          simp only [Act.put, List.setIfInBounds_toArray, List.set_cons_zero, List.set_cons_succ]
          refine wpH_one 16 (by kernel_rfl) rfl (fun K hK => ?_)
          go_simp
          with_reducible refine (HP2.out _).mono ?_
          rintro e w' ⟨rfl, rfl⟩
          refine hK.out _ _ hS ?_
          clear hK K
          try simp only [Act.put, List.setIfInBounds_toArray, List.set_cons_zero, List.set_cons_succ]
          refine wpH_take 17 48 (v := ?v17) rfl rfl (by kernel_rfl) (by kernel_rfl) (by kernel_rfl) (fun _ _ _ h => h) hS (Or.inl ⟨by rfl, ?y17⟩) ?r17
          case y17 => (intro W hW; go_simp; try with_reducible rfl)
          simp only [Act.put, List.setIfInBounds_toArray, List.set_cons_zero, List.set_cons_succ]
          refine wpH_take 18 49 (v := ?v18) rfl rfl (by kernel_rfl) (by kernel_rfl) (by kernel_rfl) (fun _ _ _ h => h) hS (Or.inl ⟨by rfl, ?y18⟩) ?r18
          case y18 => (intro W hW; go_simp; try with_reducible rfl)
          simp only [Act.put, List.setIfInBounds_toArray, List.set_cons_zero, List.set_cons_succ]
          clear hw1 hw2 hw3 hw4 hw5 hw6
          refine wpH_one 19 (by kernel_rfl) rfl (fun K hK => ?_)
          refine wpA_if (by rfl) ?_
          refine wpO_lit 22 31 1 _ rfl (.agg #[.int .i32 0, .int .i64 0]) 2 16 Try.underlying22 info_ent (by decide) (by decide) (by decide) [.agg #[.int .i32 (256 * (7 * (t : Int) + 3) + x % 256), .int .i64 (1 + x % 9)]] (by simp [Act.eval]) (by simp [Value.cells]) rfl #[.int .i32 (256 * (7 * (t : Int) + 3) + x % 256), .int .i64 (1 + x % 9)] (by simp [Value.cells]) ?_
          have hS2 : (fun W : World => W.cell? ⟨b, oo + s, none⟩ = some (.int .i64 x)) (wd.alloc (.cells #[.int .i32 (256 * (7 * (t : Int) + 3) + x % 256), .int .i64 (1 + x % 9)] 31)) := (World.cell?_alloc_lt _ _ _ (show b < _ by have := HRD.out.below.size; omega)).trans hS
          refine hK.out _ _ hS2 ?_
          clear hK K
          try simp only [Act.put, List.setIfInBounds_toArray, List.set_cons_zero, List.set_cons_succ]
          refine wpH_one 20 (by kernel_rfl) rfl (fun K hK => ?_)
          refine wpA_if (by rfl) ?_
          refine wpO_append _ _ 22 rfl w.heap.size 31 (.agg #[.int .i32 0, .int .i64 0]) 2 16 Try.underlying22 info_ent rfl (by decide) _ _ _ rfl (HRD.out.own.alloc _) ⟨wd.heap.size, 0, none⟩ 1 1 [.int .i32 (256 * (7 * (t : Int) + 3) + x % 256), .int .i64 (1 + x % 9)] rfl rfl (cells_new wd _ _) (by intro u hu; simp only [List.mem_cons, List.not_mem_nil, or_false] at hu; rcases hu with rfl | rfl <;> rfl) (by simp only [maxLen]; have := HLN.out; omega) (by have := HLN.out; omega) (by have := HRD.out.below.size; simp; omega) ?_
          intro v3 w3 ho3 hg3 hloc
          have hS3 : (fun W : World => W.cell? ⟨b, oo + s, none⟩ = some (.int .i64 x)) w3 := (World.cell?_of_block (hg3.block b (by have := HRD.out.below.size; simp; omega) (fun e => by have := (HRD.out.own.lt b e.symm).1; omega))).trans hS2
          have HQ := Lib.hid (srel_app HRD.out ((Below.refl _ _).alloc (Nat.le_refl _) _) ho3 hg3)
          clear ho3 hg3 hloc
          refine hK.out _ _ hS3 ?_
          clear hK K
          try simp only [Act.put, List.setIfInBounds_toArray, List.set_cons_zero, List.set_cons_succ]
          refine wpH_take 21 8 (v := ?v21) rfl rfl (by kernel_rfl) (by kernel_rfl) (by kernel_rfl) (fun _ _ _ h => h) hS3 (Or.inl ⟨by rfl, ?y21⟩) ?r21
          case y21 => (intro W hW; go_simp; try with_reducible rfl)
          simp only [Act.put, List.setIfInBounds_toArray, List.set_cons_zero, List.set_cons_succ]
          refine wpH_done (by kernel_rfl) ?_ _
          clear hS hS2 hS3
          go_wp2
          go_roundw
          case rel => exact ⟨s + 1, by rw [List.length_take, HM.out]; omega, by go_num, by rw [HT.out, List.map_append, ← List.append_assoc]; exact HQ.out⟩
          case measure => simp [intOf]; omega
        · have hse : s = min 10 m := by omega
          have HQ : Hid (SRel w (ents (zs.take 10) (t + 1)) u8 wr) := Lib.hid (by
            rw [ents_succ]
            have this := hR
            have e : (zs.take 10).take s = zs.take 10 := List.take_of_length_le (by rw [hq]; omega)
            rwa [e] at this)
          clear hR HR hq
          by_cases hs1 : s < m
          · have hs10 : decide ((s : Int) < 10) = false := by simp; omega
            clear hse hin
            go_wp2
            go_roundw
            case rel => exact ⟨t + 1, by omega, by go_num, HQ.out⟩
            case measure => simp [intOf]; omega
          · clear hse hin
            go_wp2
            go_roundw
            case rel => exact ⟨t + 1, by omega, by go_num, HQ.out⟩
            case measure => simp [intOf]; omega
    · have htk : t = k := by omega
      subst htk
      have hlt' : ¬ (t : Int) < t := by omega
      have HR := Lib.hid hR
      clear hR
      have HLN : Hid ((ents (zs.take 10) t).length ≤ 410) := Lib.hid (by
        simp only [ents_len, List.length_take, HM.out]
        have : t * min 10 m ≤ 40 * 10 := Nat.mul_le_mul (by omega) (by omega)
        omega)
      obtain ⟨i0, hi0, hz0, hz1, hz2⟩ := info_parts info_ent
      generalize hkt : t = k at *
      clear hkt
      by_cases hz : m = 0
      · have HZ : Hid (zs.take 10 = []) := Lib.hid (by rw [List.take_eq_nil_iff]; exact .inr (List.eq_nil_of_length_eq_zero (by rw [HM.out]; exact hz)))
        have hz' : ((m : Int) == 0) = true := by simp [hz]
        clear hz
        cases o with
        | false =>
          have HB : Hid (SRel w (bents (zs.take 10) k false) u8 wr) := HR
          clear HR
          obtain ⟨A', c', rfl, hc1, hc2⟩ := own_form' HB.out.own
          have HLB : Hid ((bents (zs.take 10) k false).length ≤ 1099511627776) := Lib.hid (by have := bents_len (zs.take 10) k false (by rw [List.length_take]; omega) hk2; omega)
          have HBA := Lib.hid (build_any wr A' _ c' (bents (zs.take 10) k false) rfl HLB.out (Ents.own HB.out.own) (bents_fit _ k hk2 false))
          have HCN : Hid (∀ U, Dist (tab (bents (zs.take 10) k false)) U → U.length = 1) := Lib.hid fun U hd => by rw [bents_count hk2 hk1 hd]; unfold bwant; simp [HZ.out]
          have HBB := Lib.hid HB.out.below
          have hsB := HB.out.below.size
          generalize (bents (zs.take 10) k false).length = L at *
          go_wp2_with fail
          with_reducible refine HBA.out.mono ?_
          rintro e w4 ⟨g, U, rfl, hd, ht4, hb4⟩
          have hU := HCN.out U hd
          rw [hU] at ht4
          have HT4 := Lib.hid ht4
          have HB4 := Lib.hid hb4
          have hs4 := hb4.size
          clear hd ht4 hb4 hU HBA HCN HB
          go_wp2_with fail
          with_reducible refine (blocks_any _ g _ _ _ HT4.out).mono ?_
          rintro e w' ⟨rfl, rfl⟩
          go_wp2_with fail
          with_reducible refine (HAW.out _).mono ?_
          rintro e w5 ⟨rfl, hb5⟩
          have HB5 := Lib.hid hb5
          clear hb5
          go_wp2
          go_ret
          exact ⟨rfl, (HBB.out.trans (HB4.out.mono (by omega))).trans (HB5.out.mono (by omega))⟩
        | true =>
          go_wp2_with (at_builtin; refine wpList_append_own_at _ rfl _ _ 22 rfl w.heap.size 31 i0 (.agg #[.int .i32 0, .int .i64 0]) 2 16 Try.underlying22 hi0 hz0 hz1 hz2 rfl (by decide) _ _ _ rfl (HR.out.own.alloc _) ⟨wr.heap.size, 0, none⟩ 1 1 [.int .i32 1114111, .int .i64 77] rfl rfl (cells_new wr _ _) (by intro u hu; simp only [List.mem_cons, List.not_mem_nil, or_false] at hu; rcases hu with rfl | rfl <;> rfl) (by simp only [maxLen]; have := HLN.out; omega) (by have := HLN.out; omega) (by have := HR.out.below.size; simp; omega) ?_; intro v3 w3 ho3 hg3 hnil hloc)
          have HB : Hid (SRel w (bents (zs.take 10) k true) v3 w3) := Lib.hid (srel_app HR.out ((Below.refl _ _).alloc (Nat.le_refl _) _) ho3 hg3)
          clear ho3 hg3 hnil hloc HR
          obtain ⟨A', c', rfl, hc1, hc2⟩ := own_form' HB.out.own
          have HLB : Hid ((bents (zs.take 10) k true).length ≤ 1099511627776) := Lib.hid (by have := bents_len (zs.take 10) k true (by rw [List.length_take]; omega) hk2; omega)
          have HBA := Lib.hid (build_any w3 A' _ c' (bents (zs.take 10) k true) rfl HLB.out (Ents.own HB.out.own) (bents_fit _ k hk2 true))
          have HCN : Hid (∀ U, Dist (tab (bents (zs.take 10) k true)) U → U.length = 2) := Lib.hid fun U hd => by rw [bents_count hk2 hk1 hd]; unfold bwant; simp [HZ.out]
          have HBB := Lib.hid HB.out.below
          have hsB := HB.out.below.size
          generalize (bents (zs.take 10) k true).length = L at *
          go_wp2_with fail
          with_reducible refine HBA.out.mono ?_
          rintro e w4 ⟨g, U, rfl, hd, ht4, hb4⟩
          have hU := HCN.out U hd
          rw [hU] at ht4
          have HT4 := Lib.hid ht4
          have HB4 := Lib.hid hb4
          have hs4 := hb4.size
          clear hd ht4 hb4 hU HBA HCN HB
          go_wp2_with fail
          with_reducible refine (blocks_any _ g _ _ _ HT4.out).mono ?_
          rintro e w' ⟨rfl, rfl⟩
          go_wp2_with fail
          with_reducible refine (HAW.out _).mono ?_
          rintro e w5 ⟨rfl, hb5⟩
          have HB5 := Lib.hid hb5
          clear hb5
          go_wp2
          go_ret
          exact ⟨rfl, (HBB.out.trans (HB4.out.mono (by omega))).trans (HB5.out.mono (by omega))⟩
      · have HZ : Hid (zs.take 10 ≠ []) := Lib.hid (fun h => hz (by
          have h2 : (zs.take 10).length = 0 := by rw [h]; rfl
          rw [List.length_take, HM.out] at h2
          omega))
        have hz' : ((m : Int) == 0) = false := by simp [hz]
        clear hz
        cases o with
        | false =>
          have HB : Hid (SRel w (bents (zs.take 10) k false) u8 wr) := HR
          clear HR
          obtain ⟨A', c', rfl, hc1, hc2⟩ := own_form' HB.out.own
          have HLB : Hid ((bents (zs.take 10) k false).length ≤ 1099511627776) := Lib.hid (by have := bents_len (zs.take 10) k false (by rw [List.length_take]; omega) hk2; omega)
          have HBA := Lib.hid (build_any wr A' _ c' (bents (zs.take 10) k false) rfl HLB.out (Ents.own HB.out.own) (bents_fit _ k hk2 false))
          have HCN : Hid (∀ U, Dist (tab (bents (zs.take 10) k false)) U → U.length = 2) := Lib.hid fun U hd => by rw [bents_count hk2 hk1 hd]; unfold bwant; simp [HZ.out]
          have HBB := Lib.hid HB.out.below
          have hsB := HB.out.below.size
          generalize (bents (zs.take 10) k false).length = L at *
          go_wp2_with fail
          with_reducible refine HBA.out.mono ?_
          rintro e w4 ⟨g, U, rfl, hd, ht4, hb4⟩
          have hU := HCN.out U hd
          rw [hU] at ht4
          have HT4 := Lib.hid ht4
          have HB4 := Lib.hid hb4
          have hs4 := hb4.size
          clear hd ht4 hb4 hU HBA HCN HB
          go_wp2_with fail
          with_reducible refine (blocks_any _ g _ _ _ HT4.out).mono ?_
          rintro e w' ⟨rfl, rfl⟩
          go_wp2_with fail
          with_reducible refine (HAW.out _).mono ?_
          rintro e w5 ⟨rfl, hb5⟩
          have HB5 := Lib.hid hb5
          clear hb5
          go_wp2
          go_ret
          exact ⟨rfl, (HBB.out.trans (HB4.out.mono (by omega))).trans (HB5.out.mono (by omega))⟩
        | true =>
          go_wp2_with (at_builtin; refine wpList_append_own_at _ rfl _ _ 22 rfl w.heap.size 31 i0 (.agg #[.int .i32 0, .int .i64 0]) 2 16 Try.underlying22 hi0 hz0 hz1 hz2 rfl (by decide) _ _ _ rfl (HR.out.own.alloc _) ⟨wr.heap.size, 0, none⟩ 1 1 [.int .i32 1114111, .int .i64 77] rfl rfl (cells_new wr _ _) (by intro u hu; simp only [List.mem_cons, List.not_mem_nil, or_false] at hu; rcases hu with rfl | rfl <;> rfl) (by simp only [maxLen]; have := HLN.out; omega) (by have := HLN.out; omega) (by have := HR.out.below.size; simp; omega) ?_; intro v3 w3 ho3 hg3 hnil hloc)
          have HB : Hid (SRel w (bents (zs.take 10) k true) v3 w3) := Lib.hid (srel_app HR.out ((Below.refl _ _).alloc (Nat.le_refl _) _) ho3 hg3)
          clear ho3 hg3 hnil hloc HR
          obtain ⟨A', c', rfl, hc1, hc2⟩ := own_form' HB.out.own
          have HLB : Hid ((bents (zs.take 10) k true).length ≤ 1099511627776) := Lib.hid (by have := bents_len (zs.take 10) k true (by rw [List.length_take]; omega) hk2; omega)
          have HBA := Lib.hid (build_any w3 A' _ c' (bents (zs.take 10) k true) rfl HLB.out (Ents.own HB.out.own) (bents_fit _ k hk2 true))
          have HCN : Hid (∀ U, Dist (tab (bents (zs.take 10) k true)) U → U.length = 3) := Lib.hid fun U hd => by rw [bents_count hk2 hk1 hd]; unfold bwant; simp [HZ.out]
          have HBB := Lib.hid HB.out.below
          have hsB := HB.out.below.size
          generalize (bents (zs.take 10) k true).length = L at *
          go_wp2_with fail
          with_reducible refine HBA.out.mono ?_
          rintro e w4 ⟨g, U, rfl, hd, ht4, hb4⟩
          have hU := HCN.out U hd
          rw [hU] at ht4
          have HT4 := Lib.hid ht4
          have HB4 := Lib.hid hb4
          have hs4 := hb4.size
          clear hd ht4 hb4 hU HBA HCN HB
          go_wp2_with fail
          with_reducible refine (blocks_any _ g _ _ _ HT4.out).mono ?_
          rintro e w' ⟨rfl, rfl⟩
          go_wp2_with fail
          with_reducible refine (HAW.out _).mono ?_
          rintro e w5 ⟨rfl, hb5⟩
          have HB5 := Lib.hid hb5
          clear hb5
          go_wp2
          go_ret
          exact ⟨rfl, (HBB.out.trans (HB4.out.mono (by omega))).trans (HB5.out.mono (by omega))⟩
end Go.Proofs.Ytkkopgkeooaofaa
