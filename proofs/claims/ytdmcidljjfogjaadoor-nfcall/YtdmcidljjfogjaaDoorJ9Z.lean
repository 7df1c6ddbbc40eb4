/- Joined of: N9AllWalk. -/
import Derived.Test.YtdmcidljjfogjaaDoorJ9Y
import Derived.Test.YtdmcidljjfogjaaDoorJ9D
/- Printed by gen_n9all.py. The walk of NfcAll. -/
namespace Go.Proofs.YtdmcidljjfogjaaDoor
set_option maxRecDepth 100000
open Go.ChangeShapes Go.WideShapes Go.ChangeAt Go.RowKit
set_option linter.unusedVariables false
set_option linter.unusedSimpArgs false
attribute [local irreducible] P5 S5 C5

theorem u8_bts {z : List Int} (h : ∀ n ∈ z, (Lit.int .u8 n).wf = true) : Bts z := fun n hn => by
  have := bounds_u8 (h n hn); omega
/-- what stays: the tables, two rows, the bytes -/
structure A9 (w : World) (g R : Nat) (a0 : Option Addr) (len0 cap0 : Nat) (z0 : List Int) (a1 : Option Addr) (len1 cap1 : Nat) (z1 : List Int) (a2 : Option Addr) (z2 : List Int) (W : World) : Prop where
  e : E9 w g R a0 len0 cap0 z0 W
  m : RowIn W a1 len1 cap1 z1
  b : Ints W W.heap.size .u8 a2 z2
theorem A9.go {w W W' : World} {g R : Nat} {a0 : Option Addr} {len0 cap0 : Nat} {z0 : List Int} {a1 : Option Addr} {len1 cap1 : Nat} {z1 : List Int} {a2 : Option Addr} {z2 : List Int} (h : A9 w g R a0 len0 cap0 z0 a1 len1 cap1 z1 a2 z2 W) (hb : Below W.heap.size W W') : A9 w g R a0 len0 cap0 z0 a1 len1 cap1 z1 a2 z2 W' := ⟨h.e.go hb, h.m.go hb, h.b.go hb⟩

set_option maxHeartbeats 16000000 in
theorem all_walk (HN : NfcOk) (a0 : Option Addr) (len0 cap0 : Nat) (z0 : List Int) (a1 : Option Addr) (len1 cap1 : Nat) (z1 : List Int) (a2 : Option Addr) (len2 cap2 : Nat) (z2 : List Int) (w : World) (hTab : Tab w) (r0 : ArgRow .i32 w a0 len0 cap0 z0) (r1 : ArgRow .i32 w a1 len1 cap1 z1) (r2 : ArgRow .u8 w a2 len2 cap2 z2) :
    Calls Tryd.prog 3 #[.slice a0 len0 cap0, .slice a1 len1 cap1, .slice a2 len2 cap2] w fun e w' => e = .returned (.bool true) ∧ Below w.heap.size w w' := by
  have HR0 := Lib.hid r0.rowIn
  have HR1 := Lib.hid r1.rowIn
  have HRR := Lib.hid r0.r32
  have HRM := Lib.hid r1.r32
  have HBT := Lib.hid (u8_bts r2.wf)
  have HI2 := Lib.hid r2.row
  have HLB := Lib.hid r2.size
  have hle0 := r0.le
  have hmx0 := r0.max
  have hle1 := r1.le
  have hmx1 := r1.max
  have hle2 := r2.le
  have hmx2 := r2.max
  unfold maxLen at hmx0 hmx1 hmx2
  have HTB := Lib.hid hTab
  have HNF := Lib.hid HN
  clear r0 r1 r2 hTab HN
  go_enter Tryd.func3, Tryd.ntmps3
  go_wp2_with fail
  with_reducible refine (ubuild_any _).mono ?_
  rintro e w1 ⟨g, rfl, ht, hb⟩
  have HK1 : Hid (K9 w g w1) := Lib.hid ⟨ht, HTB.out.below' hb, hb⟩
  clear ht hb HTB
  go_wp2_with fail
  with_reducible refine (dbuild_any _).mono ?_
  rintro e w4 ⟨rfl, hd, hb2⟩
  have HK2 := Lib.hid (HK1.out.go hb2)
  have HX4 : Hid (A9 w g (w1.heap.size + 5) a0 len0 cap0 z0 a1 len1 cap1 z1 a2 z2 w4) := Lib.hid ⟨⟨HK2.out, ⟨_, rfl, hd⟩, HR0.out.go HK2.out.be⟩, HR1.out.go HK2.out.be, HI2.out.go HK2.out.be⟩
  clear hd hb2 HK1 HK2 HR0 HR1 HI2
  generalize w1.heap.size + 5 = R at *
  have HAW := Lib.hid (fun W => awake9 HNF.out W g)
  by_cases hbig0 : 100 < len0
  ·
    have hbig' : decide (100 < (len0 : Int)) = true := decide_eq_true (by omega)
    go_wp2_with fail
    with_reducible refine (HAW.out _ HX4.out.e.k.t HX4.out.e.k.tab).mono ?_
    rintro e w5 ⟨rfl, hb5⟩
    have HX5 := Lib.hid (HX4.out.go hb5)
    go_wp2
    go_ret
    exact ⟨rfl, HX5.out.e.k.be⟩
  have hb0 : decide (100 < (len0 : Int)) = false := decide_eq_false (by omega)
  by_cases hbig1 : 100 < len1
  ·
    have hbig' : decide (100 < (len1 : Int)) = true := decide_eq_true (by omega)
    go_wp2_with fail
    with_reducible refine (HAW.out _ HX4.out.e.k.t HX4.out.e.k.tab).mono ?_
    rintro e w5 ⟨rfl, hb5⟩
    have HX5 := Lib.hid (HX4.out.go hb5)
    go_wp2
    go_ret
    exact ⟨rfl, HX5.out.e.k.be⟩
  have hb1 : decide (100 < (len1 : Int)) = false := decide_eq_false (by omega)
  by_cases hbig2 : 300 < len2
  ·
    have hbig' : decide (300 < (len2 : Int)) = true := decide_eq_true (by omega)
    go_wp2_with fail
    with_reducible refine (HAW.out _ HX4.out.e.k.t HX4.out.e.k.tab).mono ?_
    rintro e w5 ⟨rfl, hb5⟩
    have HX5 := Lib.hid (HX4.out.go hb5)
    go_wp2
    go_ret
    exact ⟨rfl, HX5.out.e.k.be⟩
  have hb2 : decide (300 < (len2 : Int)) = false := decide_eq_false (by omega)
  have HBL : Hid (z2.length ≤ 600) := Lib.hid (by rw [HLB.out]; omega)
  have hn0 : len0 ≤ 10000 := by omega
  have hn1 : len1 ≤ 10000 := by omega
  have HT1 : Hid (∀ W, A9 w g R a0 len0 cap0 z0 a1 len1 cap1 z1 a2 z2 W → _) := Lib.hid (fun W h => HNF.out.text W g z2 h.e.k.tab h.e.k.t HBT.out HBL.out)
  have HT2 : Hid (∀ W, A9 w g R a0 len0 cap0 z0 a1 len1 cap1 z1 a2 z2 W → _) := Lib.hid (fun W h => rtext_any W R z2 h.e.d HBT.out HBL.out)
  have HQ1 : Hid (∀ W, A9 w g R a0 len0 cap0 z0 a1 len1 cap1 z1 a2 z2 W → _) := Lib.hid (fun W h => HNF.out.quick W g a0 len0 cap0 z0 h.e.r h.e.k.t HRR.out hn0)
  have HQ2 : Hid (∀ W, A9 w g R a0 len0 cap0 z0 a1 len1 cap1 z1 a2 z2 W → _) := Lib.hid (fun W h => rquick_any W R a0 len0 cap0 z0 h.e.r h.e.d HRR.out hn0)
  have HIS1 : Hid (∀ W, A9 w g R a0 len0 cap0 z0 a1 len1 cap1 z1 a2 z2 W → _) := Lib.hid (fun W h => HNF.out.is W g a0 len0 cap0 z0 h.e.r h.e.k.t HRR.out hn0)
  have HIS2 : Hid (∀ W, A9 w g R a0 len0 cap0 z0 a1 len1 cap1 z1 a2 z2 W → _) := Lib.hid (fun W h => ris_any W R a0 len0 cap0 z0 h.e.r h.e.d HRR.out hn0)
  have HEQ1 : Hid (∀ W, A9 w g R a0 len0 cap0 z0 a1 len1 cap1 z1 a2 z2 W → _) := Lib.hid (fun W h => HNF.out.equal W g a0 len0 cap0 z0 a1 len1 cap1 z1 h.e.r h.m h.e.k.t HRR.out HRM.out hn0 hn1)
  have HEQ2 : Hid (∀ W, A9 w g R a0 len0 cap0 z0 a1 len1 cap1 z1 a2 z2 W → _) := Lib.hid (fun W h => requal_any W R a0 len0 cap0 z0 a1 len1 cap1 z1 h.e.r h.m h.e.d HRR.out HRM.out hn0 hn1)
  generalize strOfNums (textF z2) = tx at *
  generalize hs : strOfNums z2 = s at *
  have HSS := Lib.hid hs
  clear hs
  generalize quickF z0 = q at *
  generalize decide (form5 z0 = z0) = is at *
  generalize decide (form5 z0 = form5 z1) = eq at *
  have tq : (q == q) = true := by simp
  have ti : (is == is) = true := by simp
  have te : (eq == eq) = true := by simp
  go_wp2_with fail
  refine wp_region_G (by kernel_rfl) ?_
  have HX5 := Lib.hid (HX4.out.go (Grow.drew w4))
  clear HX4
  generalize w4.drew = w5 at *
  refine wpG_take 0 34 (v := ?v0) rfl rfl (by kernel_rfl) (by kernel_rfl) (by kernel_rfl) (fun _ _ _ h => h) (Or.inl ⟨by rfl, ?y0⟩) ?r0
  case y0 => (intro W hW; (go_simp; try with_reducible rfl))
  simp only [Act.put, List.setIfInBounds_toArray, List.set_cons_zero, List.set_cons_succ]
  refine wpG_take 1 35 (v := ?v1) rfl rfl (by kernel_rfl) (by kernel_rfl) (by kernel_rfl) (fun _ _ _ h => h) (Or.inl ⟨by rfl, ?y1⟩) ?r1
  case y1 => (intro W hW; (go_simp; try with_reducible rfl))
  simp only [Act.put, List.setIfInBounds_toArray, List.set_cons_zero, List.set_cons_succ]
  refine wpG_take 3 37 (v := ?v3) rfl rfl (by kernel_rfl) (by kernel_rfl) (by kernel_rfl) (fun _ _ _ h => h) (Or.inl ⟨by rfl, ?y3⟩) ?r3
  case y3 => (intro W hW; (go_simp; try with_reducible rfl))
  simp only [Act.put, List.setIfInBounds_toArray, List.set_cons_zero, List.set_cons_succ]
  refine wpG_take 4 38 (v := ?v4) rfl rfl (by kernel_rfl) (by kernel_rfl) (by kernel_rfl) (fun _ _ _ h => h) (Or.inl ⟨by rfl, ?y4⟩) ?r4
  case y4 => (intro W hW; (go_simp; try with_reducible rfl))
  simp only [Act.put, List.setIfInBounds_toArray, List.set_cons_zero, List.set_cons_succ]
  refine wpG_call 2 (by kernel_rfl) rfl (fun K hK => ?_)
  go_simp
  with_reducible refine (HNF.out.form _ g _ _ _ _ HX5.out.e.r HX5.out.e.k.t HRR.out (by omega)).mono ?_
  rintro e w6 ⟨A6, n6, c6, rfl, hr, hb⟩
  have HX6 := Lib.hid (HX5.out.go hb)
  have HF6 := Lib.hid hr
  clear hr
  have hn6 := form_le HX6.out.e.r HF6.out (by omega)
  clear HX5
  have hgr : Grow w5 w6 := hb
  clear hb
  go_wp2_with fail
  refine hK.out _ _ ?_ ?_
  · exact hgr
  clear hK K
  refine wpG_call 5 (by kernel_rfl) rfl (fun K hK => ?_)
  go_simp
  with_reducible refine (rform_any _ R _ _ _ _ HX6.out.e.r HX6.out.e.d HRR.out (by omega)).mono ?_
  rintro e w7 ⟨A7, n7, c7, rfl, hr, hb⟩
  have HX7 := Lib.hid (HX6.out.go hb)
  have HF67 := Lib.hid (HF6.out.go hb)
  have HF7 := Lib.hid hr
  clear hr HF6
  clear HX6
  have hgr : Grow w6 w7 := hb
  clear hb
  go_wp2_with fail
  refine hK.out _ _ ?_ ?_
  · exact hgr
  clear hK K
  refine wpG_call 6 (by kernel_rfl) rfl (fun K hK => ?_)
  go_simp
  with_reducible refine (same_rows HF67.out HF7.out rfl hn6).mono ?_
  rintro e w8 ⟨rfl, hs⟩
  have HX8 := Lib.hid (HX7.out.go hs.below)
  clear HF67 HF7
  clear HX7
  have hgr : Grow w7 w8 := hs.below
  clear hs
  go_wp2_with fail
  refine hK.out _ _ ?_ ?_
  · exact hgr
  clear hK K
  refine wpG_take 7 41 (v := ?v7) rfl rfl (by kernel_rfl) (by kernel_rfl) (by kernel_rfl) (fun _ _ _ h => h) (Or.inl ⟨by rfl, ?y7⟩) ?r7
  case y7 => (intro W hW; (go_simp; try with_reducible rfl))
  simp only [Act.put, List.setIfInBounds_toArray, List.set_cons_zero, List.set_cons_succ]
  refine wpG_take 8 42 (v := ?v8) rfl rfl (by kernel_rfl) (by kernel_rfl) (by kernel_rfl) (fun _ _ _ h => h) (Or.inl ⟨by rfl, ?y8⟩) ?r8
  case y8 => (intro W hW; (go_simp; try with_reducible rfl))
  simp only [Act.put, List.setIfInBounds_toArray, List.set_cons_zero, List.set_cons_succ]
  refine wpG_take 9 43 (v := ?v9) rfl rfl (by kernel_rfl) (by kernel_rfl) (by kernel_rfl) (fun _ _ _ h => h) (Or.inl ⟨by rfl, ?y9⟩) ?r9
  case y9 => (intro W hW; (go_simp; try with_reducible rfl))
  simp only [Act.put, List.setIfInBounds_toArray, List.set_cons_zero, List.set_cons_succ]
  refine wpG_take 11 45 (v := ?v11) rfl rfl (by kernel_rfl) (by kernel_rfl) (by kernel_rfl) (fun _ _ _ h => h) (Or.inl ⟨by rfl, ?y11⟩) ?r11
  case y11 => (intro W hW; (go_simp; try with_reducible rfl))
  simp only [Act.put, List.setIfInBounds_toArray, List.set_cons_zero, List.set_cons_succ]
  refine wpG_take 12 46 (v := ?v12) rfl rfl (by kernel_rfl) (by kernel_rfl) (by kernel_rfl) (fun _ _ _ h => h) (Or.inl ⟨by rfl, ?y12⟩) ?r12
  case y12 => (intro W hW; (go_simp; try with_reducible rfl))
  simp only [Act.put, List.setIfInBounds_toArray, List.set_cons_zero, List.set_cons_succ]
  refine wpG_call 10 (by kernel_rfl) rfl (fun K hK => ?_)
  go_simp
  with_reducible refine (HIS1.out _ HX8.out).mono ?_
  rintro e w9 ⟨rfl, hb⟩
  have HX9 := Lib.hid (HX8.out.go hb)
  clear HX8
  have hgr : Grow w8 w9 := hb
  clear hb
  go_wp2_with fail
  refine hK.out _ _ ?_ ?_
  · exact hgr
  clear hK K
  refine wpG_call 13 (by kernel_rfl) rfl (fun K hK => ?_)
  go_simp
  with_reducible refine (HIS2.out _ HX9.out).mono ?_
  rintro e w10 ⟨rfl, hb⟩
  have HX10 := Lib.hid (HX9.out.go hb)
  clear HX9
  have hgr : Grow w9 w10 := hb
  clear hb
  go_wp2_with fail
  refine hK.out _ _ ?_ ?_
  · exact hgr
  clear hK K
  refine wpG_take 14 48 (v := ?v14) rfl rfl (by kernel_rfl) (by kernel_rfl) (by kernel_rfl) (fun _ _ _ h => h) (Or.inl ⟨by rfl, ?y14⟩) ?r14
  case y14 => (intro W hW; (go_simp; try with_reducible rfl))
  simp only [Act.put, List.setIfInBounds_toArray, List.set_cons_zero, List.set_cons_succ]
  refine wpG_take 15 49 (v := ?v15) rfl rfl (by kernel_rfl) (by kernel_rfl) (by kernel_rfl) (fun _ _ _ h => h) (Or.inl ⟨by rfl, ?y15⟩) ?r15
  case y15 => (intro W hW; (go_simp; try with_reducible rfl))
  simp only [Act.put, List.setIfInBounds_toArray, List.set_cons_zero, List.set_cons_succ]
  refine wpG_take 16 50 (v := ?v16) rfl rfl (by kernel_rfl) (by kernel_rfl) (by kernel_rfl) (fun _ _ _ h => h) (Or.inl ⟨by rfl, ?y16⟩) ?r16
  case y16 => (intro W hW; (go_simp; try with_reducible rfl))
  simp only [Act.put, List.setIfInBounds_toArray, List.set_cons_zero, List.set_cons_succ]
  refine wpG_take 17 51 (v := ?v17) rfl rfl (by kernel_rfl) (by kernel_rfl) (by kernel_rfl) (fun _ _ _ h => h) (Or.inl ⟨by rfl, ?y17⟩) ?r17
  case y17 => (intro W hW; (go_simp; try with_reducible rfl))
  simp only [Act.put, List.setIfInBounds_toArray, List.set_cons_zero, List.set_cons_succ]
  refine wpG_take 18 52 (v := ?v18) rfl rfl (by kernel_rfl) (by kernel_rfl) (by kernel_rfl) (fun _ _ _ h => h) (Or.inl ⟨by rfl, ?y18⟩) ?r18
  case y18 => (intro W hW; (go_simp; try with_reducible rfl))
  simp only [Act.put, List.setIfInBounds_toArray, List.set_cons_zero, List.set_cons_succ]
  refine wpG_take 20 54 (v := ?v20) rfl rfl (by kernel_rfl) (by kernel_rfl) (by kernel_rfl) (fun _ _ _ h => h) (Or.inl ⟨by rfl, ?y20⟩) ?r20
  case y20 => (intro W hW; (go_simp; try with_reducible rfl))
  simp only [Act.put, List.setIfInBounds_toArray, List.set_cons_zero, List.set_cons_succ]
  refine wpG_take 21 55 (v := ?v21) rfl rfl (by kernel_rfl) (by kernel_rfl) (by kernel_rfl) (fun _ _ _ h => h) (Or.inl ⟨by rfl, ?y21⟩) ?r21
  case y21 => (intro W hW; (go_simp; try with_reducible rfl))
  simp only [Act.put, List.setIfInBounds_toArray, List.set_cons_zero, List.set_cons_succ]
  refine wpG_call 19 (by kernel_rfl) rfl (fun K hK => ?_)
  go_simp
  with_reducible refine (HQ1.out _ HX10.out).mono ?_
  rintro e w11 ⟨rfl, hb⟩
  have HX11 := Lib.hid (HX10.out.go hb)
  clear HX10
  have hgr : Grow w10 w11 := hb
  clear hb
  go_wp2_with fail
  refine hK.out _ _ ?_ ?_
  · exact hgr
  clear hK K
  refine wpG_call 22 (by kernel_rfl) rfl (fun K hK => ?_)
  go_simp
  with_reducible refine (HQ2.out _ HX11.out).mono ?_
  rintro e w12 ⟨rfl, hb⟩
  have HX12 := Lib.hid (HX11.out.go hb)
  clear HX11
  have hgr : Grow w11 w12 := hb
  clear hb
  go_wp2_with fail
  refine hK.out _ _ ?_ ?_
  · exact hgr
  clear hK K
  refine wpG_take 23 57 (v := ?v23) rfl rfl (by kernel_rfl) (by kernel_rfl) (by kernel_rfl) (fun _ _ _ h => h) (Or.inl ⟨by rfl, ?y23⟩) ?r23
  case y23 => (intro W hW; (go_simp; try with_reducible rfl))
  simp only [Act.put, List.setIfInBounds_toArray, List.set_cons_zero, List.set_cons_succ]
  refine wpG_take 24 58 (v := ?v24) rfl rfl (by kernel_rfl) (by kernel_rfl) (by kernel_rfl) (fun _ _ _ h => h) (Or.inl ⟨by rfl, ?y24⟩) ?r24
  case y24 => (intro W hW; (go_simp; try with_reducible rfl))
  simp only [Act.put, List.setIfInBounds_toArray, List.set_cons_zero, List.set_cons_succ]
  refine wpG_take 25 59 (v := ?v25) rfl rfl (by kernel_rfl) (by kernel_rfl) (by kernel_rfl) (fun _ _ _ h => h) (Or.inl ⟨by rfl, ?y25⟩) ?r25
  case y25 => (intro W hW; (go_simp; try with_reducible rfl))
  simp only [Act.put, List.setIfInBounds_toArray, List.set_cons_zero, List.set_cons_succ]
  refine wpG_take 26 60 (v := ?v26) rfl rfl (by kernel_rfl) (by kernel_rfl) (by kernel_rfl) (fun _ _ _ h => h) (Or.inl ⟨by rfl, ?y26⟩) ?r26
  case y26 => (intro W hW; (go_simp; try with_reducible rfl))
  simp only [Act.put, List.setIfInBounds_toArray, List.set_cons_zero, List.set_cons_succ]
  refine wpG_take 27 61 (v := ?v27) rfl rfl (by kernel_rfl) (by kernel_rfl) (by kernel_rfl) (fun _ _ _ h => h) (Or.inl ⟨by rfl, ?y27⟩) ?r27
  case y27 => (intro W hW; (go_simp; try with_reducible rfl))
  simp only [Act.put, List.setIfInBounds_toArray, List.set_cons_zero, List.set_cons_succ]
  refine wpG_take 28 62 (v := ?v28) rfl rfl (by kernel_rfl) (by kernel_rfl) (by kernel_rfl) (fun _ _ _ h => h) (Or.inl ⟨by rfl, ?y28⟩) ?r28
  case y28 => (intro W hW; (go_simp; try with_reducible rfl))
  simp only [Act.put, List.setIfInBounds_toArray, List.set_cons_zero, List.set_cons_succ]
  refine wpG_take 30 64 (v := ?v30) rfl rfl (by kernel_rfl) (by kernel_rfl) (by kernel_rfl) (fun _ _ _ h => h) (Or.inl ⟨by rfl, ?y30⟩) ?r30
  case y30 => (intro W hW; (go_simp; try with_reducible rfl))
  simp only [Act.put, List.setIfInBounds_toArray, List.set_cons_zero, List.set_cons_succ]
  refine wpG_take 31 65 (v := ?v31) rfl rfl (by kernel_rfl) (by kernel_rfl) (by kernel_rfl) (fun _ _ _ h => h) (Or.inl ⟨by rfl, ?y31⟩) ?r31
  case y31 => (intro W hW; (go_simp; try with_reducible rfl))
  simp only [Act.put, List.setIfInBounds_toArray, List.set_cons_zero, List.set_cons_succ]
  refine wpG_take 32 66 (v := ?v32) rfl rfl (by kernel_rfl) (by kernel_rfl) (by kernel_rfl) (fun _ _ _ h => h) (Or.inl ⟨by rfl, ?y32⟩) ?r32
  case y32 => (intro W hW; (go_simp; try with_reducible rfl))
  simp only [Act.put, List.setIfInBounds_toArray, List.set_cons_zero, List.set_cons_succ]
  refine wpG_call 29 (by kernel_rfl) rfl (fun K hK => ?_)
  go_simp
  with_reducible refine (HEQ1.out _ HX12.out).mono ?_
  rintro e w13 ⟨rfl, hb⟩
  have HX13 := Lib.hid (HX12.out.go hb)
  clear HX12
  have hgr : Grow w12 w13 := hb
  clear hb
  go_wp2_with fail
  refine hK.out _ _ ?_ ?_
  · exact hgr
  clear hK K
  refine wpG_call 33 (by kernel_rfl) rfl (fun K hK => ?_)
  go_simp
  with_reducible refine (HEQ2.out _ HX13.out).mono ?_
  rintro e w14 ⟨rfl, hb⟩
  have HX14 := Lib.hid (HX13.out.go hb)
  clear HX13
  have hgr : Grow w13 w14 := hb
  clear hb
  go_wp2_with fail
  refine hK.out _ _ ?_ ?_
  · exact hgr
  clear hK K
  refine wpG_take 34 68 (v := ?v34) rfl rfl (by kernel_rfl) (by kernel_rfl) (by kernel_rfl) (fun _ _ _ h => h) (Or.inl ⟨by rfl, ?y34⟩) ?r34
  case y34 => (intro W hW; (go_simp; try with_reducible rfl))
  simp only [Act.put, List.setIfInBounds_toArray, List.set_cons_zero, List.set_cons_succ]
  refine wpG_take 35 69 (v := ?v35) rfl rfl (by kernel_rfl) (by kernel_rfl) (by kernel_rfl) (fun _ _ _ h => h) (Or.inl ⟨by rfl, ?y35⟩) ?r35
  case y35 => (intro W hW; (go_simp; try with_reducible rfl))
  simp only [Act.put, List.setIfInBounds_toArray, List.set_cons_zero, List.set_cons_succ]
  refine wpG_take 36 70 (v := ?v36) rfl rfl (by kernel_rfl) (by kernel_rfl) (by kernel_rfl) (fun _ _ _ h => h) (Or.inl ⟨by rfl, ?y36⟩) ?r36
  case y36 => (intro W hW; (go_simp; try with_reducible rfl))
  simp only [Act.put, List.setIfInBounds_toArray, List.set_cons_zero, List.set_cons_succ]
  refine wpG_take 37 71 (v := ?v37) rfl rfl (by kernel_rfl) (by kernel_rfl) (by kernel_rfl) (fun _ _ _ h => h) (Or.inl ⟨by rfl, ?y37⟩) ?r37
  case y37 => (intro W hW; (go_simp; try with_reducible rfl))
  simp only [Act.put, List.setIfInBounds_toArray, List.set_cons_zero, List.set_cons_succ]
  refine wpG_take 38 72 (v := ?v38) rfl rfl (by kernel_rfl) (by kernel_rfl) (by kernel_rfl) (fun _ _ _ h => h) (Or.inl ⟨by rfl, ?y38⟩) ?r38
  case y38 => (intro W hW; (go_simp; try with_reducible rfl))
  simp only [Act.put, List.setIfInBounds_toArray, List.set_cons_zero, List.set_cons_succ]
  refine wpG_take 39 73 (v := ?v39) rfl rfl (by kernel_rfl) (by kernel_rfl) (by kernel_rfl) (fun _ _ _ h => h) (Or.inl ⟨by rfl, ?y39⟩) ?r39
  case y39 => (intro W hW; have hcv := conv_str W _ a2 len2 cap2 z2 HLB.out (HX14.out.b.grow hW); rw [HSS.out] at hcv; (go_simp; try with_reducible rfl))
  simp only [Act.put, List.setIfInBounds_toArray, List.set_cons_zero, List.set_cons_succ]
  refine wpG_take 41 75 (v := ?v41) rfl rfl (by kernel_rfl) (by kernel_rfl) (by kernel_rfl) (fun _ _ _ h => h) (Or.inl ⟨by rfl, ?y41⟩) ?r41
  case y41 => (intro W hW; (go_simp; try with_reducible rfl))
  simp only [Act.put, List.setIfInBounds_toArray, List.set_cons_zero, List.set_cons_succ]
  refine wpG_take 42 76 (v := ?v42) rfl rfl (by kernel_rfl) (by kernel_rfl) (by kernel_rfl) (fun _ _ _ h => h) (Or.inl ⟨by rfl, ?y42⟩) ?r42
  case y42 => (intro W hW; (go_simp; try with_reducible rfl))
  simp only [Act.put, List.setIfInBounds_toArray, List.set_cons_zero, List.set_cons_succ]
  refine wpG_take 43 77 (v := ?v43) rfl rfl (by kernel_rfl) (by kernel_rfl) (by kernel_rfl) (fun _ _ _ h => h) (Or.inl ⟨by rfl, ?y43⟩) ?r43
  case y43 => (intro W hW; have hcv := conv_str W _ a2 len2 cap2 z2 HLB.out (HX14.out.b.grow hW); rw [HSS.out] at hcv; (go_simp; try with_reducible rfl))
  simp only [Act.put, List.setIfInBounds_toArray, List.set_cons_zero, List.set_cons_succ]
  refine wpG_call 40 (by kernel_rfl) rfl (fun K hK => ?_)
  go_simp
  with_reducible refine (HT1.out _ HX14.out).mono ?_
  rintro e w15 ⟨rfl, hb⟩
  have HX15 := Lib.hid (HX14.out.go hb)
  clear HX14
  have hgr : Grow w14 w15 := hb
  clear hb
  go_wp2_with fail
  refine hK.out _ _ ?_ ?_
  · exact hgr
  clear hK K
  refine wpG_call 44 (by kernel_rfl) rfl (fun K hK => ?_)
  go_simp
  with_reducible refine (HT2.out _ HX15.out).mono ?_
  rintro e w16 ⟨rfl, hb⟩
  have HX16 := Lib.hid (HX15.out.go hb)
  clear HX15
  have hgr : Grow w15 w16 := hb
  clear hb
  go_wp2_with fail
  refine hK.out _ _ ?_ ?_
  · exact hgr
  clear hK K
  refine wpG_take 45 79 (v := ?v45) rfl rfl (by kernel_rfl) (by kernel_rfl) (by kernel_rfl) (fun _ _ _ h => h) (Or.inl ⟨by rfl, ?y45⟩) ?r45
  case y45 => (intro W hW; (go_simp; try with_reducible rfl))
  simp only [Act.put, List.setIfInBounds_toArray, List.set_cons_zero, List.set_cons_succ]
  refine wpG_take 46 80 (v := ?v46) rfl rfl (by kernel_rfl) (by kernel_rfl) (by kernel_rfl) (fun _ _ _ h => h) (Or.inl ⟨by rfl, ?y46⟩) ?r46
  case y46 => (intro W hW; (go_simp; try with_reducible rfl))
  simp only [Act.put, List.setIfInBounds_toArray, List.set_cons_zero, List.set_cons_succ]
  refine wpG_take 47 81 (v := ?v47) rfl rfl (by kernel_rfl) (by kernel_rfl) (by kernel_rfl) (fun _ _ _ h => h) (Or.inl ⟨by rfl, ?y47⟩) ?r47
  case y47 => (intro W hW; (go_simp; try with_reducible rfl))
  simp only [Act.put, List.setIfInBounds_toArray, List.set_cons_zero, List.set_cons_succ]
  refine wpG_take 48 82 (v := ?v48) rfl rfl (by kernel_rfl) (by kernel_rfl) (by kernel_rfl) (fun _ _ _ h => h) (Or.inl ⟨by rfl, ?y48⟩) ?r48
  case y48 => (intro W hW; (go_simp; try with_reducible rfl))
  simp only [Act.put, List.setIfInBounds_toArray, List.set_cons_zero, List.set_cons_succ]
  refine wpG_call 49 (by kernel_rfl) rfl (fun K hK => ?_)
  go_simp
  with_reducible refine (HAW.out _ HX16.out.e.k.t HX16.out.e.k.tab).mono ?_
  rintro e w17 ⟨rfl, hb⟩
  have HX17 := Lib.hid (HX16.out.go hb)
  clear HX16
  have hgr : Grow w16 w17 := hb
  clear hb
  go_wp2_with fail
  refine hK.out _ _ ?_ ?_
  · exact hgr
  clear hK K
  refine wpG_take 50 84 (v := ?v50) rfl rfl (by kernel_rfl) (by kernel_rfl) (by kernel_rfl) (fun _ _ _ h => h) (Or.inl ⟨by rfl, ?y50⟩) ?r50
  case y50 => (intro W hW; (go_simp; try with_reducible rfl))
  simp only [Act.put, List.setIfInBounds_toArray, List.set_cons_zero, List.set_cons_succ]
  refine wpG_take 51 6 (v := ?v51) rfl rfl (by kernel_rfl) (by kernel_rfl) (by kernel_rfl) (fun _ _ _ h => h) (Or.inl ⟨by rfl, ?y51⟩) ?r51
  case y51 => (intro W hW; (go_simp; try with_reducible rfl))
  simp only [Act.put, List.setIfInBounds_toArray, List.set_cons_zero, List.set_cons_succ]
  refine wpG_done (by kernel_rfl) ?_ _
  go_wp2
  go_ret
  exact ⟨rfl, HX17.out.e.k.be⟩
end Go.Proofs.YtdmcidljjfogjaaDoor
