/- Printed by gen_n11hop.py. NumberHopes: whatever was pushed and was OK may become a number. -/
import Derived.Test.YtiibfejgiilakaaDoorN11PlM
import Derived.Test.YtiibfejgiilakaaDoorN11Awk
import Derived.Test.YtiibfejgiilakaaDoorR11More
import Derived.Test.YtiibfejgiilakaaDoorArg
import Derived.Test.YtiibfejgiilakaaDoorReg
import Derived.Deep.CutRange
import Derived.Deep.QuietTactic
import Derived.BigQuiet
namespace Go.Proofs.YtiibfejgiilakaaDoor
set_option maxRecDepth 100000
open Go.ChangeShapes Go.WideShapes Go.ChangeAt Go.RowKit
set_option linter.unusedVariables false
set_option linter.unusedSimpArgs false

theorem u8_wfh {z : List Int} (h : ∀ n ∈ z, (Lit.int .u8 n).wf = true) : ∀ x ∈ z, 0 ≤ x ∧ x ≤ 255 := fun n hn => by
  have := bounds_u8 (h n hn)
  omega
theorem hop_ok {s : List UInt8} {c : UInt8} (h : pushF s c = 0) : ∃ t, goF t0 (s ++ [c]) = some t ∧ mayF t = true := by
  unfold pushF at h
  cases ht : goF t0 (s ++ [c]) with
  | none => rw [ht] at h; exact absurd h (by decide)
  | some t =>
    rw [ht] at h
    dsimp only at h
    cases hm : mayF t with
    | true => exact ⟨t, rfl, hm⟩
    | false =>
      rw [hm, if_neg (by decide)] at h
      split at h <;> exact absurd h (by decide)
def HpL (w : World) (g a : Nat) (z : List Int) (i : Value) (wr : World) : Prop := ∃ (k : Nat) (s : List UInt8), k ≤ z.length ∧ i = .int .i64 k ∧ s.length ≤ k ∧ PP w wr g a s s
set_option maxHeartbeats 16000000 in
theorem hopes_walk (a0 : Option Addr) (n cap : Nat) (z : List Int) (w : World) (hn : z.length = n) (hI : Ints w w.heap.size .u8 a0 z) (hz : ∀ x ∈ z, 0 ≤ x ∧ x ≤ 255) (hm : n ≤ maxLen) :
    Calls Tryd.prog 4 #[.slice a0 n cap] w fun e w' => e = .returned (.bool true) ∧ Below w.heap.size w w' := by
  have HAW := Lib.hid (fun W => awake_any W)
  have HI := Lib.hid hI
  have HZ := Lib.hid hz
  have HN := Lib.hid hn
  unfold maxLen at hm
  clear hI hz hn
  go_enter Tryd.func4, Tryd.ntmps4
  go_wp2_with fail
  with_reducible refine (new_spec w.heap.size w).mono ?_
  rintro e1 w1 ⟨rfl, hn1, hb1⟩
  have HNW := Lib.hid hn1
  have HB1 := Lib.hid hb1
  clear hn1 hb1
  by_cases hbig : 60 < n
  · have q0 : (60 : Int) < n := by omega
    go_wp2_with fail
    with_reducible refine (HAW.out _).mono ?_
    rintro e1 w2 ⟨rfl, hb2⟩
    have HB2 := Lib.hid ((HB1.out.alloc HB1.out.size (.cells #[.string (bs [])] 27)).trans (hb2.mono (by rw [World.size_alloc]; have := HB1.out.size; omega)))
    clear hb2
    go_wp2
    go_ret
    exact ⟨rfl, HB2.out⟩
  have q0 : ¬ (60 : Int) < n := by omega
  obtain ⟨g, hg⟩ : ∃ g, w.heap.size = g := ⟨_, rfl⟩
  obtain ⟨a, ha⟩ : ∃ a, w1.heap.size = a := ⟨_, rfl⟩
  have HP0 : Hid (PP w (w1.alloc (.cells #[.string (bs [])] 27)) g a [] []) := Lib.hid (by rw [← ha]; exact PP.new (by rw [hg] at HNW ⊢; exact HNW.out) HB1.out (by omega))
  clear HNW HB1
  go_wp2_with fail
  go_loopw [5] (fun i wr => HpL w g a z i wr) (fun i _ => n - (intOf i).toNat)
  case atStart => exact ⟨0, [], by omega, rfl, Nat.le_refl _, HP0.out⟩
  case round =>
    clear HP0
    obtain ⟨k, s, hk, rfl, hs, hpp⟩ := hrel
    have HP := Lib.hid hpp
    have hzn := HN.out
    clear hpp
    by_cases hlt : k < n
    · have hlt' : (k : Int) < n := by omega
      obtain ⟨b, o, rfl, hbl, hcell⟩ := HI.out.at (by omega)
      have hzk := HZ.out (z.getD k 0) (by rw [List.getD_eq_getElem?_getD, List.getElem?_eq_getElem (by omega)]; exact List.getElem_mem _)
      obtain ⟨c, hc⟩ := u8_of hzk.1 hzk.2
      have HCELL : Hid (∀ W, Below w.heap.size w W → W.cell? ⟨b, o + k, none⟩ = some (.int .u8 (c.toNat : Int))) := Lib.hid (fun W hW => (hW.cell (p := ⟨b, o + k, none⟩) hbl).trans (by rw [hc]; exact hcell k (by omega)))
      have kx := HCELL.out _ HP.out.b
      obtain ⟨pe, s2, hpe, hs2, hl2, hpn, hpr⟩ := both_push w.heap.size g a s c (by omega)
      have HPN := Lib.hid hpn
      have HPR := Lib.hid hpr
      have HS2 := Lib.hid hs2
      have HPE := Lib.hid hpe
      have hw1 : IntKind.i64.wrap ((k : Int) + 1) = (k : Int) + 1 := IntWalk.i64_in _ (by omega)
      obtain ⟨v, hv⟩ := HP.out.n
      have HV := Lib.hid (HPN.out v _ hv HP.out.b.size)
      have HVV := Lib.hid hv
      clear hzk hc hcell hpe hs2 hpn hpr hv
      generalize (c.toNat : Int) = ci at *
      go_wp2_with fail
      with_reducible refine HV.out.mono ?_
      rintro e w2 ⟨rfl, v', hn, hf, hra⟩
      have HP2 := Lib.hid (HP.out.pushN HVV.out hn hf)
      clear hn hf hra HP HVV HV HPN kx
      by_cases hp0 : pe = 0
      · subst hp0
        have hs2 := HS2.out
        rw [if_pos rfl] at hs2
        obtain ⟨t, ht, hmt⟩ := hop_ok HPE.out
        rw [hs2] at ht
        have HMO := Lib.hid (fun W h => rmore_any a s2 t W h (by omega) ht hmt)
        clear hs2 HS2 HPE ht hmt
        have kx := HCELL.out _ HP2.out.b
        go_wp2_with fail
        with_reducible refine (HPR.out _ HP2.out.r).mono ?_
        rintro e w3 ⟨rfl, hr, hbt⟩
        have HP3 := Lib.hid (HP2.out.pushR hr hbt)
        clear hr hbt HP2 HPR kx HCELL
        obtain ⟨v3, hv3⟩ := HP3.out.n
        have HCP := Lib.hid (copy_spec w.heap.size g v3 s2 w3 hv3)
        clear hv3
        go_wp2_with fail
        with_reducible refine HCP.out.mono ?_
        rintro e w4 ⟨gm, vm, rfl, hgm, hmm, hb4⟩
        have HC4 : Hid (Below w3.heap.size w3 w4) := Lib.hid hb4
        have HM4 := Lib.hid hmm
        clear hmm hb4 HCP
        have HTX : Hid (∀ W, PP w W g a s2 s2 → Calls Tryd.prog 10 #[.pointer (some ⟨g, 0, none⟩)] W fun e w' => e = .returned (.string (bs s2)) ∧ W = w') := Lib.hid (fun W h => by
          obtain ⟨v, hv⟩ := h.n
          exact text_spec w.heap.size g v s2 _ hv)
        have HTQ : Hid (∀ q, Calls Tryd.prog 10 #[.pointer (some ⟨g, 0, none⟩)] (w4.drewN q) fun e w' => e = .returned (.string (bs s2)) ∧ w4.drewN q = w') := Lib.hid (fun q => HTX.out _ ((HP3.out.go HC4.out).go (below_drewN' (Below.refl _ _) q)))
        have r0 : w4.cell? ⟨a, 0, none⟩ = some (.string (bs s2)) := Blk.cell (HP3.out.go HC4.out).r 0
        have hal : a < w4.heap.size := Blk.lt (HP3.out.go HC4.out).r
        have hst : ((bs s2).toList == (bs s2).toList) = true := by simp
        go_wp2_with fail
        go_quiet ((go_at_call 10; exact quiet_left' (HTQ.out _)))
        have HC5 := Lib.hid (below_drewN' HC4.out nq)
        have HM5 := Lib.hid (HM4.out.go (below_drewN' (Below.refl w4.heap.size w4) nq) (Nat.le_refl _))
        clear HC4 HM4 HTQ r0 hal
        generalize w4.drewN nq = w5 at *
        go_wp2_with fail
        with_reducible refine (HMO.out _ (HP3.out.go HC5.out).r).mono ?_
        rintro e w6 ⟨u, rfl, hmk, hku, hus, hb6⟩
        have HC6 := Lib.hid (HC5.out.trans (hb6.mono HC5.out.size))
        have HM6 := Lib.hid (HM5.out.go hb6 (Nat.le_refl _))
        have HKU := Lib.hid hku
        obtain ⟨xr, hx1, hx2⟩ := hmk
        have hL8 := L8_len u
        have hfd := feed_of (l := L8 u) (s := s2) (by omega) hx1 hx2
        have HPL := Lib.hid (push_law w3.heap.size gm vm s2 u w6 HM6.out HC6.out.size (by omega))
        rw [hfd] at HPL
        dsimp only at HPL
        have e7 : (((s2 ++ L8 u).length : Nat) : Int) - (s2.length : Int) = (u.size : Int) := by rw [List.length_append]; omega
        rw [e7] at HPL
        have hst2 : (stopF (s2 ++ L8 u)).2 = 0 := by unfold stopF; rw [hx1]; exact hx2
        have HST2 := Lib.hid hst2
        clear hb6 HC5 HM5 hku hx1 hx2 hfd e7 hst2 hL8
        go_wp2_with fail
        with_reducible refine HPL.out.mono ?_
        rintro e w7 ⟨rfl, vm7, hn7, hf7, _⟩
        have HC7 := Lib.hid (HC6.out.trans (hf7.below HC6.out.size hgm HM6.out.low))
        have HEN := Lib.hid (end_spec w3.heap.size gm vm7 (s2 ++ L8 u) w7 hn7)
        rw [HST2.out] at HEN
        generalize (stopF (s2 ++ L8 u)).1 = y1 at HEN
        clear hn7 hf7 HPL HM6 HC6
        go_wp2_with fail
        with_reducible refine HEN.out.mono ?_
        rintro e w8 ⟨rfl, hb8⟩
        have HC8 := Lib.hid (HC7.out.trans (hb8.mono HC7.out.size))
        clear hb8 HC7 HEN
        go_wp2_with fail
        refine wp_region_G (by kernel_rfl) ?_
        have HC9 := Lib.hid (HC8.out.drew)
        clear HC8
        generalize w8.drew = w9 at *
        refine wpG_take 0 70 (v := ?v0) rfl rfl (by kernel_rfl) (by kernel_rfl) (by kernel_rfl) (fun _ _ _ h => h) (Or.inl ⟨by rfl, ?y0⟩) ?r0
        case y0 => (intro W hW; (go_simp; try with_reducible rfl))
        simp only [Act.put, List.setIfInBounds_toArray, List.set_cons_zero, List.set_cons_succ]
        refine wpG_take 1 71 (v := ?v1) rfl rfl (by kernel_rfl) (by kernel_rfl) (by kernel_rfl) (fun _ _ _ h => h) (Or.inl ⟨by rfl, ?y1⟩) ?r1
        case y1 => (intro W hW; (go_simp; try with_reducible rfl))
        simp only [Act.put, List.setIfInBounds_toArray, List.set_cons_zero, List.set_cons_succ]
        refine wpG_take 2 72 (v := ?v2) rfl rfl (by kernel_rfl) (by kernel_rfl) (by kernel_rfl) (fun _ _ _ h => h) (Or.inl ⟨by rfl, ?y2⟩) ?r2
        case y2 => (intro W hW; (go_simp; try with_reducible rfl))
        simp only [Act.put, List.setIfInBounds_toArray, List.set_cons_zero, List.set_cons_succ]
        refine wpG_take 3 73 (v := ?v3) rfl rfl (by kernel_rfl) (by kernel_rfl) (by kernel_rfl) (fun _ _ _ h => h) (Or.inl ⟨by rfl, ?y3⟩) ?r3
        case y3 => (intro W hW; (go_simp; try with_reducible rfl))
        simp only [Act.put, List.setIfInBounds_toArray, List.set_cons_zero, List.set_cons_succ]
        refine wpG_take 4 74 (v := ?v4) rfl rfl (by kernel_rfl) (by kernel_rfl) (by kernel_rfl) (fun _ _ _ h => h) (Or.inl ⟨by rfl, ?y4⟩) ?r4
        case y4 => (intro W hW; (go_simp; try with_reducible rfl))
        simp only [Act.put, List.setIfInBounds_toArray, List.set_cons_zero, List.set_cons_succ]
        refine wpG_call 5 (by kernel_rfl) rfl (fun K hK => ?_)
        go_simp
        refine Calls.mono (HMO.out _ (HP3.out.go HC9.out).r) ?_
        rintro e1 w10 ⟨u2, rfl, hmk2, hk2, hus2, hb10⟩
        have HU2 := Lib.hid (more_uniq HKU.out hk2)
        have hus3 : u2.size = u.size := by have h1 := congrArg List.length HU2.out; rw [L8_len, L8_len] at h1; exact h1.symm
        have hne2 : ((u.size : Int) != (u2.size : Int)) = false := by rw [hus3]; simp
        have HC10 := Lib.hid (HC9.out.trans (hb10.mono HC9.out.size))
        clear hmk2 hk2 hus2
        refine hK.out _ _ ?_ ?_
        · exact hb10
        clear hK K
        refine wpG_take 6 76 (v := ?v6) rfl rfl (by kernel_rfl) (by kernel_rfl) (by kernel_rfl) (fun _ _ _ h => h) (Or.inl ⟨by rfl, ?y6⟩) ?r6
        case y6 => (intro W hW; (go_simp; try with_reducible rfl))
        simp only [Act.put, List.setIfInBounds_toArray, List.set_cons_zero, List.set_cons_succ]
        refine wpG_take 7 77 (v := ?v7) rfl rfl (by kernel_rfl) (by kernel_rfl) (by kernel_rfl) (fun _ _ _ h => h) (Or.inl ⟨by rfl, ?y7⟩) ?r7
        case y7 => (intro W hW; (go_simp; try with_reducible rfl))
        simp only [Act.put, List.setIfInBounds_toArray, List.set_cons_zero, List.set_cons_succ]
        refine wpG_take 8 78 (v := ?v8) rfl rfl (by kernel_rfl) (by kernel_rfl) (by kernel_rfl) (fun _ _ _ h => h) (Or.inl ⟨by rfl, ?y8⟩) ?r8
        case y8 => (intro W hW; (go_simp; try with_reducible rfl))
        simp only [Act.put, List.setIfInBounds_toArray, List.set_cons_zero, List.set_cons_succ]
        refine wpG_take 9 79 (v := ?v9) rfl rfl (by kernel_rfl) (by kernel_rfl) (by kernel_rfl) (fun _ _ _ h => h) (Or.inl ⟨by rfl, ?y9⟩) ?r9
        case y9 => (intro W hW; (go_simp; try with_reducible rfl))
        simp only [Act.put, List.setIfInBounds_toArray, List.set_cons_zero, List.set_cons_succ]
        refine wpG_take 10 80 (v := ?v10) rfl rfl (by kernel_rfl) (by kernel_rfl) (by kernel_rfl) (fun _ _ _ h => h) (Or.inl ⟨by rfl, ?y10⟩) ?r10
        case y10 => (intro W hW; (go_simp; try with_reducible rfl))
        simp only [Act.put, List.setIfInBounds_toArray, List.set_cons_zero, List.set_cons_succ]
        refine wpG_take 11 81 (v := ?v11) rfl rfl (by kernel_rfl) (by kernel_rfl) (by kernel_rfl) (fun _ _ _ h => h) (Or.inl ⟨by rfl, ?y11⟩) ?r11
        case y11 => (intro W hW; (go_simp; try with_reducible rfl))
        simp only [Act.put, List.setIfInBounds_toArray, List.set_cons_zero, List.set_cons_succ]
        refine wpG_take 12 82 (v := ?v12) rfl rfl (by kernel_rfl) (by kernel_rfl) (by kernel_rfl) (fun _ _ _ h => h) (Or.inl ⟨by rfl, ?y12⟩) ?r12
        case y12 => (intro W hW; (go_simp; try with_reducible rfl))
        simp only [Act.put, List.setIfInBounds_toArray, List.set_cons_zero, List.set_cons_succ]
        refine wpG_take 13 83 (v := ?v13) rfl rfl (by kernel_rfl) (by kernel_rfl) (by kernel_rfl) (fun _ _ _ h => h) (Or.inl ⟨by rfl, ?y13⟩) ?r13
        case y13 => (intro W hW; (go_simp; try with_reducible rfl))
        simp only [Act.put, List.setIfInBounds_toArray, List.set_cons_zero, List.set_cons_succ]
        refine wpG_take 14 84 (v := ?v14) rfl rfl (by kernel_rfl) (by kernel_rfl) (by kernel_rfl) (fun _ _ _ h => h) (Or.inl ⟨by rfl, ?y14⟩) ?r14
        case y14 => (intro W hW; (go_simp; try with_reducible rfl))
        simp only [Act.put, List.setIfInBounds_toArray, List.set_cons_zero, List.set_cons_succ]
        refine wpG_take 16 86 (v := ?v16) rfl rfl (by kernel_rfl) (by kernel_rfl) (by kernel_rfl) (fun _ _ _ h => h) (Or.inl ⟨by rfl, ?y16⟩) ?r16
        case y16 => (intro W hW; (go_simp; try with_reducible rfl))
        simp only [Act.put, List.setIfInBounds_toArray, List.set_cons_zero, List.set_cons_succ]
        refine wpG_take 17 87 (v := ?v17) rfl rfl (by kernel_rfl) (by kernel_rfl) (by kernel_rfl) (fun _ _ _ h => h) (Or.inl ⟨by rfl, ?y17⟩) ?r17
        case y17 => (intro W hW; have hltW : a < W.heap.size := Nat.lt_of_lt_of_le (Blk.lt (HP3.out.go HC10.out).r) hW.size; (go_simp; try with_reducible rfl))
        simp only [Act.put, List.setIfInBounds_toArray, List.set_cons_zero, List.set_cons_succ]
        refine wpG_take 18 88 (v := ?v18) rfl rfl (by kernel_rfl) (by kernel_rfl) (by kernel_rfl) (fun _ _ _ h => h) (Or.inl ⟨by rfl, ?y18⟩) ?r18
        case y18 => (intro W hW; have hltW : a < W.heap.size := Nat.lt_of_lt_of_le (Blk.lt (HP3.out.go HC10.out).r) hW.size; (go_simp; try with_reducible rfl))
        simp only [Act.put, List.setIfInBounds_toArray, List.set_cons_zero, List.set_cons_succ]
        refine wpG_take 19 89 (v := ?v19) rfl rfl (by kernel_rfl) (by kernel_rfl) (by kernel_rfl) (fun _ _ _ h => h) (Or.inl ⟨by rfl, ?y19⟩) ?r19
        case y19 => (intro W hW; have hcW : W.cell? ⟨a, 0, none⟩ = some (.string (bs s2)) := (hW.cell (p := ⟨a, 0, none⟩) (Blk.lt (HP3.out.go HC10.out).r)).trans (Blk.cell (HP3.out.go HC10.out).r 0); (go_simp; try with_reducible rfl))
        simp only [Act.put, List.setIfInBounds_toArray, List.set_cons_zero, List.set_cons_succ]
        refine wpG_call 15 (by kernel_rfl) rfl (fun K hK => ?_)
        go_simp
        refine Calls.mono (HTX.out _ (HP3.out.go HC10.out)) ?_
        rintro e1 w10' ⟨rfl, rfl⟩
        refine hK.out _ _ ?_ ?_
        · exact Grow.refl _
        clear hK K
        refine wpG_take 20 90 (v := ?v20) rfl rfl (by kernel_rfl) (by kernel_rfl) (by kernel_rfl) (fun _ _ _ h => h) (Or.inl ⟨by rfl, ?y20⟩) ?r20
        case y20 => (intro W hW; (go_simp; try with_reducible rfl))
        simp only [Act.put, List.setIfInBounds_toArray, List.set_cons_zero, List.set_cons_succ]
        refine wpG_take 21 91 (v := ?v21) rfl rfl (by kernel_rfl) (by kernel_rfl) (by kernel_rfl) (fun _ _ _ h => h) (Or.inl ⟨by rfl, ?y21⟩) ?r21
        case y21 => (intro W hW; (go_simp; try with_reducible rfl))
        simp only [Act.put, List.setIfInBounds_toArray, List.set_cons_zero, List.set_cons_succ]
        refine wpG_done (by kernel_rfl) ?_ _
        have HPF := Lib.hid (HP3.out.go HC10.out)
        go_wp2_with fail
        go_roundw
        case rel => exact ⟨k + 1, s2, by omega, by go_num, by omega, HPF.out⟩
        case measure => simp [intOf]; omega
      · have hpb : (pe != 0) = true := by simpa using hp0
        have hs2 := HS2.out
        rw [if_neg hp0] at hs2
        subst hs2
        clear hp0
        go_wp2_with fail
        go_roundw
        case rel => exact ⟨k + 1, s, by omega, by go_num, by omega, HP2.out⟩
        case measure => simp [intOf]; omega
    · have hlt' : ¬ (k : Int) < n := by omega
      go_wp2_with fail
      with_reducible refine (HAW.out _).mono ?_
      rintro e1 w2 ⟨rfl, hb2⟩
      have HB2 := Lib.hid (HP.out.b.trans (hb2.mono HP.out.b.size))
      clear hb2
      go_wp2
      go_ret
      exact ⟨rfl, HB2.out⟩
end Go.Proofs.YtiibfejgiilakaaDoor
