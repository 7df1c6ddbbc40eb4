/- Printed by gen_n11pls.py. NumberPlays: whatever bytes are pushed, the program's number and the document's answer alike. -/
import Derived.Test.YtiibfejgiilakaaDoorN11PlM
import Derived.Test.YtiibfejgiilakaaDoorN11Awk
import Derived.Test.YtiibfejgiilakaaDoorArg
import Derived.Deep.CutRange
import Derived.Deep.QuietTactic
import Derived.BigQuiet
namespace Go.Proofs.YtiibfejgiilakaaDoor
set_option maxRecDepth 100000
open Go.ChangeShapes Go.WideShapes Go.ChangeAt Go.RowKit
set_option linter.unusedVariables false
set_option linter.unusedSimpArgs false

theorem u8_wf {z : List Int} (h : ∀ n ∈ z, (Lit.int .u8 n).wf = true) : ∀ x ∈ z, 0 ≤ x ∧ x ≤ 255 := fun n hn => by
  have := bounds_u8 (h n hn)
  omega
def PlL (w : World) (g a : Nat) (z : List Int) (i : Value) (wr : World) : Prop := ∃ (k : Nat) (s : List UInt8), k ≤ z.length ∧ i = .int .i64 k ∧ s.length ≤ k ∧ PP w wr g a s s
set_option maxHeartbeats 8000000 in
theorem plays_walk (a0 : Option Addr) (n cap : Nat) (z : List Int) (w : World) (hn : z.length = n) (hI : Ints w w.heap.size .u8 a0 z) (hz : ∀ x ∈ z, 0 ≤ x ∧ x ≤ 255) (hm : n ≤ maxLen) :
    Calls Tryd.prog 3 #[.slice a0 n cap] w fun e w' => e = .returned (.bool true) ∧ Below w.heap.size w w' := by
  have HAW := Lib.hid (fun W => awake_any W)
  have HI := Lib.hid hI
  have HZ := Lib.hid hz
  have HN := Lib.hid hn
  unfold maxLen at hm
  clear hI hz hn
  go_enter Tryd.func3, Tryd.ntmps3
  go_wp2_with fail
  with_reducible refine (new_spec w.heap.size w).mono ?_
  rintro e1 w1 ⟨rfl, hn1, hb1⟩
  have HNW := Lib.hid hn1
  have HB1 := Lib.hid hb1
  clear hn1 hb1
  by_cases hbig : 200 < n
  · have q0 : (200 : Int) < n := by omega
    go_wp2_with fail
    with_reducible refine (HAW.out _).mono ?_
    rintro e1 w2 ⟨rfl, hb2⟩
    have HB2 := Lib.hid ((HB1.out.alloc HB1.out.size (.cells #[.string (bs [])] 27)).trans (hb2.mono (by rw [World.size_alloc]; have := HB1.out.size; omega)))
    clear hb2
    go_wp2
    go_ret
    exact ⟨rfl, HB2.out⟩
  have q0 : ¬ (200 : Int) < n := by omega
  obtain ⟨g, hg⟩ : ∃ g, w.heap.size = g := ⟨_, rfl⟩
  obtain ⟨a, ha⟩ : ∃ a, w1.heap.size = a := ⟨_, rfl⟩
  have HP0 : Hid (PP w (w1.alloc (.cells #[.string (bs [])] 27)) g a [] []) := Lib.hid (by rw [← ha]; exact PP.new (by rw [hg] at HNW ⊢; exact HNW.out) HB1.out (by omega))
  clear HNW HB1
  go_wp2_with fail

  go_loopw [5] (fun i wr => PlL w g a z i wr) (fun i _ => n - (intOf i).toNat)
  case atStart => exact ⟨0, [], by omega, rfl, Nat.le_refl _, HP0.out⟩
  case round =>
    clear HP0
    obtain ⟨k, s, hk, rfl, hs, hpp⟩ := hrel
    have HP := Lib.hid hpp
    have hzn := HN.out
    clear hpp
    by_cases hlt : k < n
    · have hlt' : (k : Int) < n := by omega
      obtain ⟨b, o, rfl, hbl, hcell⟩ := HI.out.at (by omega)
      have hzk := HZ.out (z.getD k 0) (by rw [List.getD_eq_getElem?_getD, List.getElem?_eq_getElem (by omega)]; exact List.getElem_mem _)
      obtain ⟨c, hc⟩ := u8_of hzk.1 hzk.2
      have HCELL : Hid (w.cell? ⟨b, o + k, none⟩ = some (.int .u8 (c.toNat : Int))) := Lib.hid (by rw [hc]; exact hcell k (by omega))
      obtain ⟨pe, s2, hpe, hs2, hl2, hpn, hpr⟩ := both_push w.heap.size g a s c (by omega)
      have HPN := Lib.hid hpn
      have HPR := Lib.hid hpr
      have hw1 : IntKind.i64.wrap ((k : Int) + 1) = (k : Int) + 1 := IntWalk.i64_in _ (by omega)
      clear hzk hc hcell hpe hs2 hpn hpr
      go_upto_region 7 with fail
      go_cut [6, 7] from 33 to 45 (fun v v' W => v = .int .i64 pe ∧ v' = .int .i64 pe ∧ PP w W g a s2 s2)
      case first =>
        refine wp_region_H (fun W => Below w.heap.size w W) (by kernel_rfl) ?_
        generalize hW0 : wr.drew = w0
        have HP0 : Hid (PP w w0 g a s s) := Lib.hid (by rw [← hW0]; exact HP.out.go (Below.refl _ _).drew)
        have HS0 := Lib.hid HP0.out.b
        clear hW0 HP
        refine wpH_take 0 33 (v := ?v0) rfl rfl (by kernel_rfl) (by kernel_rfl) (by kernel_rfl) (fun _ _ _ h => h) HS0.out (Or.inl ⟨by rfl, ?y0⟩) ?r0
        case y0 => (intro W hS; go_simp; try with_reducible rfl)
        case r0 =>
        simp only [Act.put, List.setIfInBounds_toArray, List.set_cons_zero, List.set_cons_succ]
        refine wpH_take 1 34 (v := ?v1) rfl rfl (by kernel_rfl) (by kernel_rfl) (by kernel_rfl) (fun _ _ _ h => h) HS0.out (Or.inl ⟨by rfl, ?y1⟩) ?r1
        case y1 => (intro W hS; go_simp; try with_reducible rfl)
        case r1 =>
        simp only [Act.put, List.setIfInBounds_toArray, List.set_cons_zero, List.set_cons_succ]
        refine wpH_take 2 35 (v := ?v2) rfl rfl (by kernel_rfl) (by kernel_rfl) (by kernel_rfl) (fun _ _ _ h => h) HS0.out (Or.inl ⟨by rfl, ?y2⟩) ?r2
        case y2 => (intro W hS; go_simp; try with_reducible rfl)
        case r2 =>
        simp only [Act.put, List.setIfInBounds_toArray, List.set_cons_zero, List.set_cons_succ]
        refine wpH_take 3 36 (v := .pointer (some ⟨b, o + k, none⟩)) rfl rfl (by kernel_rfl) (by kernel_rfl) (by kernel_rfl) (fun _ _ _ h => h) HS0.out (Or.inl ⟨by rfl, ?y3⟩) ?r3
        case y3 => (intro W hS; go_simp; try with_reducible rfl)
        case r3 =>
        simp only [Act.put, List.setIfInBounds_toArray, List.set_cons_zero, List.set_cons_succ]
        refine wpH_take 4 37 (v := .int .u8 (c.toNat : Int)) rfl rfl (by kernel_rfl) (by kernel_rfl) (by kernel_rfl) (fun _ _ _ h => h) HS0.out (Or.inl ⟨by rfl, ?y4⟩) ?r4
        case y4 => (intro W hS; have hcW : W.cell? ⟨b, o + k, none⟩ = some (.int .u8 (c.toNat : Int)) := (by have h1 := hS.cell (p := ⟨b, o + k, none⟩) hbl; exact h1.trans HCELL.out); go_simp)
        case r4 =>
        simp only [Act.put, List.setIfInBounds_toArray, List.set_cons_zero, List.set_cons_succ]
        refine wpH_take 6 39 (v := ?v6) rfl rfl (by kernel_rfl) (by kernel_rfl) (by kernel_rfl) (fun _ _ _ h => h) HS0.out (Or.inl ⟨by rfl, ?y6⟩) ?r6
        case y6 => (intro W hS; go_simp; try with_reducible rfl)
        case r6 =>
        simp only [Act.put, List.setIfInBounds_toArray, List.set_cons_zero, List.set_cons_succ]
        refine wpH_take 7 40 (v := ?v7) rfl rfl (by kernel_rfl) (by kernel_rfl) (by kernel_rfl) (fun _ _ _ h => h) HS0.out (Or.inl ⟨by rfl, ?y7⟩) ?r7
        case y7 => (intro W hS; go_simp; try with_reducible rfl)
        case r7 =>
        simp only [Act.put, List.setIfInBounds_toArray, List.set_cons_zero, List.set_cons_succ]
        refine wpH_take 8 41 (v := ?v8) rfl rfl (by kernel_rfl) (by kernel_rfl) (by kernel_rfl) (fun _ _ _ h => h) HS0.out (Or.inl ⟨by rfl, ?y8⟩) ?r8
        case y8 => (intro W hS; go_simp; try with_reducible rfl)
        case r8 =>
        simp only [Act.put, List.setIfInBounds_toArray, List.set_cons_zero, List.set_cons_succ]
        refine wpH_take 9 42 (v := .pointer (some ⟨b, o + k, none⟩)) rfl rfl (by kernel_rfl) (by kernel_rfl) (by kernel_rfl) (fun _ _ _ h => h) HS0.out (Or.inl ⟨by rfl, ?y9⟩) ?r9
        case y9 => (intro W hS; go_simp; try with_reducible rfl)
        case r9 =>
        simp only [Act.put, List.setIfInBounds_toArray, List.set_cons_zero, List.set_cons_succ]
        refine wpH_take 10 43 (v := .int .u8 (c.toNat : Int)) rfl rfl (by kernel_rfl) (by kernel_rfl) (by kernel_rfl) (fun _ _ _ h => h) HS0.out (Or.inl ⟨by rfl, ?y10⟩) ?r10
        case y10 => (intro W hS; have hcW : W.cell? ⟨b, o + k, none⟩ = some (.int .u8 (c.toNat : Int)) := (by have h1 := hS.cell (p := ⟨b, o + k, none⟩) hbl; exact h1.trans HCELL.out); go_simp)
        case r10 =>
        simp only [Act.put, List.setIfInBounds_toArray, List.set_cons_zero, List.set_cons_succ]
        refine wpH_one 5 (by kernel_rfl) rfl (fun K hK => ?_)
        go_simp
        obtain ⟨v, hv⟩ := HP0.out.n
        refine (HPN.out v _ hv HP0.out.b.size).mono ?_
        rintro e u1 ⟨rfl, v', hn, hf, hra⟩
        have HP1 := Lib.hid (HP0.out.pushN hv hn hf)
        clear hv hn hf hra
        refine hK.out _ _ HP1.out.b ?_
        clear hK K
        try simp only [Act.put, List.getElem_toArray, List.getElem_cons_succ, List.getElem_cons_zero, List.setIfInBounds_toArray, List.set_cons_zero, List.set_cons_succ]
        refine wpH_one 11 (by kernel_rfl) rfl (fun K hK => ?_)
        go_simp
        refine (HPR.out _ HP1.out.r).mono ?_
        rintro e u2 ⟨rfl, hr, hbt⟩
        have HP2 := Lib.hid (HP1.out.pushR hr hbt)
        clear hr hbt
        refine hK.out _ _ HP2.out.b ?_
        clear hK K
        try simp only [Act.put, List.getElem_toArray, List.getElem_cons_succ, List.getElem_cons_zero, List.setIfInBounds_toArray, List.set_cons_zero, List.set_cons_succ]
        have HP2B := Lib.hid HP2.out.b
        refine wpH_take 12 6 (v := ?v12a) rfl rfl (by kernel_rfl) (by kernel_rfl) (by kernel_rfl) (fun _ _ _ h => h) HP2B.out (Or.inl ⟨by rfl, ?ya12⟩) ?ra12
        case ya12 => (intro W hS; go_simp; try with_reducible rfl)
        case ra12 =>
        simp only [Act.put, List.setIfInBounds_toArray, List.set_cons_zero, List.set_cons_succ]
        refine wpH_take 13 7 (v := ?v13a) rfl rfl (by kernel_rfl) (by kernel_rfl) (by kernel_rfl) (fun _ _ _ h => h) HP2B.out (Or.inl ⟨by rfl, ?ya13⟩) ?ra13
        case ya13 => (intro W hS; go_simp; try with_reducible rfl)
        case ra13 =>
        simp only [Act.put, List.setIfInBounds_toArray, List.set_cons_zero, List.set_cons_succ]
        refine wpH_done (by kernel_rfl) ?_ _
        go_wp2_with fail
        go_meet
        case rel => exact ⟨rfl, rfl, HP2.out⟩
      case rest =>
      clear HP HPN HPR HCELL
      obtain ⟨rfl, rfl, hpp⟩ := hcut
      have HP := Lib.hid hpp
      clear hpp
      have hpp2 : (pe != pe) = false := by simp
      have HTX : Hid (∀ q, Calls Tryd.prog 10 #[.pointer (some ⟨g, 0, none⟩)] (wc.drewN q) fun e w' => e = .returned (.string (bs s2)) ∧ wc.drewN q = w') := Lib.hid (fun q => by
        obtain ⟨v, hv⟩ := HP.out.n
        exact text_spec w.heap.size g v s2 _ (hv.go (below_drewN' (Below.refl _ _) q) (Nat.le_refl _)))
      have r0 : wc.cell? ⟨a, 0, none⟩ = some (.string (bs s2)) := Blk.cell HP.out.r 0
      have hal : a < wc.heap.size := Blk.lt HP.out.r
      have hst : ((bs s2).toList == (bs s2).toList) = true := by simp
      go_wp2_with fail
      go_quiet ((go_at_call 10; exact quiet_left' (HTX.out _)))
      have HPq := Lib.hid (HP.out.go (below_drewN' (Below.refl _ _) nq))
      clear HP HTX r0 hal hst hpp2
      generalize wc.drewN nq = wq at *
      have HE1 : Hid (Calls Tryd.prog 11 #[.pointer (some ⟨g, 0, none⟩)] wq fun e w' => e = .returned (.tuple #[.int .i64 (stopF s2).1, .int .i64 (stopF s2).2]) ∧ Below wq.heap.size wq w') := Lib.hid (by
        obtain ⟨v, hv⟩ := HPq.out.n
        exact end_spec w.heap.size g v s2 _ hv)
      have HE2 : Hid (∀ W, RN W a s2 → Calls Tryd.prog 12 #[.pointer (some ⟨a, 0, none⟩)] W fun e w' => e = .returned (.tuple #[.int .i64 (stopF s2).1, .int .i64 (stopF s2).2]) ∧ Below W.heap.size W w') := Lib.hid (fun W hr => rend_any a s2 W hr (by omega))
      generalize stopF s2 = st at *
      obtain ⟨y1, y2⟩ := st
      have hy1 : (y1 != y1) = false := by simp
      have hy2 : (y2 != y2) = false := by simp
      go_wp2_with fail
      with_reducible refine HE1.out.mono ?_
      rintro e1 w3 ⟨rfl, hb3⟩
      have HP3 := Lib.hid (HPq.out.go hb3)
      clear hb3 HE1 HPq
      go_wp2_with fail
      with_reducible refine (HE2.out _ HP3.out.r).mono ?_
      rintro e1 w4 ⟨rfl, hb4⟩
      have HP4 := Lib.hid (HP3.out.go hb4)
      clear hb4 HE2 HP3
      go_wp2
      go_roundw
      case rel => exact ⟨k + 1, s2, by omega, by go_num, by omega, HP4.out⟩
      case measure => simp [intOf]; omega
    · have hlt' : ¬ (k : Int) < n := by omega
      go_wp2_with fail
      with_reducible refine (HAW.out _).mono ?_
      rintro e1 w2 ⟨rfl, hb2⟩
      have HB2 := Lib.hid (HP.out.b.trans (hb2.mono HP.out.b.size))
      clear hb2
      go_wp2
      go_ret
      exact ⟨rfl, HB2.out⟩
end Go.Proofs.YtiibfejgiilakaaDoor
