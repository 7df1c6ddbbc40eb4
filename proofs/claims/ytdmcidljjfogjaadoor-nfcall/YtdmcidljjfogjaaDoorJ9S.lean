/- Joined of: N9Ex, N9Awk. -/
import Derived.Test.YtdmcidljjfogjaaDoorJ9Q
import Derived.Test.YtdmcidljjfogjaaDoorJ9M
import Derived.Test.YtdmcidljjfogjaaDoorJ9J
import Derived.Test.YtdmcidljjfogjaaDoorJ9F
/- Layer 9: the chapter's examples. -/
namespace Go.Proofs.YtdmcidljjfogjaaDoor
set_option maxRecDepth 100000
set_option linter.unusedVariables false

theorem kN1 : lkJ P5 65 778 none = some 197 := by kernel_rfl
theorem kN2 : (Nat.beq (lk C5 65 0) 0 && (Nat.beq (lk C5 778 0) 230 && (Nat.beq (lk S5 233 0) 0 && (Nat.beq (lk S5 8491 0) 197 && (Nat.beq (lk C5 98 0) 0 && Nat.beq (lk C5 99 0) 0))))) = true := by kernel_rfl
theorem kN3 : (!hasBit keysB 97 && (!hasBit keysB 98 && (!hasBit keysB 99 && (!hasBit keysB 101 && !hasBit keysB 769)))) = true := by kernel_rfl
theorem kN4 : (!hasBit seB 97 && (!hasBit seB 98 && !hasBit seB 99)) = true := by kernel_rfl
attribute [local irreducible] P5 S5 C5
theorem ex_n : cl5 65 = 0 ∧ cl5 98 = 0 ∧ cl5 99 = 0 := by
  have k := kN2
  simp only [Bool.and_eq_true, Nat.beq_eq] at k
  obtain ⟨k1, k2, k3, k4, k5, k6⟩ := k
  have h1 := cl5_at 65
  have h2 := cl5_at 98
  have h3 := cl5_at 99
  rw [k1] at h1
  rw [k5] at h2
  rw [k6] at h3
  exact ⟨h1, h2, h3⟩
theorem ex_plain : Plain T5 97 ∧ Plain T5 98 ∧ Plain T5 99 ∧ Plain T5 101 ∧ Plain T5 769 := by
  have k := kN3
  simp only [Bool.and_eq_true] at k
  exact ⟨plain_at (c := 97) (by omega) k.1, plain_at (c := 98) (by omega) k.2.1, plain_at (c := 99) (by omega) k.2.2.1, plain_at (c := 101) (by omega) k.2.2.2.1, plain_at (c := 769) (by omega) k.2.2.2.2⟩
theorem comp2 {cl : Int → Int} {two : Int → Int → Option Int} (a b : Int) : comp cl two [a, b] = crow (cstep cl two (cstep cl two ([], none) a) b) := rfl
theorem comp_c5 : comp cl5 two5 [65, 778] = [197] := by
  have t1 : two5 65 778 = some 197 := two_at (x := 65) (by omega) kN1
  rw [comp2, cstep_zero ex_n.1, cstep_two t1 rfl]; rfl
theorem comp_e9 : comp cl5 two5 [101, 769] = [233] := by
  have t1 : two5 101 769 = some 233 := two_at (x := 101) (by omega) kJ5
  rw [comp2, cstep_zero cls8.2.2.2.1, cstep_two t1 rfl]; rfl
theorem ex_form : form5 [8491] = [197] := by
  show comp cl5 two5 (allF T5 cl5 [8491]) = [197]
  rw [all_awake, comp_c5]
theorem ex_form2 : form5 [197] = [197] := by
  have h := form_once cmp5 [8491]
  rwa [show formF T5 cl5 two5 [8491] = [197] from ex_form] at h
theorem ex_all : allF T5 cl5 [101, 769] = [101, 769] := by
  unfold allF
  have e2 : partsF T5 [101, 769] = [101, 769] := partsF_self fun d hd => by
    simp at hd
    rcases hd with rfl | rfl
    · exact ex_plain.2.2.2.1
    · exact ex_plain.2.2.2.2
  rw [e2]
  exact ordL_self cl5_nn ⟨fun _ => by rw [cls8.2.2.2.1, cls8.2.2.1]; omega, trivial⟩
theorem ex_full : fullF T5 233 = [101, 769] := by
  have k := kN2
  simp only [Bool.and_eq_true, Nat.beq_eq] at k
  obtain ⟨p1, x1, y1⟩ := pair_at kAwP
  have e1 : fullF T5 ((233 : Nat) : Int) = fullF T5 (pxF P5 ((233 : Nat) : Int)) ++ fullF T5 (pyF P5 ((233 : Nat) : Int)) := full_pk ends5 (split_low (by omega)) (by rw [sgl_at, k.2.2.1]; rfl) p1
  rw [x1, y1] at e1
  have h1 : fullF T5 ((101 : Nat) : Int) = [101] := full_no ex_plain.2.2.2.1
  have h2 : fullF T5 ((769 : Nat) : Int) = [769] := full_no ex_plain.2.2.2.2
  rw [h1, h2] at e1
  exact e1
theorem ex_all2 : allF T5 cl5 [233] = [101, 769] := by
  unfold allF
  rw [partsF_one, ex_full]
  exact ordL_self cl5_nn ⟨fun _ => by rw [cls8.2.2.2.1, cls8.2.2.1]; omega, trivial⟩
theorem ex_two : two5 101 769 = some 233 := two_at (x := 101) (by omega) kJ5
theorem ex_eq : form5 [233] = form5 [101, 769] := (form_eq cmp5 _ _).2 (ex_all2.trans ex_all.symm)
theorem ex_form3 : form5 [101, 769] = [233] := by
  show comp cl5 two5 (allF T5 cl5 [101, 769]) = [233]
  rw [ex_all, comp_e9]
theorem plain_good {c : Int} (h : Plain T5 c) : good5 c := nq5.gp c h
theorem ex_q1 : quickF [101, 769] = 3 := by
  unfold quickF
  rw [if_neg, if_pos ⟨769, by simp, nq5.tk _ _ _ ex_two⟩]
  rintro (⟨c, hc, hn⟩ | hn)
  · simp at hc
    rcases hc with rfl | rfl
    · exact hn (plain_good ex_plain.2.2.2.1)
    · exact hn (plain_good ex_plain.2.2.2.2)
  · exact hn ⟨fun _ => by rw [cls8.2.2.2.1, cls8.2.2.1]; omega, trivial⟩
theorem ex_q2 : quickF [97, 98, 99] = 1 := by
  have k := kN4
  simp only [Bool.and_eq_true, Bool.not_eq_true'] at k
  unfold quickF
  rw [if_neg, if_neg]
  · rintro ⟨c, hc, hm⟩
    have hb : mb5 97 = false ∧ mb5 98 = false ∧ mb5 99 = false := ⟨mb_no (sec_no (c := 97) k.1) (by decide) (by decide), mb_no (sec_no (c := 98) k.2.1) (by decide) (by decide), mb_no (sec_no (c := 99) k.2.2) (by decide) (by decide)⟩
    simp at hc
    rcases hc with rfl | rfl | rfl
    · rw [hb.1] at hm; cases hm
    · rw [hb.2.1] at hm; cases hm
    · rw [hb.2.2] at hm; cases hm
  · rintro (⟨c, hc, hn⟩ | hn)
    · simp at hc
      rcases hc with rfl | rfl | rfl
      · exact hn (plain_good ex_plain.1)
      · exact hn (plain_good ex_plain.2.1)
      · exact hn (plain_good ex_plain.2.2.1)
    · exact hn ⟨fun _ => by rw [cls8.1, ex_n.2.1]; omega, fun _ => by rw [ex_n.2.1, ex_n.2.2]; omega, trivial⟩
theorem ex_q3 : quickF [8491] = 2 := by
  have k := kN2
  simp only [Bool.and_eq_true, Nat.beq_eq] at k
  unfold quickF
  rw [if_pos]
  refine .inl ⟨8491, by simp, fun h => ?_⟩
  have h1 := h.1
  have h2 := sgl_at 8491
  rw [k.2.2.2.1] at h2
  have h2 : T5.sg 8491 = 197 := h2
  rw [h2] at h1
  cases h1
theorem ex_t1 : textF [101, 204, 129] = [195, 169] := by
  have e : allS [101, 204, 129] = ([101, 769], 3, true) := by decide
  unfold textF
  rw [e]
  show (if true = true then txt (form5 [101, 769]) else _) = _
  rw [if_pos rfl, ex_form3]
  decide
theorem ex_t2 : textF [255] = [255] := by
  have e : (allS [255]).2.2 = false := by decide
  unfold textF
  rw [e]
  rfl
end Go.Proofs.YtdmcidljjfogjaaDoor

/- Printed by gen_n9awk.py. law09's awake. -/
namespace Go.Proofs.YtdmcidljjfogjaaDoor
set_option maxRecDepth 100000
open Go.ChangeShapes Go.WideShapes Go.ChangeAt Go.RowKit
set_option linter.unusedVariables false
set_option linter.unusedSimpArgs false
attribute [local irreducible] P5 S5 C5

/-- what stays -/
structure K9 (w : World) (g : Nat) (W : World) : Prop where
  t : TblAt W W.heap.size g C5 P5 S5
  tab : Tab W
  be : Below w.heap.size w W
theorem K9.go {w W W' : World} {g : Nat} (h : K9 w g W) (hb : Below W.heap.size W W') : K9 w g W' := ⟨h.t.go hb, h.tab.below' hb, h.be.trans (hb.mono h.be.size)⟩

set_option maxHeartbeats 8000000 in
theorem awake9 (HN : NfcOk) (w : World) (g : Nat) (hT : TblAt w w.heap.size g C5 P5 S5) (hTab : Tab w) : Calls Tryd.prog 10 #[.pointer (some ⟨g, 0, none⟩)] w fun e w' => e = .returned (.bool true) ∧ Below w.heap.size w w' := by
  have HK : Hid (K9 w g w) := Lib.hid ⟨hT, hTab, Below.refl _ _⟩
  clear hT hTab
  have HF : Hid (∀ W A, K9 w g W → RowIn W A 1 1 [8491] → Calls Tryd.prog 12 #[.pointer (some ⟨g, 0, none⟩), .slice A 1 1] W (RowOut W [197])) := Lib.hid fun W A h hr => by
    have := HN.form W g A 1 1 _ hr h.t (fun x hx => by simp at hx; unfold R32; omega) (by omega)
    rwa [ex_form] at this
  have HE : Hid (∀ W A B, K9 w g W → RowIn W A 1 1 [233] → RowIn W B 2 2 [101, 769] → Calls Tryd.prog 18 #[.pointer (some ⟨g, 0, none⟩), .slice A 1 1, .slice B 2 2] W fun e w' => e = .returned (.bool true) ∧ Below W.heap.size W w') := Lib.hid fun W A B h hr hs => by
    have := HN.equal W g A 1 1 _ B 2 2 _ hr hs h.t (fun x hx => by simp at hx; unfold R32; omega) (fun x hx => by simp at hx; unfold R32; omega) (by omega) (by omega)
    rwa [decide_eq_true ex_eq] at this
  have HQ3 : Hid (∀ W A, K9 w g W → RowIn W A 2 2 [101, 769] → Calls Tryd.prog 16 #[.pointer (some ⟨g, 0, none⟩), .slice A 2 2] W fun e w' => e = .returned (.int .i64 3) ∧ Below W.heap.size W w') := Lib.hid fun W A h hr => by
    have := HN.quick W g A 2 2 _ hr h.t (fun x hx => by simp at hx; unfold R32; omega) (by omega)
    rwa [ex_q1] at this
  have HQ1 : Hid (∀ W A, K9 w g W → RowIn W A 3 3 [97, 98, 99] → Calls Tryd.prog 16 #[.pointer (some ⟨g, 0, none⟩), .slice A 3 3] W fun e w' => e = .returned (.int .i64 1) ∧ Below W.heap.size W w') := Lib.hid fun W A h hr => by
    have := HN.quick W g A 3 3 _ hr h.t (fun x hx => by simp at hx; unfold R32; omega) (by omega)
    rwa [ex_q2] at this
  have HQ2 : Hid (∀ W A, K9 w g W → RowIn W A 1 1 [8491] → Calls Tryd.prog 16 #[.pointer (some ⟨g, 0, none⟩), .slice A 1 1] W fun e w' => e = .returned (.int .i64 2) ∧ Below W.heap.size W w') := Lib.hid fun W A h hr => by
    have := HN.quick W g A 1 1 _ hr h.t (fun x hx => by simp at hx; unfold R32; omega) (by omega)
    rwa [ex_q3] at this
  have HI : Hid (∀ W A n c, K9 w g W → RowIn W A n c [197] → Calls Tryd.prog 14 #[.pointer (some ⟨g, 0, none⟩), .slice A n c] W fun e w' => e = .returned (.bool true) ∧ Below W.heap.size W w') := Lib.hid fun W A n c h hr => by
    have := HN.is W g A n c _ hr h.t (fun x hx => by simp at hx; unfold R32; omega) (by have h1 := hr.len; simp at h1; omega)
    rwa [decide_eq_true ex_form2] at this
  have HT1 : Hid (∀ W, K9 w g W → Calls Tryd.prog 20 #[.pointer (some ⟨g, 0, none⟩), .string ⟨#[101, 204, 129]⟩] W fun e w' => e = .returned (.string ⟨#[195, 169]⟩) ∧ Below W.heap.size W w') := Lib.hid fun W h => by
    have := HN.text W g [101, 204, 129] h.tab h.t (fun x hx => by simp at hx; omega) (by simp)
    rw [ex_t1] at this
    exact this
  have HT2 : Hid (∀ W, K9 w g W → Calls Tryd.prog 20 #[.pointer (some ⟨g, 0, none⟩), .string ⟨#[255]⟩] W fun e w' => e = .returned (.string ⟨#[255]⟩) ∧ Below W.heap.size W w') := Lib.hid fun W h => by
    have := HN.text W g [255] h.tab h.t (fun x hx => by simp at hx; omega) (by simp)
    rw [ex_t2] at this
    exact this
  clear HN
  have hs1 : ((⟨#[195, 169]⟩ : ByteArray) == ⟨#[195, 169]⟩) = true := by decide
  have hs2 : ((⟨#[255]⟩ : ByteArray) == ⟨#[255]⟩) = true := by decide
  go_enter Tryd.func10, Tryd.ntmps10
  go_wp2_with fail
  have hl : RowIn (w.alloc (.cells #[.int .i32 8491] 21)) (some ⟨w.heap.size, 0, none⟩) 1 1 [8491] := RowIn.lit w 21 [8491] 1 rfl (by omega)
  have HK1 := Lib.hid (HK.out.go (below_new w (.cells #[.int .i32 8491] 21)))
  clear HK
  have LL1 := Lib.hid hl
  clear hl
  generalize w.alloc (.cells #[.int .i32 8491] 21) = v1 at *
  generalize w.heap.size = p1 at *
  with_reducible refine (HF.out _ _ HK1.out LL1.out).mono ?_
  rintro e u1 ⟨AF, nF, cF, rfl, hr, hb⟩
  obtain rfl : nF = 1 := hr.len.symm
  have HK2 := Lib.hid (HK1.out.go hb)
  clear HK1
  have RF2 := Lib.hid hr
  clear hr hb
  go_wp2_with fail
  have hl1 : RowIn (u1.alloc (.cells #[.int .i32 233] 21)) (some ⟨u1.heap.size, 0, none⟩) 1 1 [233] := RowIn.lit u1 21 [233] 1 rfl (by omega)
  have hl2 : RowIn ((u1.alloc (.cells #[.int .i32 233] 21)).alloc (.cells #[.int .i32 101, .int .i32 769] 21)) (some ⟨u1.heap.size + 1, 0, none⟩) 2 2 [101, 769] := by have h := RowIn.lit (u1.alloc (.cells #[.int .i32 233] 21)) 21 [101, 769] 2 rfl (by omega); rwa [World.size_alloc] at h
  have hl1 := hl1.go (below_new (u1.alloc (.cells #[.int .i32 233] 21)) (.cells #[.int .i32 101, .int .i32 769] 21))
  have HK3 := Lib.hid (HK2.out.go ((below_new u1 (.cells #[.int .i32 233] 21)).trans ((below_new (u1.alloc (.cells #[.int .i32 233] 21)) (.cells #[.int .i32 101, .int .i32 769] 21)).mono (by rw [World.size_alloc]; omega))))
  have RF3 := Lib.hid (RF2.out.go ((below_new u1 (.cells #[.int .i32 233] 21)).trans ((below_new (u1.alloc (.cells #[.int .i32 233] 21)) (.cells #[.int .i32 101, .int .i32 769] 21)).mono (by rw [World.size_alloc]; omega))))
  clear HK2 RF2
  have LA := Lib.hid hl1
  have LB := Lib.hid hl2
  clear hl1 hl2
  generalize (u1.alloc (.cells #[.int .i32 233] 21)).alloc (.cells #[.int .i32 101, .int .i32 769] 21) = v3 at *
  generalize u1.heap.size = p3 at *
  with_reducible refine (HE.out _ _ _ HK3.out LA.out LB.out).mono ?_
  rintro e u3 ⟨rfl, hb⟩
  have HK4 := Lib.hid (HK3.out.go hb)
  have RF4 := Lib.hid (RF3.out.go hb)
  clear HK3 RF3
  clear hb
  clear LA LB
  go_wp2_with fail
  have hl : RowIn (u3.alloc (.cells #[.int .i32 197] 21)) (some ⟨u3.heap.size, 0, none⟩) 1 1 [197] := RowIn.lit u3 21 [197] 1 rfl (by omega)
  have HK5 := Lib.hid (HK4.out.go (below_new u3 (.cells #[.int .i32 197] 21)))
  have RF5 := Lib.hid (RF4.out.go (below_new u3 (.cells #[.int .i32 197] 21)))
  clear HK4 RF4
  have LL5 := Lib.hid hl
  clear hl
  generalize u3.alloc (.cells #[.int .i32 197] 21) = v5 at *
  generalize u3.heap.size = p5 at *
  with_reducible refine (same_rows RF5.out LL5.out rfl (by omega)).mono ?_
  rintro e u5 ⟨rfl, hs⟩
  have HK6 := Lib.hid (HK5.out.go hs.below)
  have RF6 := Lib.hid (RF5.out.go hs.below)
  clear HK5 RF5
  clear hs
  go_wp2_with fail
  have hl : RowIn (u5.alloc (.cells #[.int .i32 101, .int .i32 769] 21)) (some ⟨u5.heap.size, 0, none⟩) 2 2 [101, 769] := RowIn.lit u5 21 [101, 769] 2 rfl (by omega)
  have HK7 := Lib.hid (HK6.out.go (below_new u5 (.cells #[.int .i32 101, .int .i32 769] 21)))
  have RF7 := Lib.hid (RF6.out.go (below_new u5 (.cells #[.int .i32 101, .int .i32 769] 21)))
  clear HK6 RF6
  have LL7 := Lib.hid hl
  clear hl
  generalize u5.alloc (.cells #[.int .i32 101, .int .i32 769] 21) = v7 at *
  generalize u5.heap.size = p7 at *
  with_reducible refine (HQ3.out _ _ HK7.out LL7.out).mono ?_
  rintro e u7 ⟨rfl, hb⟩
  have HK8 := Lib.hid (HK7.out.go hb)
  have RF8 := Lib.hid (RF7.out.go hb)
  clear HK7 RF7
  clear hb
  go_wp2_with fail
  have hl : RowIn (u7.alloc (.cells #[.int .i32 97, .int .i32 98, .int .i32 99] 21)) (some ⟨u7.heap.size, 0, none⟩) 3 3 [97, 98, 99] := RowIn.lit u7 21 [97, 98, 99] 3 rfl (by omega)
  have HK9 := Lib.hid (HK8.out.go (below_new u7 (.cells #[.int .i32 97, .int .i32 98, .int .i32 99] 21)))
  have RF9 := Lib.hid (RF8.out.go (below_new u7 (.cells #[.int .i32 97, .int .i32 98, .int .i32 99] 21)))
  clear HK8 RF8
  have LL9 := Lib.hid hl
  clear hl
  generalize u7.alloc (.cells #[.int .i32 97, .int .i32 98, .int .i32 99] 21) = v9 at *
  generalize u7.heap.size = p9 at *
  with_reducible refine (HQ1.out _ _ HK9.out LL9.out).mono ?_
  rintro e u9 ⟨rfl, hb⟩
  have HK10 := Lib.hid (HK9.out.go hb)
  have RF10 := Lib.hid (RF9.out.go hb)
  clear HK9 RF9
  clear hb
  go_wp2_with fail
  have hl : RowIn (u9.alloc (.cells #[.int .i32 8491] 21)) (some ⟨u9.heap.size, 0, none⟩) 1 1 [8491] := RowIn.lit u9 21 [8491] 1 rfl (by omega)
  have HK11 := Lib.hid (HK10.out.go (below_new u9 (.cells #[.int .i32 8491] 21)))
  have RF11 := Lib.hid (RF10.out.go (below_new u9 (.cells #[.int .i32 8491] 21)))
  clear HK10 RF10
  have LL11 := Lib.hid hl
  clear hl
  generalize u9.alloc (.cells #[.int .i32 8491] 21) = v11 at *
  generalize u9.heap.size = p11 at *
  with_reducible refine (HQ2.out _ _ HK11.out LL11.out).mono ?_
  rintro e u11 ⟨rfl, hb⟩
  have HK12 := Lib.hid (HK11.out.go hb)
  have RF12 := Lib.hid (RF11.out.go hb)
  clear HK11 RF11
  clear hb
  go_wp2_with fail
  with_reducible refine (HI.out _ _ _ _ HK12.out RF12.out).mono ?_
  rintro e u12 ⟨rfl, hb⟩
  have HK13 := Lib.hid (HK12.out.go hb)
  have RF13 := Lib.hid (RF12.out.go hb)
  clear HK12 RF12
  clear hb
  go_wp2_with fail
  with_reducible refine (HT1.out _ HK13.out).mono ?_
  rintro e u13 ⟨rfl, hb⟩
  have HK14 := Lib.hid (HK13.out.go hb)
  have RF14 := Lib.hid (RF13.out.go hb)
  clear HK13 RF13
  clear hb
  go_wp2_with fail
  with_reducible refine (HT2.out _ HK14.out).mono ?_
  rintro e u14 ⟨rfl, hb⟩
  have HK15 := Lib.hid (HK14.out.go hb)
  have RF15 := Lib.hid (RF14.out.go hb)
  clear HK14 RF14
  clear hb
  go_wp2
  go_ret
  exact ⟨rfl, HK15.out.be⟩
end Go.Proofs.YtdmcidljjfogjaaDoor
