/- The walk of Utf8All. -/
import Derived.Test.YtbmeinicjfmjlaaDoorU8RdLaw
import Derived.Test.YtbmeinicjfmjlaaDoorReg
namespace Go.Proofs.YtbmeinicjfmjlaaDoor
open Go.ChangeShapes Go.WideShapes Go.ChangeAt Go.RowKit
set_option linter.unusedVariables false

theorem allA_len (b : List Int) : ∀ (f n : Nat) (l : List Int), l.length ≤ n → n ≤ b.length → (allA b f n l).1.length ≤ b.length
  | 0, n, l, h1, h2 => by simp only [allA]; omega
  | f + 1, n, l, h1, h2 => by
    rw [allA]
    by_cases hn : n < b.length
    · rw [if_pos hn]
      cases ho : fOk (b.drop n) with
      | false => simp
      | true =>
        simp only [if_true]
        have hp := fN_pos ho
        have hle := fN_le (b.drop n)
        rw [List.length_drop] at hle
        exact allA_len b f _ _ (by simp; omega) (by omega)
    · rw [if_neg hn]; simp only; omega
theorem allS_len (b : List Int) : (allS b).1.length ≤ b.length := allA_len b _ 0 [] (by simp) (by omega)
/-- what All hands back, its row told by its cells -/
def AllSl (w : World) (xs : List Int) (e : Ending) (w' : World) : Prop :=
  ∃ A c, e = .returned (.tuple #[.slice A (allS xs).1.length c, .int .i64 ((allS xs).2.1 : Int), .bool (allS xs).2.2]) ∧ Ints w' w'.heap.size .i32 A (allS xs).1 ∧ Below w.heap.size w w'
theorem AllRes.sl {w w' : World} {xs : List Int} {e : Ending} (h : AllRes w xs e w') : AllSl w xs e w' := by
  obtain ⟨v, rfl, hO, hb⟩ := h
  obtain ⟨A, c, rfl, hc, hcm⟩ := own_form hO
  exact ⟨A, c, rfl, Ints.own hO, hb⟩
/-- a row, and the string of it in every later world -/
def RowStr (w : World) (zs : List Int) (e : Ending) (w' : World) : Prop :=
  ∃ v, e = .returned v ∧ (∀ W : World, Below w'.heap.size w' W → (convert 22 9 v).run Tryd.prog W = .ok (.string (strOfNums zs)) W) ∧ Below w.heap.size w w'
theorem RowRes.str {w w' : World} {zs : List Int} {e : Ending} (h : RowRes 5 .u8 w zs e w') : RowStr w zs e w' := by
  obtain ⟨v, rfl, hO, hb⟩ := h
  obtain ⟨A, c, rfl, hc, hcm⟩ := own_form hO
  exact ⟨_, rfl, fun W hW => conv_str W w'.heap.size A _ c zs rfl ((Ints.own hO).below hW (Nat.le_refl _)), hb⟩

set_option maxHeartbeats 8000000 in
theorem all_walk (a0 : Option Addr) (len0 cap0 : Nat) (z0 : List Int) (a1 : Option Addr) (len1 cap1 : Nat) (z1 : List Int) (c : Int) (w : World) (hT : Tab w) (r0 : ArgRow .u8 w a0 len0 cap0 z0) (r1 : ArgRow .i32 w a1 len1 cap1 z1) :
    Calls Tryd.prog 3 #[.slice a0 len0 cap0, .slice a1 len1 cap1, .int .i32 c] w fun e w' => e = .returned (.bool true) ∧ Below w.heap.size w w' := by
  have hB := u8_bts r0.wf
  obtain ⟨hz0, hle0, hmx0, _, hI0, _⟩ := r0
  obtain ⟨hz1, hle1, hmx1, _, hI1, _⟩ := r1
  subst hz0 hz1
  have HI0 := Lib.hid hI0
  have HI1 := Lib.hid hI1
  have HB := Lib.hid hB
  clear hI0 hI1 hB
  by_cases hbig : 400 < z0.length
  · have hbig' : decide (400 < (z0.length : Int)) = true := decide_eq_true (by omega)
    go_enter Tryd.func3, Tryd.ntmps3
    go_wp2_with fail
    with_reducible refine (awake_any _ hT).mono ?_
    rintro e w2 ⟨rfl, hb2⟩
    go_wp2
    go_ret
    exact ⟨rfl, hb2⟩
  have hbig' : decide (400 < (z0.length : Int)) = false := decide_eq_false (by omega)
  by_cases hbig1 : 200 < z1.length
  · have hbig1' : decide (200 < (z1.length : Int)) = true := decide_eq_true (by omega)
    go_enter Tryd.func3, Tryd.ntmps3
    go_wp2_with fail
    with_reducible refine (awake_any _ hT).mono ?_
    rintro e w2 ⟨rfl, hb2⟩
    go_wp2
    go_ret
    exact ⟨rfl, hb2⟩
  have hbig1' : decide (200 < (z1.length : Int)) = false := decide_eq_false (by omega)
  have HS := Lib.hid (Nat.le_trans (Nat.le_of_not_lt hbig) (by omega : 400 ≤ 65536))
  have HS1 := Lib.hid (Nat.le_trans (Nat.le_of_not_lt hbig1) (by omega : 200 ≤ 65536))
  have hll : (allS z0).1.length ≤ maxLen := by have := allS_len z0; simp only [maxLen] at *; omega
  have HLL := Lib.hid hll
  clear hll
  go_enter Tryd.func3, Tryd.ntmps3
  go_wp2_with fail
  with_reducible refine (first_n _ _ _ z0 _ rfl hT HI0.out HB.out (Nat.le_trans hle0 hmx0)).mono ?_
  rintro e w1 ⟨rfl, hb1⟩
  have hT1 := hT.below' hb1
  go_wp2_with fail
  with_reducible refine (r_first_any _ _ _ z0 _ rfl ((HI0.out.below hb1 (Nat.le_refl _)).more hb1.size) HB.out hle0 hmx0).mono ?_
  rintro e w2 ⟨rfl, hb2'⟩
  have hb2 := hb1.trans (hb2'.mono hb1.size)
  go_wp2_with fail
  with_reducible refine (Calls.mono (all_any _ _ z0 _ (hT.below' hb2) ((HI0.out.below hb2 (Nat.le_refl _)).more hb2.size) HB.out HS.out hle0 hmx0) (fun _ _ h => AllRes.sl h)).mono ?_
  rintro e w3 ⟨A3, c3, rfl, hI3, hb3'⟩
  have hb3 := hb2.trans (hb3'.mono hb2.size)
  have HI3 := Lib.hid hI3
  clear hI3
  go_wp2_with fail
  with_reducible refine (Calls.mono (r_all_any _ _ _ z0 _ rfl ((HI0.out.below hb3 (Nat.le_refl _)).more hb3.size) HB.out HS.out hle0 hmx0) (fun _ _ h => AllRes.sl h)).mono ?_
  rintro e w4 ⟨A4, c4, rfl, hI4, hb4'⟩
  have hb4 := hb3.trans (hb4'.mono hb3.size)
  have HI4 := Lib.hid hI4
  have HI34 := Lib.hid ((HI3.out.below hb4' (Nat.le_refl _)).more hb4'.size)
  have HI14 := Lib.hid ((HI1.out.below hb4 (Nat.le_refl _)).more hb4.size)
  have hT4 := hT.below' hb4
  clear hI4 hb1 hb2' hb2 hb3' hb3 hb4' hT1 hT
  generalize (allS z0).1 = l at HI4 HI34 HLL ⊢
  generalize ((allS z0).2.1 : Int) = n3 at *
  generalize (allS z0).2.2 = o3 at *
  generalize fC z0 = x1 at *
  generalize (fN z0 : Int) = x2 at *
  generalize fOk z0 = x3 at *
  have t1 : (x1 == x1) = true := by simp
  have t2 : (x2 == x2) = true := by simp
  have t3 : (x3 == x3) = true := by simp
  have t4 : (n3 == n3) = true := by simp
  have t5 : (o3 == o3) = true := by simp
  have hb0 := Below.refl w4.heap.size w4
  go_wp2_with fail
  refine wp_region_G (by kernel_rfl) ?_
  have hg5 := Grow.drew w4
  generalize w4.drew = w5 at hg5 ⊢
  refine wpG_take 0 52 (v := ?v0) rfl rfl (by kernel_rfl) (by kernel_rfl) (by kernel_rfl) (fun _ _ _ h => h) (Or.inl ⟨by rfl, ?y0⟩) ?r0
  case y0 => (intro W hW; (go_simp; try with_reducible rfl))
  simp only [Act.put, List.setIfInBounds_toArray, List.set_cons_zero, List.set_cons_succ]
  refine wpG_take 1 53 (v := ?v1) rfl rfl (by kernel_rfl) (by kernel_rfl) (by kernel_rfl) (fun _ _ _ h => h) (Or.inl ⟨by rfl, ?y1⟩) ?r1
  case y1 => (intro W hW; (go_simp; try with_reducible rfl))
  simp only [Act.put, List.setIfInBounds_toArray, List.set_cons_zero, List.set_cons_succ]
  refine wpG_take 2 54 (v := ?v2) rfl rfl (by kernel_rfl) (by kernel_rfl) (by kernel_rfl) (fun _ _ _ h => h) (Or.inl ⟨by rfl, ?y2⟩) ?r2
  case y2 => (intro W hW; (go_simp; try with_reducible rfl))
  simp only [Act.put, List.setIfInBounds_toArray, List.set_cons_zero, List.set_cons_succ]
  refine wpG_take 3 55 (v := ?v3) rfl rfl (by kernel_rfl) (by kernel_rfl) (by kernel_rfl) (fun _ _ _ h => h) (Or.inl ⟨by rfl, ?y3⟩) ?r3
  case y3 => (intro W hW; (go_simp; try with_reducible rfl))
  simp only [Act.put, List.setIfInBounds_toArray, List.set_cons_zero, List.set_cons_succ]
  refine wpG_take 4 56 (v := ?v4) rfl rfl (by kernel_rfl) (by kernel_rfl) (by kernel_rfl) (fun _ _ _ h => h) (Or.inl ⟨by rfl, ?y4⟩) ?r4
  case y4 => (intro W hW; (go_simp; try with_reducible rfl))
  simp only [Act.put, List.setIfInBounds_toArray, List.set_cons_zero, List.set_cons_succ]
  refine wpG_take 5 57 (v := ?v5) rfl rfl (by kernel_rfl) (by kernel_rfl) (by kernel_rfl) (fun _ _ _ h => h) (Or.inl ⟨by rfl, ?y5⟩) ?r5
  case y5 => (intro W hW; (go_simp; try with_reducible rfl))
  simp only [Act.put, List.setIfInBounds_toArray, List.set_cons_zero, List.set_cons_succ]
  refine wpG_take 6 58 (v := ?v6) rfl rfl (by kernel_rfl) (by kernel_rfl) (by kernel_rfl) (fun _ _ _ h => h) (Or.inl ⟨by rfl, ?y6⟩) ?r6
  case y6 => (intro W hW; (go_simp; try with_reducible rfl))
  simp only [Act.put, List.setIfInBounds_toArray, List.set_cons_zero, List.set_cons_succ]
  refine wpG_take 7 59 (v := ?v7) rfl rfl (by kernel_rfl) (by kernel_rfl) (by kernel_rfl) (fun _ _ _ h => h) (Or.inl ⟨by rfl, ?y7⟩) ?r7
  case y7 => (intro W hW; (go_simp; try with_reducible rfl))
  simp only [Act.put, List.setIfInBounds_toArray, List.set_cons_zero, List.set_cons_succ]
  refine wpG_take 8 60 (v := ?v8) rfl rfl (by kernel_rfl) (by kernel_rfl) (by kernel_rfl) (fun _ _ _ h => h) (Or.inl ⟨by rfl, ?y8⟩) ?r8
  case y8 => (intro W hW; (go_simp; try with_reducible rfl))
  simp only [Act.put, List.setIfInBounds_toArray, List.set_cons_zero, List.set_cons_succ]
  refine wpG_take 9 61 (v := ?v9) rfl rfl (by kernel_rfl) (by kernel_rfl) (by kernel_rfl) (fun _ _ _ h => h) (Or.inl ⟨by rfl, ?y9⟩) ?r9
  case y9 => (intro W hW; (go_simp; try with_reducible rfl))
  simp only [Act.put, List.setIfInBounds_toArray, List.set_cons_zero, List.set_cons_succ]
  refine wpG_take 10 62 (v := ?v10) rfl rfl (by kernel_rfl) (by kernel_rfl) (by kernel_rfl) (fun _ _ _ h => h) (Or.inl ⟨by rfl, ?y10⟩) ?r10
  case y10 => (intro W hW; (go_simp; try with_reducible rfl))
  simp only [Act.put, List.setIfInBounds_toArray, List.set_cons_zero, List.set_cons_succ]
  refine wpG_take 11 63 (v := ?v11) rfl rfl (by kernel_rfl) (by kernel_rfl) (by kernel_rfl) (fun _ _ _ h => h) (Or.inl ⟨by rfl, ?y11⟩) ?r11
  case y11 => (intro W hW; (go_simp; try with_reducible rfl))
  simp only [Act.put, List.setIfInBounds_toArray, List.set_cons_zero, List.set_cons_succ]
  refine wpG_take 12 64 (v := ?v12) rfl rfl (by kernel_rfl) (by kernel_rfl) (by kernel_rfl) (fun _ _ _ h => h) (Or.inl ⟨by rfl, ?y12⟩) ?r12
  case y12 => (intro W hW; (go_simp; try with_reducible rfl))
  simp only [Act.put, List.setIfInBounds_toArray, List.set_cons_zero, List.set_cons_succ]
  refine wpG_take 13 65 (v := ?v13) rfl rfl (by kernel_rfl) (by kernel_rfl) (by kernel_rfl) (fun _ _ _ h => h) (Or.inl ⟨by rfl, ?y13⟩) ?r13
  case y13 => (intro W hW; (go_simp; try with_reducible rfl))
  simp only [Act.put, List.setIfInBounds_toArray, List.set_cons_zero, List.set_cons_succ]
  refine wpG_take 14 66 (v := ?v14) rfl rfl (by kernel_rfl) (by kernel_rfl) (by kernel_rfl) (fun _ _ _ h => h) (Or.inl ⟨by rfl, ?y14⟩) ?r14
  case y14 => (intro W hW; (go_simp; try with_reducible rfl))
  simp only [Act.put, List.setIfInBounds_toArray, List.set_cons_zero, List.set_cons_succ]
  refine wpG_take 15 67 (v := ?v15) rfl rfl (by kernel_rfl) (by kernel_rfl) (by kernel_rfl) (fun _ _ _ h => h) (Or.inl ⟨by rfl, ?y15⟩) ?r15
  case y15 => (intro W hW; (go_simp; try with_reducible rfl))
  simp only [Act.put, List.setIfInBounds_toArray, List.set_cons_zero, List.set_cons_succ]
  refine wpG_call 16 (by kernel_rfl) rfl (fun K hK => ?_)
  go_simp
  with_reducible refine (same_yes A3 A4 l.length c3 c4 l w5 rfl (HI34.out.grow hg5) (HI4.out.grow hg5) HLL.out).mono ?_
  rintro e w6 ⟨rfl, hs6⟩
  have hg56 : Grow w5 w6 := hs6.below
  have hg6 := hg5.trans hg56
  clear hs6
  go_wp2_with fail
  refine hK.out _ _ ?_ ?_
  · exact hg56
  clear hK K
  refine wpG_take 17 69 (v := ?v17) rfl rfl (by kernel_rfl) (by kernel_rfl) (by kernel_rfl) (fun _ _ _ h => h) (Or.inl ⟨by rfl, ?y17⟩) ?r17
  case y17 => (intro W hW; (go_simp; try with_reducible rfl))
  simp only [Act.put, List.setIfInBounds_toArray, List.set_cons_zero, List.set_cons_succ]
  refine wpG_take 18 70 (v := ?v18) rfl rfl (by kernel_rfl) (by kernel_rfl) (by kernel_rfl) (fun _ _ _ h => h) (Or.inl ⟨by rfl, ?y18⟩) ?r18
  case y18 => (intro W hW; (go_simp; try with_reducible rfl))
  simp only [Act.put, List.setIfInBounds_toArray, List.set_cons_zero, List.set_cons_succ]
  refine wpG_take 19 71 (v := ?v19) rfl rfl (by kernel_rfl) (by kernel_rfl) (by kernel_rfl) (fun _ _ _ h => h) (Or.inl ⟨by rfl, ?y19⟩) ?r19
  case y19 => (intro W hW; (go_simp; try with_reducible rfl))
  simp only [Act.put, List.setIfInBounds_toArray, List.set_cons_zero, List.set_cons_succ]
  refine wpG_take 20 72 (v := ?v20) rfl rfl (by kernel_rfl) (by kernel_rfl) (by kernel_rfl) (fun _ _ _ h => h) (Or.inl ⟨by rfl, ?y20⟩) ?r20
  case y20 => (intro W hW; (go_simp; try with_reducible rfl))
  simp only [Act.put, List.setIfInBounds_toArray, List.set_cons_zero, List.set_cons_succ]
  refine wpG_take 21 73 (v := ?v21) rfl rfl (by kernel_rfl) (by kernel_rfl) (by kernel_rfl) (fun _ _ _ h => h) (Or.inl ⟨by rfl, ?y21⟩) ?r21
  case y21 => (intro W hW; (go_simp; try with_reducible rfl))
  simp only [Act.put, List.setIfInBounds_toArray, List.set_cons_zero, List.set_cons_succ]
  refine wpG_take 22 74 (v := ?v22) rfl rfl (by kernel_rfl) (by kernel_rfl) (by kernel_rfl) (fun _ _ _ h => h) (Or.inl ⟨by rfl, ?y22⟩) ?r22
  case y22 => (intro W hW; (go_simp; try with_reducible rfl))
  simp only [Act.put, List.setIfInBounds_toArray, List.set_cons_zero, List.set_cons_succ]
  refine wpG_take 23 75 (v := ?v23) rfl rfl (by kernel_rfl) (by kernel_rfl) (by kernel_rfl) (fun _ _ _ h => h) (Or.inl ⟨by rfl, ?y23⟩) ?r23
  case y23 => (intro W hW; (go_simp; try with_reducible rfl))
  simp only [Act.put, List.setIfInBounds_toArray, List.set_cons_zero, List.set_cons_succ]
  refine wpG_take 24 76 (v := ?v24) rfl rfl (by kernel_rfl) (by kernel_rfl) (by kernel_rfl) (fun _ _ _ h => h) (Or.inl ⟨by rfl, ?y24⟩) ?r24
  case y24 => (intro W hW; (go_simp; try with_reducible rfl))
  simp only [Act.put, List.setIfInBounds_toArray, List.set_cons_zero, List.set_cons_succ]
  refine wpG_take 25 77 (v := ?v25) rfl rfl (by kernel_rfl) (by kernel_rfl) (by kernel_rfl) (fun _ _ _ h => h) (Or.inl ⟨by rfl, ?y25⟩) ?r25
  case y25 => (intro W hW; (go_simp; try with_reducible rfl))
  simp only [Act.put, List.setIfInBounds_toArray, List.set_cons_zero, List.set_cons_succ]
  refine wpG_take 26 78 (v := ?v26) rfl rfl (by kernel_rfl) (by kernel_rfl) (by kernel_rfl) (fun _ _ _ h => h) (Or.inl ⟨by rfl, ?y26⟩) ?r26
  case y26 => (intro W hW; (go_simp; try with_reducible rfl))
  simp only [Act.put, List.setIfInBounds_toArray, List.set_cons_zero, List.set_cons_succ]
  refine wpG_take 27 79 (v := ?v27) rfl rfl (by kernel_rfl) (by kernel_rfl) (by kernel_rfl) (fun _ _ _ h => h) (Or.inl ⟨by rfl, ?y27⟩) ?r27
  case y27 => (intro W hW; (go_simp; try with_reducible rfl))
  simp only [Act.put, List.setIfInBounds_toArray, List.set_cons_zero, List.set_cons_succ]
  refine wpG_take 28 80 (v := ?v28) rfl rfl (by kernel_rfl) (by kernel_rfl) (by kernel_rfl) (fun _ _ _ h => h) (Or.inl ⟨by rfl, ?y28⟩) ?r28
  case y28 => (intro W hW; (go_simp; try with_reducible rfl))
  simp only [Act.put, List.setIfInBounds_toArray, List.set_cons_zero, List.set_cons_succ]
  refine wpG_take 29 81 (v := ?v29) rfl rfl (by kernel_rfl) (by kernel_rfl) (by kernel_rfl) (fun _ _ _ h => h) (Or.inl ⟨by rfl, ?y29⟩) ?r29
  case y29 => (intro W hW; (go_simp; try with_reducible rfl))
  simp only [Act.put, List.setIfInBounds_toArray, List.set_cons_zero, List.set_cons_succ]
  refine wpG_take 32 84 (v := ?v32) rfl rfl (by kernel_rfl) (by kernel_rfl) (by kernel_rfl) (fun _ _ _ h => h) (Or.inl ⟨by rfl, ?y32⟩) ?r32
  case y32 => (intro W hW; (go_simp; try with_reducible rfl))
  simp only [Act.put, List.setIfInBounds_toArray, List.set_cons_zero, List.set_cons_succ]
  refine wpG_call 30 (by kernel_rfl) rfl (fun K hK => ?_)
  go_simp
  with_reducible refine (Calls.mono (text_any a1 z1.length cap1 z1 w6 rfl (HI14.out.grow hg6) HS1.out) (fun _ _ h => RowRes.str h)).mono ?_
  rintro e w7 ⟨v7, rfl, hcv7, hg67⟩
  have hg7 := hg6.trans hg67
  have HV7 := Lib.hid hcv7
  clear hcv7
  go_wp2_with fail
  refine hK.out _ _ ?_ ?_
  · exact hg67
  clear hK K
  refine wpG_take 31 83 (v := ?v31) rfl rfl (by kernel_rfl) (by kernel_rfl) (by kernel_rfl) (fun _ _ _ h => h) (Or.inl ⟨by rfl, ?y31⟩) ?r31
  case y31 => (intro W hW; have hcv := HV7.out W hW; (go_simp; try with_reducible rfl))
  simp only [Act.put, List.setIfInBounds_toArray, List.set_cons_zero, List.set_cons_succ]
  refine wpG_call 33 (by kernel_rfl) rfl (fun K hK => ?_)
  go_simp
  with_reducible refine (Calls.mono (r_text_any a1 z1.length cap1 z1 w7 rfl (HI14.out.grow hg7) HS1.out) (fun _ _ h => RowRes.str h)).mono ?_
  rintro e w8 ⟨v8, rfl, hcv8, hg78⟩
  have hg8 := hg7.trans hg78
  have HV8 := Lib.hid hcv8
  clear hcv8
  go_wp2_with fail
  refine hK.out _ _ ?_ ?_
  · exact hg78
  clear hK K
  refine wpG_take 34 86 (v := ?v34) rfl rfl (by kernel_rfl) (by kernel_rfl) (by kernel_rfl) (fun _ _ _ h => h) (Or.inl ⟨by rfl, ?y34⟩) ?r34
  case y34 => (intro W hW; have hcv := HV8.out W hW; (go_simp; try with_reducible rfl))
  simp only [Act.put, List.setIfInBounds_toArray, List.set_cons_zero, List.set_cons_succ]
  refine wpG_take 35 87 (v := ?v35) rfl rfl (by kernel_rfl) (by kernel_rfl) (by kernel_rfl) (fun _ _ _ h => h) (Or.inl ⟨by rfl, ?y35⟩) ?r35
  case y35 => (intro W hW; (go_simp; try with_reducible rfl))
  simp only [Act.put, List.setIfInBounds_toArray, List.set_cons_zero, List.set_cons_succ]
  refine wpG_take 36 88 (v := ?v36) rfl rfl (by kernel_rfl) (by kernel_rfl) (by kernel_rfl) (fun _ _ _ h => h) (Or.inl ⟨by rfl, ?y36⟩) ?r36
  case y36 => (intro W hW; (go_simp; try with_reducible rfl))
  simp only [Act.put, List.setIfInBounds_toArray, List.set_cons_zero, List.set_cons_succ]
  refine wpG_take 37 89 (v := ?v37) rfl rfl (by kernel_rfl) (by kernel_rfl) (by kernel_rfl) (fun _ _ _ h => h) (Or.inl ⟨by rfl, ?y37⟩) ?r37
  case y37 => (intro W hW; (go_simp; try with_reducible rfl))
  simp only [Act.put, List.setIfInBounds_toArray, List.set_cons_zero, List.set_cons_succ]
  refine wpG_take 38 90 (v := ?v38) rfl rfl (by kernel_rfl) (by kernel_rfl) (by kernel_rfl) (fun _ _ _ h => h) (Or.inl ⟨by rfl, ?y38⟩) ?r38
  case y38 => (intro W hW; (go_simp; try with_reducible rfl))
  simp only [Act.put, List.setIfInBounds_toArray, List.set_cons_zero, List.set_cons_succ]
  refine wpG_take 41 93 (v := ?v41) rfl rfl (by kernel_rfl) (by kernel_rfl) (by kernel_rfl) (fun _ _ _ h => h) (Or.inl ⟨by rfl, ?y41⟩) ?r41
  case y41 => (intro W hW; (go_simp; try with_reducible rfl))
  simp only [Act.put, List.setIfInBounds_toArray, List.set_cons_zero, List.set_cons_succ]
  refine wpG_call 39 (by kernel_rfl) rfl (fun K hK => ?_)
  go_simp
  with_reducible refine (Calls.mono (bytes_any c w8) (fun _ _ h => RowRes.str h)).mono ?_
  rintro e w9 ⟨v9, rfl, hcv9, hg89⟩
  have hg9 := hg8.trans hg89
  have HV9 := Lib.hid hcv9
  clear hcv9
  go_wp2_with fail
  refine hK.out _ _ ?_ ?_
  · exact hg89
  clear hK K
  refine wpG_take 40 92 (v := ?v40) rfl rfl (by kernel_rfl) (by kernel_rfl) (by kernel_rfl) (fun _ _ _ h => h) (Or.inl ⟨by rfl, ?y40⟩) ?r40
  case y40 => (intro W hW; have hcv := HV9.out W hW; (go_simp; try with_reducible rfl))
  simp only [Act.put, List.setIfInBounds_toArray, List.set_cons_zero, List.set_cons_succ]
  refine wpG_call 42 (by kernel_rfl) rfl (fun K hK => ?_)
  go_simp
  with_reducible refine (Calls.mono (r_bytes_any c w9) (fun _ _ h => RowRes.str h)).mono ?_
  rintro e w10 ⟨v10, rfl, hcv10, hg910⟩
  have hg10 := hg9.trans hg910
  have HV10 := Lib.hid hcv10
  clear hcv10
  go_wp2_with fail
  refine hK.out _ _ ?_ ?_
  · exact hg910
  clear hK K
  refine wpG_take 43 95 (v := ?v43) rfl rfl (by kernel_rfl) (by kernel_rfl) (by kernel_rfl) (fun _ _ _ h => h) (Or.inl ⟨by rfl, ?y43⟩) ?r43
  case y43 => (intro W hW; have hcv := HV10.out W hW; (go_simp; try with_reducible rfl))
  simp only [Act.put, List.setIfInBounds_toArray, List.set_cons_zero, List.set_cons_succ]
  refine wpG_take 44 96 (v := ?v44) rfl rfl (by kernel_rfl) (by kernel_rfl) (by kernel_rfl) (fun _ _ _ h => h) (Or.inl ⟨by rfl, ?y44⟩) ?r44
  case y44 => (intro W hW; (go_simp; try with_reducible rfl))
  simp only [Act.put, List.setIfInBounds_toArray, List.set_cons_zero, List.set_cons_succ]
  refine wpG_take 45 97 (v := ?v45) rfl rfl (by kernel_rfl) (by kernel_rfl) (by kernel_rfl) (fun _ _ _ h => h) (Or.inl ⟨by rfl, ?y45⟩) ?r45
  case y45 => (intro W hW; (go_simp; try with_reducible rfl))
  simp only [Act.put, List.setIfInBounds_toArray, List.set_cons_zero, List.set_cons_succ]
  refine wpG_take 46 98 (v := ?v46) rfl rfl (by kernel_rfl) (by kernel_rfl) (by kernel_rfl) (fun _ _ _ h => h) (Or.inl ⟨by rfl, ?y46⟩) ?r46
  case y46 => (intro W hW; (go_simp; try with_reducible rfl))
  simp only [Act.put, List.setIfInBounds_toArray, List.set_cons_zero, List.set_cons_succ]
  refine wpG_call 47 (by kernel_rfl) rfl (fun K hK => ?_)
  go_simp
  with_reducible refine (awake_any w10 (hT4.below' hg10.below)).mono ?_
  rintro e w11 ⟨rfl, hg1011⟩
  have hg11 := hg10.trans hg1011
  go_wp2_with fail
  refine hK.out _ _ ?_ ?_
  · exact hg1011
  clear hK K
  refine wpG_take 48 100 (v := ?v48) rfl rfl (by kernel_rfl) (by kernel_rfl) (by kernel_rfl) (fun _ _ _ h => h) (Or.inl ⟨by rfl, ?y48⟩) ?r48
  case y48 => (intro W hW; (go_simp; try with_reducible rfl))
  simp only [Act.put, List.setIfInBounds_toArray, List.set_cons_zero, List.set_cons_succ]
  refine wpG_take 49 6 (v := ?v49) rfl rfl (by kernel_rfl) (by kernel_rfl) (by kernel_rfl) (fun _ _ _ h => h) (Or.inl ⟨by rfl, ?y49⟩) ?r49
  case y49 => (intro W hW; (go_simp; try with_reducible rfl))
  simp only [Act.put, List.setIfInBounds_toArray, List.set_cons_zero, List.set_cons_succ]
  refine wpG_done (by kernel_rfl) ?_ _
  go_wp2
  go_ret
  exact ⟨rfl, hb4.trans (Below.mono hg11 hb4.size)⟩
end Go.Proofs.YtbmeinicjfmjlaaDoor
