/- Joined of: N9PartsWalk. -/
import Derived.Test.YtdmcidljjfogjaaDoorJ9V
import Derived.Test.YtdmcidljjfogjaaDoorJ9J
import Derived.Test.YtdmcidljjfogjaaDoorJ9A
import Derived.Test.YtdmcidljjfogjaaDoorJ9H
/- Printed by gen_n9parts.py. The walk of NfcParts. -/
namespace Go.Proofs.YtdmcidljjfogjaaDoor
set_option maxRecDepth 100000
open Go.ChangeShapes Go.WideShapes Go.ChangeAt Go.RowKit
set_option linter.unusedVariables false
set_option linter.unusedSimpArgs false
attribute [local irreducible] P5 S5 C5

/-- what stays: the tables, a row, its form -/
structure Q9 (w : World) (g : Nat) (A : Option Addr) (n c : Nat) (l : List Int) (B : Option Addr) (m d : Nat) (W : World) : Prop where
  k : K9 w g W
  r : RowIn W A n c l
  f : RowIn W B m d (form5 l)
theorem Q9.go {w W W' : World} {g : Nat} {A : Option Addr} {n c : Nat} {l : List Int} {B : Option Addr} {m d : Nat} (h : Q9 w g A n c l B m d W) (hb : Below W.heap.size W W') : Q9 w g A n c l B m d W' := ⟨h.k.go hb, h.r.go hb, h.f.go hb⟩
theorem three_parts (l : List Int) (i j : Nat) (hij : i ≤ j) : l.take i ++ (l.drop i).take (j - i) ++ l.drop j = l := by
  have h1 : l.take i ++ (l.drop i).take (j - i) = l.take j := by
    have := List.take_add (l := l) (i := i) (j := j - i)
    rw [← this]; congr 1; omega
  rw [h1, List.take_append_drop]
theorem form_part (l : List Int) (i j : Nat) (hij : i ≤ j) : form5 (l.take i ++ form5 ((l.drop i).take (j - i)) ++ l.drop j) = form5 l := by
  have h := form_parts cmp5 (l.take i) ((l.drop i).take (j - i)) (l.drop j)
  rw [three_parts l i j hij] at h
  exact h
theorem part_in {l : List Int} (h : ∀ x ∈ l, R32 x) (i j : Nat) : ∀ x ∈ l.take i ++ form5 ((l.drop i).take (j - i)) ++ l.drop j, R32 x := fun x hx => by
  rcases List.mem_append.1 hx with hx | hx
  · rcases List.mem_append.1 hx with hx | hx
    · exact h x (List.mem_of_mem_take hx)
    · exact form_in (fun y hy => h y (List.mem_of_mem_drop (List.mem_of_mem_take hy))) x hx
  · exact h x (List.mem_of_mem_drop hx)
theorem part_len {l : List Int} {n : Nat} (hl : l.length = n) (i j : Nat) (hi : i ≤ n) (hn : n ≤ 60) : (l.take i ++ form5 ((l.drop i).take (j - i)) ++ l.drop j).length ≤ 6000 := by
  have h2 := form_len ((l.drop i).take (j - i))
  rw [List.length_take, List.length_drop] at h2
  rw [List.length_append, List.length_append, List.length_take, List.length_drop]
  omega

set_option maxHeartbeats 16000000 in
theorem parts_walk (HN : NfcOk) (a0 : Option Addr) (len0 cap0 : Nat) (z0 : List Int) (a1 a2 : Int) (w : World) (hTab : Tab w) (r0 : ArgRow .i64 w a0 len0 cap0 z0) :
    Calls Tryd.prog 6 #[.slice a0 len0 cap0, .int .i64 a1, .int .i64 a2] w fun e w' => e = .returned (.bool true) ∧ Below w.heap.size w w' := by
  have HR0 := Lib.hid r0
  have HTB := Lib.hid hTab
  have HNF := Lib.hid HN
  clear r0 hTab HN
  go_enter Tryd.func6, Tryd.ntmps6
  go_wp2_with fail
  with_reducible refine (ubuild_any _).mono ?_
  rintro e w1 ⟨g, rfl, ht, hb⟩
  have HK1 : Hid (K9 w g w1) := Lib.hid ⟨ht, HTB.out.below' hb, hb⟩
  clear ht hb HTB
  have HRU := Lib.hid (runes7 (HR0.out.go HK1.out.be))
  go_wp2_with fail
  with_reducible refine HRU.out.mono ?_
  rintro e w3 ⟨A, n, c, l, rfl, hr3, hR3, hn, hb3⟩
  have HK3 := Lib.hid (HK1.out.go hb3)
  have HL3 := Lib.hid hr3
  have HRR := Lib.hid hR3
  have hnc := hr3.le
  have hcm := hr3.cap
  unfold maxLen at hcm
  clear hr3 hR3 hb3 HK1 HRU HR0
  go_wp2_with fail
  with_reducible refine (place_any a1 ((n : Int) + 1) _ (by omega) (by omega)).mono ?_
  rintro e w4 ⟨rfl, rfl⟩
  have hk0 : 0 ≤ a1 % ((n : Int) + 1) := Int.emod_nonneg _ (by omega)
  have hk1 : a1 % ((n : Int) + 1) < (n : Int) + 1 := Int.emod_lt_of_pos _ (by omega)
  generalize a1 % ((n : Int) + 1) = kk at *
  obtain ⟨i, rfl⟩ := Int.eq_ofNat_of_zero_le hk0
  go_wp2_with fail
  with_reducible refine (place_any a2 ((n : Int) + 1) _ (by omega) (by omega)).mono ?_
  rintro e w4 ⟨rfl, rfl⟩
  have hm0 : 0 ≤ a2 % ((n : Int) + 1) := Int.emod_nonneg _ (by omega)
  have hm1 : a2 % ((n : Int) + 1) < (n : Int) + 1 := Int.emod_lt_of_pos _ (by omega)
  generalize a2 % ((n : Int) + 1) = kk at *
  obtain ⟨j, rfl⟩ := Int.eq_ofNat_of_zero_le hm0
  have hin : i ≤ n := by omega
  have hjn : j ≤ n := by omega
  clear hk0 hk1 hm0 hm1
  by_cases hij : j < i
  · have hij' : decide ((j : Int) < (i : Int)) = true := decide_eq_true (by omega)
    have hic : (j : Int) ≤ c := by omega
    have hic' : (0 : Int) ≤ (j : Int) ∧ (j : Int) ≤ c := by omega
    have hijc : (0 : Int) ≤ (j : Int) ∧ (j : Int) ≤ (i : Int) ∧ (i : Int) ≤ c := by omega
    have hjc : (j : Int) ≤ (i : Int) ∧ (i : Int) ≤ c := by omega
    have hjn1 : (i : Int) ≤ n := by omega
    have hjn' : (0 : Int) ≤ (i : Int) ∧ (i : Int) ≤ n := by omega
    have hjn2 : (i : Int) ≤ (n : Int) ∧ (n : Int) ≤ c := by omega
    have hsub : ((i : Int) - (j : Int)).toNat = i - j := by omega
    go_wp2_with fail
    with_reducible refine (HNF.out.form _ g _ _ _ _ HL3.out HK3.out.t HRR.out (by omega)).mono ?_
    rintro e w4 ⟨AF, nF, cF, rfl, hr4, hb4⟩
    have HQ4 : Hid (Q9 w g A n c l AF nF cF w4) := Lib.hid ⟨HK3.out.go hb4, HL3.out.go hb4, hr4⟩
    have hnF := form_most HL3.out hr4 hn
    clear hr4 hb4 HK3 HL3
    have HFB : Hid (∀ W, Q9 w g A n c l AF nF cF W → Calls Tryd.prog 12 #[.pointer (some ⟨g, 0, none⟩), .slice (if c = j then A else Option.map (fun x => x.add j) A) (i - j) (c - j)] W (RowOut W (form5 ((l.drop j).take (i - j))))) := Lib.hid fun W h => HNF.out.form W g _ _ _ _ ((h.r.tail j (by omega)).take (i - j) (by omega)) h.k.t (fun x hx => HRR.out x (List.mem_of_mem_drop (List.mem_of_mem_take hx))) (by omega)
    have HRT : Hid (∀ W, Q9 w g A n c l AF nF cF W → RowIn W (if c = i then A else Option.map (fun x => x.add i) A) (n - i) (c - i) (l.drop i)) := Lib.hid fun W h => h.r.tail i (by omega)
    have HRI : Hid (∀ W, Q9 w g A n c l AF nF cF W → RowIn W A j c (l.take j)) := Lib.hid fun W h => h.r.take j (by omega)
    go_wp2_with fail
    generalize hAI : (if c = j then A else Option.map (fun x => x.add j) A) = AI at HFB
    generalize hAJ : (if c = i then A else Option.map (fun x => x.add i) A) = AJ at HRT
    have HAI := Lib.hid hAI
    have HAJ := Lib.hid hAJ
    clear hAI hAJ
    refine wp_region_A (by kernel_rfl) ?_
    have HQ5 : Hid (Q9 w g A n c l AF nF cF w4.drew) := Lib.hid (HQ4.out.go (Below.refl _ _).drew)
    clear HQ4
    generalize w4.drew = w5 at *
    obtain ⟨S0, hS0⟩ : ∃ S0, w5.heap.size = S0 := ⟨_, rfl⟩
    have HSZ := Lib.hid hS0
    have HSG : Hid (∀ W, Below S0 w5 W → Q9 w g A n c l AF nF cF W) := Lib.hid fun W h => HQ5.out.go (by rw [hS0]; exact h)
    clear hS0
    refine wpA_take 1 37 (v := ?v1a) rfl rfl (by kernel_rfl) (by kernel_rfl) (by kernel_rfl) (fun _ _ _ h => h) (Or.inl ⟨by rfl, ?y1a⟩) ?r1a
    case y1a => (intro W; go_simp; try with_reducible rfl)
    simp only [Act.put, List.setIfInBounds_toArray, List.set_cons_zero, List.set_cons_succ]
    refine wpA_take 2 38 (v := ?v2a) rfl rfl (by kernel_rfl) (by kernel_rfl) (by kernel_rfl) (fun _ _ _ h => h) (Or.inl ⟨by rfl, ?y2a⟩) ?r2a
    case y2a => (intro W; go_simp; try with_reducible rfl)
    simp only [Act.put, List.setIfInBounds_toArray, List.set_cons_zero, List.set_cons_succ]
    refine wpA_take 3 39 (v := ?v3a) rfl rfl (by kernel_rfl) (by kernel_rfl) (by kernel_rfl) (fun _ _ _ h => h) (Or.inl ⟨by rfl, ?y3a⟩) ?r3a
    case y3a => (intro W; go_simp; (first | rw [if_pos hic] | rw [if_pos hic'] | skip); try with_reducible rfl)
    simp only [Act.put, List.setIfInBounds_toArray, List.set_cons_zero, List.set_cons_succ]
    refine wpA_take 5 41 (v := ?v5a) rfl rfl (by kernel_rfl) (by kernel_rfl) (by kernel_rfl) (fun _ _ _ h => h) (Or.inl ⟨by rfl, ?y5a⟩) ?r5a
    case y5a => (intro W; go_simp; try with_reducible rfl)
    simp only [Act.put, List.setIfInBounds_toArray, List.set_cons_zero, List.set_cons_succ]
    refine wpA_take 6 42 (v := ?v6a) rfl rfl (by kernel_rfl) (by kernel_rfl) (by kernel_rfl) (fun _ _ _ h => h) (Or.inl ⟨by rfl, ?y6a⟩) ?r6a
    case y6a => (intro W; go_simp; try with_reducible rfl)
    simp only [Act.put, List.setIfInBounds_toArray, List.set_cons_zero, List.set_cons_succ]
    refine wpA_take 7 43 (v := ?v7a) rfl rfl (by kernel_rfl) (by kernel_rfl) (by kernel_rfl) (fun _ _ _ h => h) (Or.inl ⟨by rfl, ?y7a⟩) ?r7a
    case y7a => (intro W; go_simp; try with_reducible rfl)
    simp only [Act.put, List.setIfInBounds_toArray, List.set_cons_zero, List.set_cons_succ]
    refine wpA_take 8 44 (v := ?v8a) rfl rfl (by kernel_rfl) (by kernel_rfl) (by kernel_rfl) (fun _ _ _ h => h) (Or.inl ⟨by rfl, ?y8a⟩) ?r8a
    case y8a => (intro W; go_simp; try with_reducible rfl)
    simp only [Act.put, List.setIfInBounds_toArray, List.set_cons_zero, List.set_cons_succ]
    refine wpA_take 9 45 (v := .slice AI (i - j) (c - j)) rfl rfl (by kernel_rfl) (by kernel_rfl) (by kernel_rfl) (fun _ _ _ h => h) (Or.inl ⟨by rfl, ?y9a⟩) ?r9a
    case y9a => (intro W; go_simp; exact HAI.out)
    simp only [Act.put, List.setIfInBounds_toArray, List.set_cons_zero, List.set_cons_succ]
    refine wpA_take 12 48 (v := ?v12a) rfl rfl (by kernel_rfl) (by kernel_rfl) (by kernel_rfl) (fun _ _ _ h => h) (Or.inl ⟨by rfl, ?y12a⟩) ?r12a
    case y12a => (intro W; go_simp; try with_reducible rfl)
    simp only [Act.put, List.setIfInBounds_toArray, List.set_cons_zero, List.set_cons_succ]
    refine wpA_take 13 49 (v := ?v13a) rfl rfl (by kernel_rfl) (by kernel_rfl) (by kernel_rfl) (fun _ _ _ h => h) (Or.inl ⟨by rfl, ?y13a⟩) ?r13a
    case y13a => (intro W; go_simp; try with_reducible rfl)
    simp only [Act.put, List.setIfInBounds_toArray, List.set_cons_zero, List.set_cons_succ]
    refine wpA_take 14 50 (v := .slice AJ (n - i) (c - i)) rfl rfl (by kernel_rfl) (by kernel_rfl) (by kernel_rfl) (fun _ _ _ h => h) (Or.inl ⟨by rfl, ?y14a⟩) ?r14a
    case y14a => (intro W; go_simp; first | exact HAJ.out | (rw [if_pos hjn1]; go_simp; exact HAJ.out))
    simp only [Act.put, List.setIfInBounds_toArray, List.set_cons_zero, List.set_cons_succ]
    refine wpA_one 0 (by kernel_rfl) rfl (fun K hK => ?_)
    go_simp
    have HO6 : Hid (Own (w5.alloc (.cells #[] 21)) S0 21 .i32 (.slice (some ⟨S0, 0, none⟩) 0 0) []) := Lib.hid (by rw [← HSZ.out]; exact own_empty w5 w5.heap.size 21 .i32 (Nat.le_refl _))
    have HB6 : Hid (Below S0 w5 (w5.alloc (.cells #[] 21))) := Lib.hid (by rw [← HSZ.out]; exact below_new w5 _)
    rw [HSZ.out]
    refine hK.out _ _ ?_
    clear hK K
    try simp only [Act.put, List.getElem_toArray, List.getElem_cons_succ, List.getElem_cons_zero, List.setIfInBounds_toArray, List.set_cons_zero, List.set_cons_succ]
    generalize hw6 : w5.alloc (.cells #[] 21) = w6 at *
    clear hw6
    have HQ6 := Lib.hid (HSG.out _ HB6.out)
    have hsz6 : S0 ≤ w6.heap.size := by have := HB6.out.size; rw [HSZ.out] at this; exact this
    have HS6 := Lib.hid (HRI.out _ HQ6.out)
    refine wpA_one 4 (by kernel_rfl) rfl (fun K hK => ?_)
    refine wpA_if (by rfl) ?_
    refine wp_appL (.tmp 36) (.tmp 39) 22 rfl S0 21 .i32 4 Tryd.underlying22 info_i32 (by omega) _ [] rfl HO6.out _ A j c _ HS6.out.len rfl HS6.out.nil HS6.out.ints (by rw [HS6.out.len, List.length_nil]; omega) hsz6 ?_
    intro v7 w7 hO7 hG7
    have hb7 : Below S0 w6 w7 := hG7.below HO6.out hsz6
    have HO7 := Lib.hid hO7
    rw [List.nil_append] at HO7
    have HB7 := Lib.hid (HB6.out.trans hb7)
    have HQ7 := Lib.hid (HSG.out _ HB7.out)
    have hsz7 : S0 ≤ w7.heap.size := Nat.le_trans hsz6 hG7.1.size
    refine hK.out _ _ ?_
    clear hK K
    try simp only [Act.put, List.getElem_toArray, List.getElem_cons_succ, List.getElem_cons_zero, List.setIfInBounds_toArray, List.set_cons_zero, List.set_cons_succ]
    clear hO7 hG7 hb7 HO6 HS6 HQ6 HB6
    refine wpA_one 10 (by kernel_rfl) rfl (fun K hK => ?_)
    go_simp
    refine (HFB.out w7 HQ7.out).mono ?_
    rintro e w8 ⟨A8, n8, c8, rfl, hr8, hb8⟩
    have HO8 : Hid (Own w8 S0 21 .i32 v7 (l.take j)) := Lib.hid (own_below HO7.out hb8 (Nat.le_refl _))
    have HR8 := Lib.hid hr8
    have HB8 := Lib.hid (HB7.out.trans (hb8.mono hsz7))
    have hsz8 : S0 ≤ w8.heap.size := Nat.le_trans hsz7 hb8.size
    have hln8 : n8 ≤ 5760 := by have h1 := hr8.len; have h2 := form_len ((l.drop j).take (i - j)); rw [List.length_take] at h2; omega
    have hlni : (l.take j).length ≤ 60 := by rw [List.length_take]; omega
    refine hK.out _ _ ?_
    clear hK K
    try simp only [Act.put, List.getElem_toArray, List.getElem_cons_succ, List.getElem_cons_zero, List.setIfInBounds_toArray, List.set_cons_zero, List.set_cons_succ]
    clear hr8 hb8 HO7 HQ7 HB7
    refine wpA_one 11 (by kernel_rfl) rfl (fun K hK => ?_)
    refine wpA_if (by rfl) ?_
    refine wp_appL (.tmp 40) (.tmp 46) 22 rfl S0 21 .i32 4 Tryd.underlying22 info_i32 (by omega) v7 _ rfl HO8.out _ A8 n8 c8 _ HR8.out.len rfl HR8.out.nil HR8.out.ints (by rw [HR8.out.len]; omega) hsz8 ?_
    intro v9 w9 hO9 hG9
    have HO9 := Lib.hid hO9
    have HB9 := Lib.hid (HB8.out.trans (hG9.below HO8.out hsz8))
    have HQ9 := Lib.hid (HSG.out _ HB9.out)
    have hsz9 : S0 ≤ w9.heap.size := Nat.le_trans hsz8 hG9.1.size
    have hln9 : (l.take j ++ form5 ((l.drop j).take (i - j))).length ≤ 6000 := by rw [List.length_append, HR8.out.len]; omega
    have HS9 := Lib.hid (HRT.out _ HQ9.out)
    refine hK.out _ _ ?_
    clear hK K
    try simp only [Act.put, List.getElem_toArray, List.getElem_cons_succ, List.getElem_cons_zero, List.setIfInBounds_toArray, List.set_cons_zero, List.set_cons_succ]
    clear hO9 hG9 HO8 HR8 HB8
    refine wpA_one 15 (by kernel_rfl) rfl (fun K hK => ?_)
    refine wpA_if (by rfl) ?_
    refine wp_appL (.tmp 47) (.tmp 50) 22 rfl S0 21 .i32 4 Tryd.underlying22 info_i32 (by omega) v9 _ rfl HO9.out _ AJ (n - i) (c - i) _ HS9.out.len rfl HS9.out.nil HS9.out.ints (by rw [HS9.out.len]; omega) hsz9 ?_
    intro v10 w10 hO10 hG10
    have HO10 := Lib.hid hO10
    have HB10 := Lib.hid (HB9.out.trans (hG10.below HO9.out hsz9))
    have HQ10 := Lib.hid (HSG.out _ HB10.out)
    refine hK.out _ _ ?_
    clear hK K
    try simp only [Act.put, List.getElem_toArray, List.getElem_cons_succ, List.getElem_cons_zero, List.setIfInBounds_toArray, List.set_cons_zero, List.set_cons_succ]
    clear hO10 hG10 HO9 HS9 HB9 HQ9
    refine wpA_take 16 12 (v := ?v16a) rfl rfl (by kernel_rfl) (by kernel_rfl) (by kernel_rfl) (fun _ _ _ h => h) (Or.inl ⟨by rfl, ?y16a⟩) ?r16a
    case y16a => (intro W; go_simp; try with_reducible rfl)
    simp only [Act.put, List.setIfInBounds_toArray, List.set_cons_zero, List.set_cons_succ]
    refine wpA_done (by kernel_rfl) ?_ _
    obtain ⟨B, dd, hv, _, _⟩ := own_form HO10.out
    subst hv
    have HM10 := Lib.hid (RowIn.ofOwn HO10.out)
    have HEQ := Lib.hid (form_part l j i (by omega))
    have hml := part_len HQ10.out.r.len j i (by omega) hn
    have HMI := Lib.hid (part_in HRR.out j i)
    clear HO10 HSG HB10 HFB HRT HRI HSZ HQ5 HAI HAJ hln8 hln9 hlni
    have HAW := Lib.hid (fun W => awake9 HNF.out W g)
    generalize l.take j ++ form5 ((l.drop j).take (i - j)) ++ l.drop i = mm at *
    generalize hmm : mm.length = m at *
    clear hmm
    go_wp2_with fail
    with_reducible refine (HNF.out.form _ g _ _ _ _ HM10.out HQ10.out.k.t HMI.out (by omega)).mono ?_
    rintro e w11 ⟨A11, n11, c11, rfl, hr11, hb11⟩
    rw [HEQ.out] at hr11
    have HQ11 := Lib.hid (HQ10.out.go hb11)
    have HF11 := Lib.hid hr11
    clear hr11 hb11 HQ10 HM10
    have hn11 := form_most HQ11.out.r HF11.out hn
    go_wp2_with fail
    with_reducible refine (same_rows HF11.out HQ11.out.f rfl (by omega)).mono ?_
    rintro e w12 ⟨rfl, hs12⟩
    have HQ12 := Lib.hid (HQ11.out.go hs12.below)
    clear hs12 HQ11 HF11
    go_wp2_with fail
    with_reducible refine (HNF.out.form _ g _ _ _ _ HQ12.out.f HQ12.out.k.t (form_in HRR.out) (by omega)).mono ?_
    rintro e w13 ⟨A13, n13, c13, rfl, hr13, hb13⟩
    rw [show form5 (form5 l) = form5 l from form_once cmp5 l] at hr13
    have HQ13 := Lib.hid (HQ12.out.go hb13)
    have HF13 := Lib.hid hr13
    clear hr13 hb13 HQ12
    have hn13 := form_most HQ13.out.r HF13.out hn
    go_wp2_with fail
    with_reducible refine (same_rows HF13.out HQ13.out.f rfl (by omega)).mono ?_
    rintro e w14 ⟨rfl, hs14⟩
    have HQ14 := Lib.hid (HQ13.out.go hs14.below)
    clear hs14 HQ13 HF13
    go_wp2_with fail
    with_reducible refine (HAW.out _ HQ14.out.k.t HQ14.out.k.tab).mono ?_
    rintro e w15 ⟨rfl, hb15⟩
    have HQ15 := Lib.hid (HQ14.out.go hb15)
    clear hb15 HQ14
    go_wp2
    go_ret
    exact ⟨rfl, HQ15.out.k.be⟩
  · have hij' : decide ((j : Int) < (i : Int)) = false := decide_eq_false (by omega)
    have hic : (i : Int) ≤ c := by omega
    have hic' : (0 : Int) ≤ (i : Int) ∧ (i : Int) ≤ c := by omega
    have hijc : (0 : Int) ≤ (i : Int) ∧ (i : Int) ≤ (j : Int) ∧ (j : Int) ≤ c := by omega
    have hjc : (i : Int) ≤ (j : Int) ∧ (j : Int) ≤ c := by omega
    have hjn1 : (j : Int) ≤ n := by omega
    have hjn' : (0 : Int) ≤ (j : Int) ∧ (j : Int) ≤ n := by omega
    have hjn2 : (j : Int) ≤ (n : Int) ∧ (n : Int) ≤ c := by omega
    have hsub : ((j : Int) - (i : Int)).toNat = j - i := by omega
    go_wp2_with fail
    with_reducible refine (HNF.out.form _ g _ _ _ _ HL3.out HK3.out.t HRR.out (by omega)).mono ?_
    rintro e w4 ⟨AF, nF, cF, rfl, hr4, hb4⟩
    have HQ4 : Hid (Q9 w g A n c l AF nF cF w4) := Lib.hid ⟨HK3.out.go hb4, HL3.out.go hb4, hr4⟩
    have hnF := form_most HL3.out hr4 hn
    clear hr4 hb4 HK3 HL3
    have HFB : Hid (∀ W, Q9 w g A n c l AF nF cF W → Calls Tryd.prog 12 #[.pointer (some ⟨g, 0, none⟩), .slice (if c = i then A else Option.map (fun x => x.add i) A) (j - i) (c - i)] W (RowOut W (form5 ((l.drop i).take (j - i))))) := Lib.hid fun W h => HNF.out.form W g _ _ _ _ ((h.r.tail i (by omega)).take (j - i) (by omega)) h.k.t (fun x hx => HRR.out x (List.mem_of_mem_drop (List.mem_of_mem_take hx))) (by omega)
    have HRT : Hid (∀ W, Q9 w g A n c l AF nF cF W → RowIn W (if c = j then A else Option.map (fun x => x.add j) A) (n - j) (c - j) (l.drop j)) := Lib.hid fun W h => h.r.tail j (by omega)
    have HRI : Hid (∀ W, Q9 w g A n c l AF nF cF W → RowIn W A i c (l.take i)) := Lib.hid fun W h => h.r.take i (by omega)
    go_wp2_with fail
    generalize hAI : (if c = i then A else Option.map (fun x => x.add i) A) = AI at HFB
    generalize hAJ : (if c = j then A else Option.map (fun x => x.add j) A) = AJ at HRT
    have HAI := Lib.hid hAI
    have HAJ := Lib.hid hAJ
    clear hAI hAJ
    refine wp_region_A (by kernel_rfl) ?_
    have HQ5 : Hid (Q9 w g A n c l AF nF cF w4.drew) := Lib.hid (HQ4.out.go (Below.refl _ _).drew)
    clear HQ4
    generalize w4.drew = w5 at *
    obtain ⟨S0, hS0⟩ : ∃ S0, w5.heap.size = S0 := ⟨_, rfl⟩
    have HSZ := Lib.hid hS0
    have HSG : Hid (∀ W, Below S0 w5 W → Q9 w g A n c l AF nF cF W) := Lib.hid fun W h => HQ5.out.go (by rw [hS0]; exact h)
    clear hS0
    refine wpA_take 1 37 (v := ?v1b) rfl rfl (by kernel_rfl) (by kernel_rfl) (by kernel_rfl) (fun _ _ _ h => h) (Or.inl ⟨by rfl, ?y1b⟩) ?r1b
    case y1b => (intro W; go_simp; try with_reducible rfl)
    simp only [Act.put, List.setIfInBounds_toArray, List.set_cons_zero, List.set_cons_succ]
    refine wpA_take 2 38 (v := ?v2b) rfl rfl (by kernel_rfl) (by kernel_rfl) (by kernel_rfl) (fun _ _ _ h => h) (Or.inl ⟨by rfl, ?y2b⟩) ?r2b
    case y2b => (intro W; go_simp; try with_reducible rfl)
    simp only [Act.put, List.setIfInBounds_toArray, List.set_cons_zero, List.set_cons_succ]
    refine wpA_take 3 39 (v := ?v3b) rfl rfl (by kernel_rfl) (by kernel_rfl) (by kernel_rfl) (fun _ _ _ h => h) (Or.inl ⟨by rfl, ?y3b⟩) ?r3b
    case y3b => (intro W; go_simp; (first | rw [if_pos hic] | rw [if_pos hic'] | skip); try with_reducible rfl)
    simp only [Act.put, List.setIfInBounds_toArray, List.set_cons_zero, List.set_cons_succ]
    refine wpA_take 5 41 (v := ?v5b) rfl rfl (by kernel_rfl) (by kernel_rfl) (by kernel_rfl) (fun _ _ _ h => h) (Or.inl ⟨by rfl, ?y5b⟩) ?r5b
    case y5b => (intro W; go_simp; try with_reducible rfl)
    simp only [Act.put, List.setIfInBounds_toArray, List.set_cons_zero, List.set_cons_succ]
    refine wpA_take 6 42 (v := ?v6b) rfl rfl (by kernel_rfl) (by kernel_rfl) (by kernel_rfl) (fun _ _ _ h => h) (Or.inl ⟨by rfl, ?y6b⟩) ?r6b
    case y6b => (intro W; go_simp; try with_reducible rfl)
    simp only [Act.put, List.setIfInBounds_toArray, List.set_cons_zero, List.set_cons_succ]
    refine wpA_take 7 43 (v := ?v7b) rfl rfl (by kernel_rfl) (by kernel_rfl) (by kernel_rfl) (fun _ _ _ h => h) (Or.inl ⟨by rfl, ?y7b⟩) ?r7b
    case y7b => (intro W; go_simp; try with_reducible rfl)
    simp only [Act.put, List.setIfInBounds_toArray, List.set_cons_zero, List.set_cons_succ]
    refine wpA_take 8 44 (v := ?v8b) rfl rfl (by kernel_rfl) (by kernel_rfl) (by kernel_rfl) (fun _ _ _ h => h) (Or.inl ⟨by rfl, ?y8b⟩) ?r8b
    case y8b => (intro W; go_simp; try with_reducible rfl)
    simp only [Act.put, List.setIfInBounds_toArray, List.set_cons_zero, List.set_cons_succ]
    refine wpA_take 9 45 (v := .slice AI (j - i) (c - i)) rfl rfl (by kernel_rfl) (by kernel_rfl) (by kernel_rfl) (fun _ _ _ h => h) (Or.inl ⟨by rfl, ?y9b⟩) ?r9b
    case y9b => (intro W; go_simp; exact HAI.out)
    simp only [Act.put, List.setIfInBounds_toArray, List.set_cons_zero, List.set_cons_succ]
    refine wpA_take 12 48 (v := ?v12b) rfl rfl (by kernel_rfl) (by kernel_rfl) (by kernel_rfl) (fun _ _ _ h => h) (Or.inl ⟨by rfl, ?y12b⟩) ?r12b
    case y12b => (intro W; go_simp; try with_reducible rfl)
    simp only [Act.put, List.setIfInBounds_toArray, List.set_cons_zero, List.set_cons_succ]
    refine wpA_take 13 49 (v := ?v13b) rfl rfl (by kernel_rfl) (by kernel_rfl) (by kernel_rfl) (fun _ _ _ h => h) (Or.inl ⟨by rfl, ?y13b⟩) ?r13b
    case y13b => (intro W; go_simp; try with_reducible rfl)
    simp only [Act.put, List.setIfInBounds_toArray, List.set_cons_zero, List.set_cons_succ]
    refine wpA_take 14 50 (v := .slice AJ (n - j) (c - j)) rfl rfl (by kernel_rfl) (by kernel_rfl) (by kernel_rfl) (fun _ _ _ h => h) (Or.inl ⟨by rfl, ?y14b⟩) ?r14b
    case y14b => (intro W; go_simp; first | exact HAJ.out | (rw [if_pos hjn1]; go_simp; exact HAJ.out))
    simp only [Act.put, List.setIfInBounds_toArray, List.set_cons_zero, List.set_cons_succ]
    refine wpA_one 0 (by kernel_rfl) rfl (fun K hK => ?_)
    go_simp
    have HO6 : Hid (Own (w5.alloc (.cells #[] 21)) S0 21 .i32 (.slice (some ⟨S0, 0, none⟩) 0 0) []) := Lib.hid (by rw [← HSZ.out]; exact own_empty w5 w5.heap.size 21 .i32 (Nat.le_refl _))
    have HB6 : Hid (Below S0 w5 (w5.alloc (.cells #[] 21))) := Lib.hid (by rw [← HSZ.out]; exact below_new w5 _)
    rw [HSZ.out]
    refine hK.out _ _ ?_
    clear hK K
    try simp only [Act.put, List.getElem_toArray, List.getElem_cons_succ, List.getElem_cons_zero, List.setIfInBounds_toArray, List.set_cons_zero, List.set_cons_succ]
    generalize hw6 : w5.alloc (.cells #[] 21) = w6 at *
    clear hw6
    have HQ6 := Lib.hid (HSG.out _ HB6.out)
    have hsz6 : S0 ≤ w6.heap.size := by have := HB6.out.size; rw [HSZ.out] at this; exact this
    have HS6 := Lib.hid (HRI.out _ HQ6.out)
    refine wpA_one 4 (by kernel_rfl) rfl (fun K hK => ?_)
    refine wpA_if (by rfl) ?_
    refine wp_appL (.tmp 36) (.tmp 39) 22 rfl S0 21 .i32 4 Tryd.underlying22 info_i32 (by omega) _ [] rfl HO6.out _ A i c _ HS6.out.len rfl HS6.out.nil HS6.out.ints (by rw [HS6.out.len, List.length_nil]; omega) hsz6 ?_
    intro v7 w7 hO7 hG7
    have hb7 : Below S0 w6 w7 := hG7.below HO6.out hsz6
    have HO7 := Lib.hid hO7
    rw [List.nil_append] at HO7
    have HB7 := Lib.hid (HB6.out.trans hb7)
    have HQ7 := Lib.hid (HSG.out _ HB7.out)
    have hsz7 : S0 ≤ w7.heap.size := Nat.le_trans hsz6 hG7.1.size
    refine hK.out _ _ ?_
    clear hK K
    try simp only [Act.put, List.getElem_toArray, List.getElem_cons_succ, List.getElem_cons_zero, List.setIfInBounds_toArray, List.set_cons_zero, List.set_cons_succ]
    clear hO7 hG7 hb7 HO6 HS6 HQ6 HB6
    refine wpA_one 10 (by kernel_rfl) rfl (fun K hK => ?_)
    go_simp
    refine (HFB.out w7 HQ7.out).mono ?_
    rintro e w8 ⟨A8, n8, c8, rfl, hr8, hb8⟩
    have HO8 : Hid (Own w8 S0 21 .i32 v7 (l.take i)) := Lib.hid (own_below HO7.out hb8 (Nat.le_refl _))
    have HR8 := Lib.hid hr8
    have HB8 := Lib.hid (HB7.out.trans (hb8.mono hsz7))
    have hsz8 : S0 ≤ w8.heap.size := Nat.le_trans hsz7 hb8.size
    have hln8 : n8 ≤ 5760 := by have h1 := hr8.len; have h2 := form_len ((l.drop i).take (j - i)); rw [List.length_take] at h2; omega
    have hlni : (l.take i).length ≤ 60 := by rw [List.length_take]; omega
    refine hK.out _ _ ?_
    clear hK K
    try simp only [Act.put, List.getElem_toArray, List.getElem_cons_succ, List.getElem_cons_zero, List.setIfInBounds_toArray, List.set_cons_zero, List.set_cons_succ]
    clear hr8 hb8 HO7 HQ7 HB7
    refine wpA_one 11 (by kernel_rfl) rfl (fun K hK => ?_)
    refine wpA_if (by rfl) ?_
    refine wp_appL (.tmp 40) (.tmp 46) 22 rfl S0 21 .i32 4 Tryd.underlying22 info_i32 (by omega) v7 _ rfl HO8.out _ A8 n8 c8 _ HR8.out.len rfl HR8.out.nil HR8.out.ints (by rw [HR8.out.len]; omega) hsz8 ?_
    intro v9 w9 hO9 hG9
    have HO9 := Lib.hid hO9
    have HB9 := Lib.hid (HB8.out.trans (hG9.below HO8.out hsz8))
    have HQ9 := Lib.hid (HSG.out _ HB9.out)
    have hsz9 : S0 ≤ w9.heap.size := Nat.le_trans hsz8 hG9.1.size
    have hln9 : (l.take i ++ form5 ((l.drop i).take (j - i))).length ≤ 6000 := by rw [List.length_append, HR8.out.len]; omega
    have HS9 := Lib.hid (HRT.out _ HQ9.out)
    refine hK.out _ _ ?_
    clear hK K
    try simp only [Act.put, List.getElem_toArray, List.getElem_cons_succ, List.getElem_cons_zero, List.setIfInBounds_toArray, List.set_cons_zero, List.set_cons_succ]
    clear hO9 hG9 HO8 HR8 HB8
    refine wpA_one 15 (by kernel_rfl) rfl (fun K hK => ?_)
    refine wpA_if (by rfl) ?_
    refine wp_appL (.tmp 47) (.tmp 50) 22 rfl S0 21 .i32 4 Tryd.underlying22 info_i32 (by omega) v9 _ rfl HO9.out _ AJ (n - j) (c - j) _ HS9.out.len rfl HS9.out.nil HS9.out.ints (by rw [HS9.out.len]; omega) hsz9 ?_
    intro v10 w10 hO10 hG10
    have HO10 := Lib.hid hO10
    have HB10 := Lib.hid (HB9.out.trans (hG10.below HO9.out hsz9))
    have HQ10 := Lib.hid (HSG.out _ HB10.out)
    refine hK.out _ _ ?_
    clear hK K
    try simp only [Act.put, List.getElem_toArray, List.getElem_cons_succ, List.getElem_cons_zero, List.setIfInBounds_toArray, List.set_cons_zero, List.set_cons_succ]
    clear hO10 hG10 HO9 HS9 HB9 HQ9
    refine wpA_take 16 12 (v := ?v16b) rfl rfl (by kernel_rfl) (by kernel_rfl) (by kernel_rfl) (fun _ _ _ h => h) (Or.inl ⟨by rfl, ?y16b⟩) ?r16b
    case y16b => (intro W; go_simp; try with_reducible rfl)
    simp only [Act.put, List.setIfInBounds_toArray, List.set_cons_zero, List.set_cons_succ]
    refine wpA_done (by kernel_rfl) ?_ _
    obtain ⟨B, dd, hv, _, _⟩ := own_form HO10.out
    subst hv
    have HM10 := Lib.hid (RowIn.ofOwn HO10.out)
    have HEQ := Lib.hid (form_part l i j (by omega))
    have hml := part_len HQ10.out.r.len i j (by omega) hn
    have HMI := Lib.hid (part_in HRR.out i j)
    clear HO10 HSG HB10 HFB HRT HRI HSZ HQ5 HAI HAJ hln8 hln9 hlni
    have HAW := Lib.hid (fun W => awake9 HNF.out W g)
    generalize l.take i ++ form5 ((l.drop i).take (j - i)) ++ l.drop j = mm at *
    generalize hmm : mm.length = m at *
    clear hmm
    go_wp2_with fail
    with_reducible refine (HNF.out.form _ g _ _ _ _ HM10.out HQ10.out.k.t HMI.out (by omega)).mono ?_
    rintro e w11 ⟨A11, n11, c11, rfl, hr11, hb11⟩
    rw [HEQ.out] at hr11
    have HQ11 := Lib.hid (HQ10.out.go hb11)
    have HF11 := Lib.hid hr11
    clear hr11 hb11 HQ10 HM10
    have hn11 := form_most HQ11.out.r HF11.out hn
    go_wp2_with fail
    with_reducible refine (same_rows HF11.out HQ11.out.f rfl (by omega)).mono ?_
    rintro e w12 ⟨rfl, hs12⟩
    have HQ12 := Lib.hid (HQ11.out.go hs12.below)
    clear hs12 HQ11 HF11
    go_wp2_with fail
    with_reducible refine (HNF.out.form _ g _ _ _ _ HQ12.out.f HQ12.out.k.t (form_in HRR.out) (by omega)).mono ?_
    rintro e w13 ⟨A13, n13, c13, rfl, hr13, hb13⟩
    rw [show form5 (form5 l) = form5 l from form_once cmp5 l] at hr13
    have HQ13 := Lib.hid (HQ12.out.go hb13)
    have HF13 := Lib.hid hr13
    clear hr13 hb13 HQ12
    have hn13 := form_most HQ13.out.r HF13.out hn
    go_wp2_with fail
    with_reducible refine (same_rows HF13.out HQ13.out.f rfl (by omega)).mono ?_
    rintro e w14 ⟨rfl, hs14⟩
    have HQ14 := Lib.hid (HQ13.out.go hs14.below)
    clear hs14 HQ13 HF13
    go_wp2_with fail
    with_reducible refine (HAW.out _ HQ14.out.k.t HQ14.out.k.tab).mono ?_
    rintro e w15 ⟨rfl, hb15⟩
    have HQ15 := Lib.hid (HQ14.out.go hb15)
    clear hb15 HQ14
    go_wp2
    go_ret
    exact ⟨rfl, HQ15.out.k.be⟩
end Go.Proofs.YtdmcidljjfogjaaDoor
