/- The walk of Utf8Longest. -/
import Derived.Test.YtbmeinicjfmjlaaDoorU8AllWalk
import Derived.Test.YtbmeinicjfmjlaaDoorU8Path
import Derived.Test.YtbmeinicjfmjlaaDoorAppG
namespace Go.Proofs.YtbmeinicjfmjlaaDoor
open Go.ChangeShapes Go.WideShapes Go.ChangeAt Go.RowKit
set_option linter.unusedVariables false

theorem begins_any (A : Option Addr) (n cap : Nat) (xs : List Int) (w : World) (hn : xs.length = n) (hI : Ints w w.heap.size .u8 A xs) (hB : Bts xs) (hm : n ≤ 65536) (hc : n ≤ cap) (hcm : cap ≤ maxLen) :
    Calls Tryd.prog 19 #[.slice A n cap] w fun e w' => e = .returned (.bool (begB xs)) ∧ Below w.heap.size w w' := by
  have he : (((allS xs).2.1 : Int) == (n : Int)) = begB xs := by
    rw [Bool.eq_iff_iff, beq_iff_eq]; unfold begB; rw [decide_eq_true_iff]; omega
  go_enter Tryd.func19, Tryd.ntmps19
  go_wp2_with fail
  with_reducible refine (Calls.mono (r_all_any A n cap xs w hn hI hB hm hc hcm) (fun _ _ h => AllRes.sl h)).mono ?_
  rintro e w1 ⟨A1, c1, rfl, hI1, hb1⟩
  have HI1 := Lib.hid hI1
  clear hI1 hI
  go_wp2
  go_ret
  exact ⟨by rw [← he]; rfl, hb1⟩

/-- s in a row of the call's own, so many more bytes wanted at most -/
def LgLoop (w : World) (s8 s9 : Value) (w1 : World) : Prop :=
  ∃ (i : Nat) (s : List Int), i ≤ 3 ∧ s9 = .int .i64 i ∧ Own w1 w.heap.size 5 .u8 s8 s ∧ Good s (3 - i) ∧ Bts s ∧ s.length ≤ 200 + i ∧ Below w.heap.size w w1
def LgIn (w w0 : World) (s : List Int) (s13 : Value) (w1 : World) : Prop :=
  ∃ x : Int, 128 ≤ x ∧ x ≤ 191 ∧ s13 = .int .u8 x ∧ Hid (∀ y, 128 ≤ y → y < x → begB (s ++ [y]) = false) ∧ Below w0.heap.size w0 w1
theorem bts_snoc {s : List Int} {x : Int} (h : Bts s) (h0 : 0 ≤ x) (h1 : x ≤ 255) : Bts (s ++ [x]) := fun y hy => by
  rcases List.mem_append.1 hy with k | k
  · exact h y k
  · simp at k; subst k; exact ⟨h0, h1⟩
theorem bts_app {s t : List Int} (h : Bts s) (k : Bts t) : Bts (s ++ t) := fun y hy => by
  rcases List.mem_append.1 hy with j | j
  · exact h y j
  · exact k y j

set_option maxHeartbeats 8000000 in
theorem lg_more (ad : Addr) (n cap0 : Nat) (z0 : List Int) (a1 : Option Addr) (cap1 : Nat) (z1 : List Int) (w : World) (hT : Tab w) (hle0 : z0.length ≤ cap0) (hmx0 : cap0 ≤ maxLen) (hbig : z0.length ≤ 200) (hbig1 : z1.length ≤ 3) (hal : n ≤ z0.length) (hG : Good (z0.take n) 3) (hN : (allS z0).2.1 = n) (hok : (allS z0).2.2 = false) (hlt : n < z0.length) (hNM : (allS (z0.take (n + 1) ++ z1)).2.2 = false)
    (hI0 : Ints w w.heap.size .u8 (some ad) z0) (hI1 : Ints w w.heap.size .u8 a1 z1) (hB0 : Bts z0) (hB1 : Bts z1) (hn1 : a1 = none → cap1 = 0) :
    Calls Tryd.prog 5 #[.slice (some ad) z0.length cap0, .slice a1 z1.length cap1] w fun e w' => e = .returned (.bool true) ∧ Below w.heap.size w w' := by
  have HI0 := Lib.hid hI0
  have HI1 := Lib.hid hI1
  have HB0 := Lib.hid hB0
  have HB1 := Lib.hid hB1
  have HN1 := Lib.hid hn1
  have HG := Lib.hid hG
  have HOK := Lib.hid hok
  have HNN := Lib.hid hN
  clear hI0 hI1 hB0 hB1 hn1 hG hok hN
  have hbig' : decide (200 < (z0.length : Int)) = false := decide_eq_false (by omega)
  have hbig1' : decide (3 < (z1.length : Int)) = false := decide_eq_false (by omega)
  have hmx0' := hmx0
  unfold maxLen at hmx0'
  have HLT : Hid ((z0.take n).length = n) := by show (z0.take n).length = n; rw [List.length_take]; omega
  have HNM := Lib.hid hNM
  have HLT1 : Hid ((z0.take (n + 1)).length = n + 1) := by show (z0.take (n + 1)).length = n + 1; rw [List.length_take]; omega
  have hnq : ((n : Int) == (z0.length : Int)) = false := beq_eq_false_iff_ne.2 (by omega)
  clear hNM
  have t1 : decide ((n : Int) < 0) = false := decide_eq_false (by omega)
  have t2 : decide ((z0.length : Int) < (n : Int)) = false := decide_eq_false (by omega)
  go_enter Tryd.func5, Tryd.ntmps5
  go_wp2_with fail
  with_reducible refine (Calls.mono (all_any (some ad) cap0 z0 w hT HI0.out HB0.out (by omega) hle0 hmx0) (fun _ _ h => AllRes.sl h)).mono ?_
  rintro e w1 ⟨A1, c1, rfl, hI1, hb1⟩
  clear hI1
  rw [HNN.out, HOK.out]
  generalize (allS z0).1 = l1
  have hz1 := hb1.size
  go_wp2_with (first
    | (at_builtin; refine wpList_app_n (by rfl) (.tmp 52) (.tmp 55) 22 rfl w.heap.size 5 .u8 1 Tryd.underlying22 info_u8 (by omega) _ [] rfl (own_empty w1 _ _ _ hz1) _ (some ad) n cap0 (z0.take n) HLT.out (by rfl) (fun h => by cases h) ((HI0.out.below (hb1.alloc hz1 _) (Nat.le_refl _)).take n) (by simp; try omega) (by simp; omega) ?_; intro v2 w2 hO2 hg2))
  have hb2 : Below w.heap.size w w2 := (hb1.alloc hz1 _).trans (own_grown_below (own_empty w1 w.heap.size 5 .u8 hz1) hg2 (by simp; omega))
  rw [List.nil_append] at hO2
  have HO2 := Lib.hid hO2
  clear hO2 hg2
  go_loopw [8, 9] (fun s8 s9 w1 => LgLoop w s8 s9 w1) (fun _ i _ => 3 - (intOf i).toNat)
  case atStart => exact ⟨0, z0.take n, by omega, rfl, HO2.out, HG.out, HB0.out.take n, by rw [HLT.out]; omega, hb2⟩
  case round =>
    obtain ⟨i, s, hi, rfl, hO, hG, hBs, hls, hb⟩ := hrel
    obtain ⟨As, cs, hv, hcs, hcms⟩ := own_form hO
    subst hv
    have HO := Lib.hid hO
    have HBs := Lib.hid hBs
    clear hO hBs hb2 HO2
    have hzr := hb.size
    by_cases hi3 : i < 3
    · have hi3' : (i : Int) < 3 := by omega
      have hq := Calls.mono (r_all_any As s.length cs s wr rfl (Ints.own HO.out) HBs.out (by omega) hcs hcms) (fun _ _ h => AllRes.sl h)
      rcases good_whole hG with hw | ⟨hw, hm, hex, hstep⟩
      · have HW := Lib.hid hw
        clear hw
        go_wp2_with fail
        with_reducible refine hq.mono ?_
        rintro e w3 ⟨A3, c3, rfl, hI3, hb3'⟩
        have hO3 := own_below HO.out hb3' (Nat.le_refl _)
        have hb3 := hb.trans (hb3'.mono hb.size)
        rw [HW.out]
        clear hI3 hb3' hq HO
        have HO := Lib.hid hO3
        clear hO3
        go_wp2_with fail
        with_reducible refine (Calls.mono (all_any As cs s w3 (hT.below' hb3) (Ints.own HO.out) HBs.out (by omega) hcs hcms) (fun _ _ h => AllRes.sl h)).mono ?_
        rintro e w8 ⟨A8, c8, rfl, hI8, hb8'⟩
        have hb8 := hb3.trans (hb8'.mono hb3.size)
        rw [HW.out]
        clear hI8 hb8'
        have hz8 := hb8.size
        go_wp2_with (first
          | (at_builtin; refine wpList_app_n (by rfl) (.tmp 103) (.tmp 107) 22 rfl w.heap.size 5 .u8 1 Tryd.underlying22 info_u8 (by omega) _ [] rfl (own_empty w8 _ _ _ hz8) _ (some ad) (n + 1) cap0 (z0.take (n + 1)) HLT1.out (by rfl) (fun h => by cases h) ((HI0.out.below (hb8.alloc hz8 _) (Nat.le_refl _)).take (n + 1)) (by simp; omega) (by simp; omega) ?_; intro v10 w10 hO10 hg10
             have hb10 := (hb8.alloc hz8 _).trans (own_grown_below (own_empty w8 w.heap.size 5 .u8 hz8) hg10 (by simp; omega))
             have HO10 := Lib.hid hO10
             have hz10 := hb10.size
             clear hO10 hg10)
          | (at_builtin; refine wpList_app_n (by rfl) (.tmp 108) (.tmp 109) 22 rfl w.heap.size 5 .u8 1 Tryd.underlying22 info_u8 (by omega) v10 ([] ++ z0.take (n + 1)) rfl HO10.out _ a1 z1.length cap1 z1 rfl (by rfl) HN1.out (HI1.out.below hb10 (Nat.le_refl _)) (by rw [List.nil_append, HLT1.out]; omega) hz10 ?_; intro v11 w11 hO11 hg11
             have hb11 := hb10.trans (own_grown_below HO10.out hg11 hz10)
             have HO11 := Lib.hid hO11
             clear hO11 hg11))
        have hO11 := HO11.out
        rw [List.nil_append] at hO11
        obtain ⟨A11, c11, rfl, hc11, hcm11⟩ := own_form hO11
        have hl11 : (z0.take (n + 1) ++ z1).length ≤ 65536 := by rw [List.length_append, HLT1.out]; omega
        with_reducible refine (Calls.mono (all_any A11 c11 (z0.take (n + 1) ++ z1) w11 (hT.below' hb11) (Ints.own hO11) (bts_app (HB0.out.take _) HB1.out) hl11 hc11 hcm11) (fun _ _ h => AllRes.sl h)).mono ?_
        rintro e w12 ⟨A12, c12, rfl, hI12, hb12'⟩
        have hb12 := hb11.trans (hb12'.mono hb11.size)
        rw [HNM.out]
        clear hI12 hb12' hO11 HO11 HO10
        go_wp2_with fail
        with_reducible refine (awake_any _ (hT.below' hb12)).mono ?_
        rintro e w13 ⟨rfl, hb13'⟩
        have hb13 := hb12.trans (hb13'.mono hb12.size)
        clear hb13'
        go_wp2
        go_ret
        exact ⟨rfl, hb13⟩
      · have HEX := Lib.hid hex
        have HST := Lib.hid hstep
        have HW := Lib.hid hw
        clear hw hex hstep hG
        go_wp2_with fail
        with_reducible refine hq.mono ?_
        rintro e w3 ⟨A3, c3, rfl, hI3, hb3'⟩
        have hO3 := own_below HO.out hb3' (Nat.le_refl _)
        have hb3 := hb.trans (hb3'.mono hb.size)
        rw [HW.out]
        clear hI3 hb3' hq HO hb hzr
        have HO := Lib.hid hO3
        have hz3 := hb3.size
        clear hO3
        go_wp2_with fail
        go_loopw [13] (fun s13 w1 => LgIn w w3 s s13 w1) (fun x _ => 191 - (intOf x).toNat)
        case atStart => exact ⟨128, by omega, by omega, rfl, fun y h1 h2 => by omega, Below.refl _ _⟩
        case round =>
          obtain ⟨x, x0, x1, rfl, HNO, hbi⟩ := hrel
          have hOi := own_below HO.out hbi (Nat.le_refl _)
          have HOi := Lib.hid hOi
          have hb4 := hb3.trans (hbi.mono hz3)
          have hz4 := hb4.size
          have hBx := bts_snoc HBs.out (by omega : 0 ≤ x) (by omega : x ≤ 255)
          clear hOi
          by_cases hx : x < 191
          · go_wp2_with (first
              | (at_builtin; refine wpList_app_n (by rfl) (.tmp 71) (.tmp 72) 22 rfl wr.heap.size 5 .u8 1 Tryd.underlying22 info_u8 (by omega) _ [] rfl (own_empty wr _ _ _ (Nat.le_refl _)) _ As s.length cs s rfl (by rfl) (own_nil HOi.out) ((Ints.own HOi.out).below ((Below.refl wr.heap.size wr).alloc (Nat.le_refl _) _) (Nat.le_refl _)) (by simp; omega) (by simp) ?_; intro v5 w5 hO5 hg5
                 have hb5 := ((Below.refl wr.heap.size wr).alloc (Nat.le_refl _) _).trans (own_grown_below (own_empty wr wr.heap.size 5 .u8 (Nat.le_refl _)) hg5 (by simp))
                 have HO5 := Lib.hid hO5
                 have hz5 := hb5.size
                 clear hO5 hg5)
              | (at_builtin; refine wpList_app_n (by rfl) (.tmp 73) (.tmp 75) 22 rfl wr.heap.size 5 .u8 1 Tryd.underlying22 info_u8 (by omega) v5 ([] ++ s) rfl (HO5.out.alloc _) _ _ 1 1 [x] rfl (by rfl) (fun h => by cases h) (Ints.lit w5 5 .u8 [x]) (by simp; omega) (by simp; omega) ?_; intro v6 w6 hO6 hg6
                 have hb6 := (hb5.alloc hz5 _).trans (own_grown_below (HO5.out.alloc _) hg6 (by simp; omega))
                 have HO6 := Lib.hid hO6
                 clear hO6 hg6))
            have hO6 := HO6.out
            rw [List.nil_append] at hO6
            obtain ⟨A6, c6, rfl, hc6, hcm6⟩ := own_form hO6
            have hl6 : (s ++ [x]).length = s.length + 1 := by simp
            have HL6 := Lib.hid hl6
            have hq6 := begins_any A6 _ c6 (s ++ [x]) w6 rfl (Ints.own hO6) hBx (by omega) hc6 hcm6
            have HO4 := Lib.hid (own_below HOi.out hb6 (Nat.le_refl _))
            have hb36 := hbi.trans (hb6.mono hbi.size)
            clear hl6 HO6 hO6 HO5 hb5 hz5
            cases hbg : begB (s ++ [x]) with
            | true =>
              rw [hbg] at hq6
              have HGS := Lib.hid (HST.out x hbg)
              clear hbg
              with_reducible refine hq6.mono ?_
              rintro e w7 ⟨rfl, hb7'⟩
              have HO7 := Lib.hid (own_below HO4.out hb7' (Nat.le_refl _))
              have hb67 := hb36.trans (hb7'.mono hb36.size)
              have hb7 := hb3.trans (hb67.mono hz3)
              clear hb7' hq6 hc6 hcm6 hb36 HO4
              have hz9 := hb7.size
              go_wp2_with (first
                | (at_builtin; refine wpList_app_n (by rfl) (.tmp 82) (.tmp 84) 22 rfl w.heap.size 5 .u8 1 Tryd.underlying22 info_u8 (by omega) _ s rfl (HO7.out.alloc _) _ _ 1 1 [x] rfl (by rfl) (fun h => by cases h) (Ints.lit w7 5 .u8 [x]) (by simp; omega) (by simp; omega) ?_; intro v9 w9 hO9 hg9))
              have hb9 := (hb7.alloc hz9 _).trans (own_grown_below (HO7.out.alloc _) hg9 (by simp; omega))
              go_roundw
              case rel => exact ⟨i + 1, s ++ [x], by omega, by go_num, hO9, HGS.out, hBx, by simp; omega, hb9⟩
              case measure => simp [intOf]; omega
            | false =>
              rw [hbg] at hq6
              have HBG := Lib.hid hbg
              clear hbg
              with_reducible refine hq6.mono ?_
              rintro e w7 ⟨rfl, hb7'⟩
              have hb67 := hb36.trans (hb7'.mono hb36.size)
              clear hb7' hq6 hc6 hcm6 hb36 HO4
              go_wp2
              go_roundw
              case rel => exact ⟨x + 1, by omega, by omega, by go_num, (fun y h1 h2 => (by
                by_cases hy : y < x
                · exact HNO.out y h1 hy
                · obtain rfl : y = x := by omega
                  exact HBG.out)), hb67⟩
              case measure => simp [intOf]; omega
          · have hx' : decide (x < 191) = false := decide_eq_false hx
            have hgd : begB (s ++ [x]) = true := by
              obtain ⟨y, y0, y1, hy⟩ := HEX.out
              by_cases hyx : y < x
              · rw [HNO.out y y0 hyx] at hy; cases hy
              · obtain rfl : y = x := by omega
                exact hy
            have HGS := Lib.hid (HST.out x hgd)
            clear hgd
            have hz9 := hb4.size
            go_wp2_with (first
              | (at_builtin; refine wpList_app_n (by rfl) (.tmp 82) (.tmp 84) 22 rfl w.heap.size 5 .u8 1 Tryd.underlying22 info_u8 (by omega) _ s rfl (HOi.out.alloc _) _ _ 1 1 [x] rfl (by rfl) (fun h => by cases h) (Ints.lit wr 5 .u8 [x]) (by simp; omega) (by simp; omega) ?_; intro v9 w9 hO9 hg9))
            have hb9 := (hb4.alloc hz9 _).trans (own_grown_below (HOi.out.alloc _) hg9 (by simp; omega))
            go_roundw
            case rel => exact ⟨i + 1, s ++ [x], by omega, by go_num, hO9, HGS.out, hBx, by simp; omega, hb9⟩
            case measure => simp [intOf]; omega
    · obtain rfl : i = 3 := by omega
      have HW : Hid ((allS s).2.2 = true) := by
        rcases good_whole hG with hw | ⟨_, hm, _⟩
        · exact hw
        · omega
      clear hG
      go_wp2_with fail
      with_reducible refine (Calls.mono (all_any As cs s wr (hT.below' hb) (Ints.own HO.out) HBs.out (by omega) hcs hcms) (fun _ _ h => AllRes.sl h)).mono ?_
      rintro e w8 ⟨A8, c8, rfl, hI8, hb8'⟩
      have hb8 := hb.trans (hb8'.mono hb.size)
      rw [HW.out]
      clear hI8 hb8'
      have hz8 := hb8.size
      go_wp2_with (first
        | (at_builtin; refine wpList_app_n (by rfl) (.tmp 103) (.tmp 107) 22 rfl w.heap.size 5 .u8 1 Tryd.underlying22 info_u8 (by omega) _ [] rfl (own_empty w8 _ _ _ hz8) _ (some ad) (n + 1) cap0 (z0.take (n + 1)) HLT1.out (by rfl) (fun h => by cases h) ((HI0.out.below (hb8.alloc hz8 _) (Nat.le_refl _)).take (n + 1)) (by simp; omega) (by simp; omega) ?_; intro v10 w10 hO10 hg10
           have hb10 := (hb8.alloc hz8 _).trans (own_grown_below (own_empty w8 w.heap.size 5 .u8 hz8) hg10 (by simp; omega))
           have HO10 := Lib.hid hO10
           have hz10 := hb10.size
           clear hO10 hg10)
        | (at_builtin; refine wpList_app_n (by rfl) (.tmp 108) (.tmp 109) 22 rfl w.heap.size 5 .u8 1 Tryd.underlying22 info_u8 (by omega) v10 ([] ++ z0.take (n + 1)) rfl HO10.out _ a1 z1.length cap1 z1 rfl (by rfl) HN1.out (HI1.out.below hb10 (Nat.le_refl _)) (by rw [List.nil_append, HLT1.out]; omega) hz10 ?_; intro v11 w11 hO11 hg11
           have hb11 := hb10.trans (own_grown_below HO10.out hg11 hz10)
           have HO11 := Lib.hid hO11
           clear hO11 hg11))
      have hO11 := HO11.out
      rw [List.nil_append] at hO11
      obtain ⟨A11, c11, rfl, hc11, hcm11⟩ := own_form hO11
      have hl11 : (z0.take (n + 1) ++ z1).length ≤ 65536 := by rw [List.length_append, HLT1.out]; omega
      with_reducible refine (Calls.mono (all_any A11 c11 (z0.take (n + 1) ++ z1) w11 (hT.below' hb11) (Ints.own hO11) (bts_app (HB0.out.take _) HB1.out) hl11 hc11 hcm11) (fun _ _ h => AllRes.sl h)).mono ?_
      rintro e w12 ⟨A12, c12, rfl, hI12, hb12'⟩
      have hb12 := hb11.trans (hb12'.mono hb11.size)
      rw [HNM.out]
      clear hI12 hb12' hO11 HO11 HO10
      go_wp2_with fail
      with_reducible refine (awake_any _ (hT.below' hb12)).mono ?_
      rintro e w13 ⟨rfl, hb13'⟩
      have hb13 := hb12.trans (hb13'.mono hb12.size)
      clear hb13'
      go_wp2
      go_ret
      exact ⟨rfl, hb13⟩
set_option maxHeartbeats 8000000 in
theorem lg_true (ad : Addr) (n cap0 : Nat) (z0 : List Int) (a1 : Option Addr) (cap1 : Nat) (z1 : List Int) (w : World) (hT : Tab w) (hle0 : z0.length ≤ cap0) (hmx0 : cap0 ≤ maxLen) (hbig : z0.length ≤ 200) (hbig1 : z1.length ≤ 3) (hal : n ≤ z0.length) (hG : Good (z0.take n) 3) (hN : (allS z0).2.1 = n) (hok : (allS z0).2.2 = true) (hnn : n = z0.length)
    (hI0 : Ints w w.heap.size .u8 (some ad) z0) (hI1 : Ints w w.heap.size .u8 a1 z1) (hB0 : Bts z0) (hB1 : Bts z1) (hn1 : a1 = none → cap1 = 0) :
    Calls Tryd.prog 5 #[.slice (some ad) z0.length cap0, .slice a1 z1.length cap1] w fun e w' => e = .returned (.bool true) ∧ Below w.heap.size w w' := by
  have HI0 := Lib.hid hI0
  have HI1 := Lib.hid hI1
  have HB0 := Lib.hid hB0
  have HB1 := Lib.hid hB1
  have HN1 := Lib.hid hn1
  have HG := Lib.hid hG
  have HOK := Lib.hid hok
  have HNN := Lib.hid hN
  clear hI0 hI1 hB0 hB1 hn1 hG hok hN
  have hbig' : decide (200 < (z0.length : Int)) = false := decide_eq_false (by omega)
  have hbig1' : decide (3 < (z1.length : Int)) = false := decide_eq_false (by omega)
  have hmx0' := hmx0
  unfold maxLen at hmx0'
  have HLT : Hid ((z0.take n).length = n) := by show (z0.take n).length = n; rw [List.length_take]; omega
  have hnq : ((n : Int) == (z0.length : Int)) = true := beq_iff_eq.2 (by omega)
  have hnq2 : ((n : Int) != (z0.length : Int)) = false := by rw [hnn]; simp
  have hnl' : n ≤ z0.length ∧ z0.length ≤ n := by omega
  clear hnn
  have t1 : decide ((n : Int) < 0) = false := decide_eq_false (by omega)
  have t2 : decide ((z0.length : Int) < (n : Int)) = false := decide_eq_false (by omega)
  go_enter Tryd.func5, Tryd.ntmps5
  go_wp2_with fail
  with_reducible refine (Calls.mono (all_any (some ad) cap0 z0 w hT HI0.out HB0.out (by omega) hle0 hmx0) (fun _ _ h => AllRes.sl h)).mono ?_
  rintro e w1 ⟨A1, c1, rfl, hI1, hb1⟩
  clear hI1
  rw [HNN.out, HOK.out]
  generalize (allS z0).1 = l1
  have hz1 := hb1.size
  go_wp2_with (first
    | (at_builtin; refine wpList_app_n (by rfl) (.tmp 52) (.tmp 55) 22 rfl w.heap.size 5 .u8 1 Tryd.underlying22 info_u8 (by omega) _ [] rfl (own_empty w1 _ _ _ hz1) _ (some ad) n cap0 (z0.take n) HLT.out (by rfl) (fun h => by cases h) ((HI0.out.below (hb1.alloc hz1 _) (Nat.le_refl _)).take n) (by simp; try omega) (by simp; omega) ?_; intro v2 w2 hO2 hg2))
  have hb2 : Below w.heap.size w w2 := (hb1.alloc hz1 _).trans (own_grown_below (own_empty w1 w.heap.size 5 .u8 hz1) hg2 (by simp; omega))
  rw [List.nil_append] at hO2
  have HO2 := Lib.hid hO2
  clear hO2 hg2
  go_loopw [8, 9] (fun s8 s9 w1 => LgLoop w s8 s9 w1) (fun _ i _ => 3 - (intOf i).toNat)
  case atStart => exact ⟨0, z0.take n, by omega, rfl, HO2.out, HG.out, HB0.out.take n, by rw [HLT.out]; omega, hb2⟩
  case round =>
    obtain ⟨i, s, hi, rfl, hO, hG, hBs, hls, hb⟩ := hrel
    obtain ⟨As, cs, hv, hcs, hcms⟩ := own_form hO
    subst hv
    have HO := Lib.hid hO
    have HBs := Lib.hid hBs
    clear hO hBs hb2 HO2
    have hzr := hb.size
    by_cases hi3 : i < 3
    · have hi3' : (i : Int) < 3 := by omega
      have hq := Calls.mono (r_all_any As s.length cs s wr rfl (Ints.own HO.out) HBs.out (by omega) hcs hcms) (fun _ _ h => AllRes.sl h)
      rcases good_whole hG with hw | ⟨hw, hm, hex, hstep⟩
      · have HW := Lib.hid hw
        clear hw
        go_wp2_with fail
        with_reducible refine hq.mono ?_
        rintro e w3 ⟨A3, c3, rfl, hI3, hb3'⟩
        have hO3 := own_below HO.out hb3' (Nat.le_refl _)
        have hb3 := hb.trans (hb3'.mono hb.size)
        rw [HW.out]
        clear hI3 hb3' hq HO
        have HO := Lib.hid hO3
        clear hO3
        go_wp2_with fail
        with_reducible refine (Calls.mono (all_any As cs s w3 (hT.below' hb3) (Ints.own HO.out) HBs.out (by omega) hcs hcms) (fun _ _ h => AllRes.sl h)).mono ?_
        rintro e w8 ⟨A8, c8, rfl, hI8, hb8'⟩
        have hb8 := hb3.trans (hb8'.mono hb3.size)
        rw [HW.out]
        clear hI8 hb8'
        go_wp2_with fail
        with_reducible refine (awake_any _ (hT.below' hb8)).mono ?_
        rintro e w9 ⟨rfl, hb9'⟩
        have hb9 := hb8.trans (hb9'.mono hb8.size)
        clear hb9'
        go_wp2
        go_ret
        exact ⟨rfl, hb9⟩
      · have HEX := Lib.hid hex
        have HST := Lib.hid hstep
        have HW := Lib.hid hw
        clear hw hex hstep hG
        go_wp2_with fail
        with_reducible refine hq.mono ?_
        rintro e w3 ⟨A3, c3, rfl, hI3, hb3'⟩
        have hO3 := own_below HO.out hb3' (Nat.le_refl _)
        have hb3 := hb.trans (hb3'.mono hb.size)
        rw [HW.out]
        clear hI3 hb3' hq HO hb hzr
        have HO := Lib.hid hO3
        have hz3 := hb3.size
        clear hO3
        go_wp2_with fail
        go_loopw [13] (fun s13 w1 => LgIn w w3 s s13 w1) (fun x _ => 191 - (intOf x).toNat)
        case atStart => exact ⟨128, by omega, by omega, rfl, fun y h1 h2 => by omega, Below.refl _ _⟩
        case round =>
          obtain ⟨x, x0, x1, rfl, HNO, hbi⟩ := hrel
          have hOi := own_below HO.out hbi (Nat.le_refl _)
          have HOi := Lib.hid hOi
          have hb4 := hb3.trans (hbi.mono hz3)
          have hz4 := hb4.size
          have hBx := bts_snoc HBs.out (by omega : 0 ≤ x) (by omega : x ≤ 255)
          clear hOi
          by_cases hx : x < 191
          · go_wp2_with (first
              | (at_builtin; refine wpList_app_n (by rfl) (.tmp 71) (.tmp 72) 22 rfl wr.heap.size 5 .u8 1 Tryd.underlying22 info_u8 (by omega) _ [] rfl (own_empty wr _ _ _ (Nat.le_refl _)) _ As s.length cs s rfl (by rfl) (own_nil HOi.out) ((Ints.own HOi.out).below ((Below.refl wr.heap.size wr).alloc (Nat.le_refl _) _) (Nat.le_refl _)) (by simp; omega) (by simp) ?_; intro v5 w5 hO5 hg5
                 have hb5 := ((Below.refl wr.heap.size wr).alloc (Nat.le_refl _) _).trans (own_grown_below (own_empty wr wr.heap.size 5 .u8 (Nat.le_refl _)) hg5 (by simp))
                 have HO5 := Lib.hid hO5
                 have hz5 := hb5.size
                 clear hO5 hg5)
              | (at_builtin; refine wpList_app_n (by rfl) (.tmp 73) (.tmp 75) 22 rfl wr.heap.size 5 .u8 1 Tryd.underlying22 info_u8 (by omega) v5 ([] ++ s) rfl (HO5.out.alloc _) _ _ 1 1 [x] rfl (by rfl) (fun h => by cases h) (Ints.lit w5 5 .u8 [x]) (by simp; omega) (by simp; omega) ?_; intro v6 w6 hO6 hg6
                 have hb6 := (hb5.alloc hz5 _).trans (own_grown_below (HO5.out.alloc _) hg6 (by simp; omega))
                 have HO6 := Lib.hid hO6
                 clear hO6 hg6))
            have hO6 := HO6.out
            rw [List.nil_append] at hO6
            obtain ⟨A6, c6, rfl, hc6, hcm6⟩ := own_form hO6
            have hl6 : (s ++ [x]).length = s.length + 1 := by simp
            have HL6 := Lib.hid hl6
            have hq6 := begins_any A6 _ c6 (s ++ [x]) w6 rfl (Ints.own hO6) hBx (by omega) hc6 hcm6
            have HO4 := Lib.hid (own_below HOi.out hb6 (Nat.le_refl _))
            have hb36 := hbi.trans (hb6.mono hbi.size)
            clear hl6 HO6 hO6 HO5 hb5 hz5
            cases hbg : begB (s ++ [x]) with
            | true =>
              rw [hbg] at hq6
              have HGS := Lib.hid (HST.out x hbg)
              clear hbg
              with_reducible refine hq6.mono ?_
              rintro e w7 ⟨rfl, hb7'⟩
              have HO7 := Lib.hid (own_below HO4.out hb7' (Nat.le_refl _))
              have hb67 := hb36.trans (hb7'.mono hb36.size)
              have hb7 := hb3.trans (hb67.mono hz3)
              clear hb7' hq6 hc6 hcm6 hb36 HO4
              have hz9 := hb7.size
              go_wp2_with (first
                | (at_builtin; refine wpList_app_n (by rfl) (.tmp 82) (.tmp 84) 22 rfl w.heap.size 5 .u8 1 Tryd.underlying22 info_u8 (by omega) _ s rfl (HO7.out.alloc _) _ _ 1 1 [x] rfl (by rfl) (fun h => by cases h) (Ints.lit w7 5 .u8 [x]) (by simp; omega) (by simp; omega) ?_; intro v9 w9 hO9 hg9))
              have hb9 := (hb7.alloc hz9 _).trans (own_grown_below (HO7.out.alloc _) hg9 (by simp; omega))
              go_roundw
              case rel => exact ⟨i + 1, s ++ [x], by omega, by go_num, hO9, HGS.out, hBx, by simp; omega, hb9⟩
              case measure => simp [intOf]; omega
            | false =>
              rw [hbg] at hq6
              have HBG := Lib.hid hbg
              clear hbg
              with_reducible refine hq6.mono ?_
              rintro e w7 ⟨rfl, hb7'⟩
              have hb67 := hb36.trans (hb7'.mono hb36.size)
              clear hb7' hq6 hc6 hcm6 hb36 HO4
              go_wp2
              go_roundw
              case rel => exact ⟨x + 1, by omega, by omega, by go_num, (fun y h1 h2 => (by
                by_cases hy : y < x
                · exact HNO.out y h1 hy
                · obtain rfl : y = x := by omega
                  exact HBG.out)), hb67⟩
              case measure => simp [intOf]; omega
          · have hx' : decide (x < 191) = false := decide_eq_false hx
            have hgd : begB (s ++ [x]) = true := by
              obtain ⟨y, y0, y1, hy⟩ := HEX.out
              by_cases hyx : y < x
              · rw [HNO.out y y0 hyx] at hy; cases hy
              · obtain rfl : y = x := by omega
                exact hy
            have HGS := Lib.hid (HST.out x hgd)
            clear hgd
            have hz9 := hb4.size
            go_wp2_with (first
              | (at_builtin; refine wpList_app_n (by rfl) (.tmp 82) (.tmp 84) 22 rfl w.heap.size 5 .u8 1 Tryd.underlying22 info_u8 (by omega) _ s rfl (HOi.out.alloc _) _ _ 1 1 [x] rfl (by rfl) (fun h => by cases h) (Ints.lit wr 5 .u8 [x]) (by simp; omega) (by simp; omega) ?_; intro v9 w9 hO9 hg9))
            have hb9 := (hb4.alloc hz9 _).trans (own_grown_below (HOi.out.alloc _) hg9 (by simp; omega))
            go_roundw
            case rel => exact ⟨i + 1, s ++ [x], by omega, by go_num, hO9, HGS.out, hBx, by simp; omega, hb9⟩
            case measure => simp [intOf]; omega
    · obtain rfl : i = 3 := by omega
      have HW : Hid ((allS s).2.2 = true) := by
        rcases good_whole hG with hw | ⟨_, hm, _⟩
        · exact hw
        · omega
      clear hG
      go_wp2_with fail
      with_reducible refine (Calls.mono (all_any As cs s wr (hT.below' hb) (Ints.own HO.out) HBs.out (by omega) hcs hcms) (fun _ _ h => AllRes.sl h)).mono ?_
      rintro e w8 ⟨A8, c8, rfl, hI8, hb8'⟩
      have hb8 := hb.trans (hb8'.mono hb.size)
      rw [HW.out]
      clear hI8 hb8'
      go_wp2_with fail
      with_reducible refine (awake_any _ (hT.below' hb8)).mono ?_
      rintro e w9 ⟨rfl, hb9'⟩
      have hb9 := hb8.trans (hb9'.mono hb8.size)
      clear hb9'
      go_wp2
      go_ret
      exact ⟨rfl, hb9⟩
set_option maxHeartbeats 8000000 in
theorem lg_len (ad : Addr) (n cap0 : Nat) (z0 : List Int) (a1 : Option Addr) (cap1 : Nat) (z1 : List Int) (w : World) (hT : Tab w) (hle0 : z0.length ≤ cap0) (hmx0 : cap0 ≤ maxLen) (hbig : z0.length ≤ 200) (hbig1 : z1.length ≤ 3) (hal : n ≤ z0.length) (hG : Good (z0.take n) 3) (hN : (allS z0).2.1 = n) (hok : (allS z0).2.2 = false) (hnn : n = z0.length)
    (hI0 : Ints w w.heap.size .u8 (some ad) z0) (hI1 : Ints w w.heap.size .u8 a1 z1) (hB0 : Bts z0) (hB1 : Bts z1) (hn1 : a1 = none → cap1 = 0) :
    Calls Tryd.prog 5 #[.slice (some ad) z0.length cap0, .slice a1 z1.length cap1] w fun e w' => e = .returned (.bool true) ∧ Below w.heap.size w w' := by
  have HI0 := Lib.hid hI0
  have HI1 := Lib.hid hI1
  have HB0 := Lib.hid hB0
  have HB1 := Lib.hid hB1
  have HN1 := Lib.hid hn1
  have HG := Lib.hid hG
  have HOK := Lib.hid hok
  have HNN := Lib.hid hN
  clear hI0 hI1 hB0 hB1 hn1 hG hok hN
  have hbig' : decide (200 < (z0.length : Int)) = false := decide_eq_false (by omega)
  have hbig1' : decide (3 < (z1.length : Int)) = false := decide_eq_false (by omega)
  have hmx0' := hmx0
  unfold maxLen at hmx0'
  have HLT : Hid ((z0.take n).length = n) := by show (z0.take n).length = n; rw [List.length_take]; omega
  have hnq : ((n : Int) == (z0.length : Int)) = true := beq_iff_eq.2 (by omega)
  have hnq2 : ((n : Int) != (z0.length : Int)) = false := by rw [hnn]; simp
  have hnl' : n ≤ z0.length ∧ z0.length ≤ n := by omega
  clear hnn
  have t1 : decide ((n : Int) < 0) = false := decide_eq_false (by omega)
  have t2 : decide ((z0.length : Int) < (n : Int)) = false := decide_eq_false (by omega)
  go_enter Tryd.func5, Tryd.ntmps5
  go_wp2_with fail
  with_reducible refine (Calls.mono (all_any (some ad) cap0 z0 w hT HI0.out HB0.out (by omega) hle0 hmx0) (fun _ _ h => AllRes.sl h)).mono ?_
  rintro e w1 ⟨A1, c1, rfl, hI1, hb1⟩
  clear hI1
  rw [HNN.out, HOK.out]
  generalize (allS z0).1 = l1
  have hz1 := hb1.size
  go_wp2_with (first
    | (at_builtin; refine wpList_app_n (by rfl) (.tmp 52) (.tmp 55) 22 rfl w.heap.size 5 .u8 1 Tryd.underlying22 info_u8 (by omega) _ [] rfl (own_empty w1 _ _ _ hz1) _ (some ad) n cap0 (z0.take n) HLT.out (by rfl) (fun h => by cases h) ((HI0.out.below (hb1.alloc hz1 _) (Nat.le_refl _)).take n) (by simp; try omega) (by simp; omega) ?_; intro v2 w2 hO2 hg2))
  have hb2 : Below w.heap.size w w2 := (hb1.alloc hz1 _).trans (own_grown_below (own_empty w1 w.heap.size 5 .u8 hz1) hg2 (by simp; omega))
  rw [List.nil_append] at hO2
  have HO2 := Lib.hid hO2
  clear hO2 hg2
  go_loopw [8, 9] (fun s8 s9 w1 => LgLoop w s8 s9 w1) (fun _ i _ => 3 - (intOf i).toNat)
  case atStart => exact ⟨0, z0.take n, by omega, rfl, HO2.out, HG.out, HB0.out.take n, by rw [HLT.out]; omega, hb2⟩
  case round =>
    obtain ⟨i, s, hi, rfl, hO, hG, hBs, hls, hb⟩ := hrel
    obtain ⟨As, cs, hv, hcs, hcms⟩ := own_form hO
    subst hv
    have HO := Lib.hid hO
    have HBs := Lib.hid hBs
    clear hO hBs hb2 HO2
    have hzr := hb.size
    by_cases hi3 : i < 3
    · have hi3' : (i : Int) < 3 := by omega
      have hq := Calls.mono (r_all_any As s.length cs s wr rfl (Ints.own HO.out) HBs.out (by omega) hcs hcms) (fun _ _ h => AllRes.sl h)
      rcases good_whole hG with hw | ⟨hw, hm, hex, hstep⟩
      · have HW := Lib.hid hw
        clear hw
        go_wp2_with fail
        with_reducible refine hq.mono ?_
        rintro e w3 ⟨A3, c3, rfl, hI3, hb3'⟩
        have hO3 := own_below HO.out hb3' (Nat.le_refl _)
        have hb3 := hb.trans (hb3'.mono hb.size)
        rw [HW.out]
        clear hI3 hb3' hq HO
        have HO := Lib.hid hO3
        clear hO3
        go_wp2_with fail
        with_reducible refine (Calls.mono (all_any As cs s w3 (hT.below' hb3) (Ints.own HO.out) HBs.out (by omega) hcs hcms) (fun _ _ h => AllRes.sl h)).mono ?_
        rintro e w8 ⟨A8, c8, rfl, hI8, hb8'⟩
        have hb8 := hb3.trans (hb8'.mono hb3.size)
        rw [HW.out]
        clear hI8 hb8'
        go_wp2_with fail
        with_reducible refine (awake_any _ (hT.below' hb8)).mono ?_
        rintro e w9 ⟨rfl, hb9'⟩
        have hb9 := hb8.trans (hb9'.mono hb8.size)
        clear hb9'
        go_wp2
        go_ret
        exact ⟨rfl, hb9⟩
      · have HEX := Lib.hid hex
        have HST := Lib.hid hstep
        have HW := Lib.hid hw
        clear hw hex hstep hG
        go_wp2_with fail
        with_reducible refine hq.mono ?_
        rintro e w3 ⟨A3, c3, rfl, hI3, hb3'⟩
        have hO3 := own_below HO.out hb3' (Nat.le_refl _)
        have hb3 := hb.trans (hb3'.mono hb.size)
        rw [HW.out]
        clear hI3 hb3' hq HO hb hzr
        have HO := Lib.hid hO3
        have hz3 := hb3.size
        clear hO3
        go_wp2_with fail
        go_loopw [13] (fun s13 w1 => LgIn w w3 s s13 w1) (fun x _ => 191 - (intOf x).toNat)
        case atStart => exact ⟨128, by omega, by omega, rfl, fun y h1 h2 => by omega, Below.refl _ _⟩
        case round =>
          obtain ⟨x, x0, x1, rfl, HNO, hbi⟩ := hrel
          have hOi := own_below HO.out hbi (Nat.le_refl _)
          have HOi := Lib.hid hOi
          have hb4 := hb3.trans (hbi.mono hz3)
          have hz4 := hb4.size
          have hBx := bts_snoc HBs.out (by omega : 0 ≤ x) (by omega : x ≤ 255)
          clear hOi
          by_cases hx : x < 191
          · go_wp2_with (first
              | (at_builtin; refine wpList_app_n (by rfl) (.tmp 71) (.tmp 72) 22 rfl wr.heap.size 5 .u8 1 Tryd.underlying22 info_u8 (by omega) _ [] rfl (own_empty wr _ _ _ (Nat.le_refl _)) _ As s.length cs s rfl (by rfl) (own_nil HOi.out) ((Ints.own HOi.out).below ((Below.refl wr.heap.size wr).alloc (Nat.le_refl _) _) (Nat.le_refl _)) (by simp; omega) (by simp) ?_; intro v5 w5 hO5 hg5
                 have hb5 := ((Below.refl wr.heap.size wr).alloc (Nat.le_refl _) _).trans (own_grown_below (own_empty wr wr.heap.size 5 .u8 (Nat.le_refl _)) hg5 (by simp))
                 have HO5 := Lib.hid hO5
                 have hz5 := hb5.size
                 clear hO5 hg5)
              | (at_builtin; refine wpList_app_n (by rfl) (.tmp 73) (.tmp 75) 22 rfl wr.heap.size 5 .u8 1 Tryd.underlying22 info_u8 (by omega) v5 ([] ++ s) rfl (HO5.out.alloc _) _ _ 1 1 [x] rfl (by rfl) (fun h => by cases h) (Ints.lit w5 5 .u8 [x]) (by simp; omega) (by simp; omega) ?_; intro v6 w6 hO6 hg6
                 have hb6 := (hb5.alloc hz5 _).trans (own_grown_below (HO5.out.alloc _) hg6 (by simp; omega))
                 have HO6 := Lib.hid hO6
                 clear hO6 hg6))
            have hO6 := HO6.out
            rw [List.nil_append] at hO6
            obtain ⟨A6, c6, rfl, hc6, hcm6⟩ := own_form hO6
            have hl6 : (s ++ [x]).length = s.length + 1 := by simp
            have HL6 := Lib.hid hl6
            have hq6 := begins_any A6 _ c6 (s ++ [x]) w6 rfl (Ints.own hO6) hBx (by omega) hc6 hcm6
            have HO4 := Lib.hid (own_below HOi.out hb6 (Nat.le_refl _))
            have hb36 := hbi.trans (hb6.mono hbi.size)
            clear hl6 HO6 hO6 HO5 hb5 hz5
            cases hbg : begB (s ++ [x]) with
            | true =>
              rw [hbg] at hq6
              have HGS := Lib.hid (HST.out x hbg)
              clear hbg
              with_reducible refine hq6.mono ?_
              rintro e w7 ⟨rfl, hb7'⟩
              have HO7 := Lib.hid (own_below HO4.out hb7' (Nat.le_refl _))
              have hb67 := hb36.trans (hb7'.mono hb36.size)
              have hb7 := hb3.trans (hb67.mono hz3)
              clear hb7' hq6 hc6 hcm6 hb36 HO4
              have hz9 := hb7.size
              go_wp2_with (first
                | (at_builtin; refine wpList_app_n (by rfl) (.tmp 82) (.tmp 84) 22 rfl w.heap.size 5 .u8 1 Tryd.underlying22 info_u8 (by omega) _ s rfl (HO7.out.alloc _) _ _ 1 1 [x] rfl (by rfl) (fun h => by cases h) (Ints.lit w7 5 .u8 [x]) (by simp; omega) (by simp; omega) ?_; intro v9 w9 hO9 hg9))
              have hb9 := (hb7.alloc hz9 _).trans (own_grown_below (HO7.out.alloc _) hg9 (by simp; omega))
              go_roundw
              case rel => exact ⟨i + 1, s ++ [x], by omega, by go_num, hO9, HGS.out, hBx, by simp; omega, hb9⟩
              case measure => simp [intOf]; omega
            | false =>
              rw [hbg] at hq6
              have HBG := Lib.hid hbg
              clear hbg
              with_reducible refine hq6.mono ?_
              rintro e w7 ⟨rfl, hb7'⟩
              have hb67 := hb36.trans (hb7'.mono hb36.size)
              clear hb7' hq6 hc6 hcm6 hb36 HO4
              go_wp2
              go_roundw
              case rel => exact ⟨x + 1, by omega, by omega, by go_num, (fun y h1 h2 => (by
                by_cases hy : y < x
                · exact HNO.out y h1 hy
                · obtain rfl : y = x := by omega
                  exact HBG.out)), hb67⟩
              case measure => simp [intOf]; omega
          · have hx' : decide (x < 191) = false := decide_eq_false hx
            have hgd : begB (s ++ [x]) = true := by
              obtain ⟨y, y0, y1, hy⟩ := HEX.out
              by_cases hyx : y < x
              · rw [HNO.out y y0 hyx] at hy; cases hy
              · obtain rfl : y = x := by omega
                exact hy
            have HGS := Lib.hid (HST.out x hgd)
            clear hgd
            have hz9 := hb4.size
            go_wp2_with (first
              | (at_builtin; refine wpList_app_n (by rfl) (.tmp 82) (.tmp 84) 22 rfl w.heap.size 5 .u8 1 Tryd.underlying22 info_u8 (by omega) _ s rfl (HOi.out.alloc _) _ _ 1 1 [x] rfl (by rfl) (fun h => by cases h) (Ints.lit wr 5 .u8 [x]) (by simp; omega) (by simp; omega) ?_; intro v9 w9 hO9 hg9))
            have hb9 := (hb4.alloc hz9 _).trans (own_grown_below (HOi.out.alloc _) hg9 (by simp; omega))
            go_roundw
            case rel => exact ⟨i + 1, s ++ [x], by omega, by go_num, hO9, HGS.out, hBx, by simp; omega, hb9⟩
            case measure => simp [intOf]; omega
    · obtain rfl : i = 3 := by omega
      have HW : Hid ((allS s).2.2 = true) := by
        rcases good_whole hG with hw | ⟨_, hm, _⟩
        · exact hw
        · omega
      clear hG
      go_wp2_with fail
      with_reducible refine (Calls.mono (all_any As cs s wr (hT.below' hb) (Ints.own HO.out) HBs.out (by omega) hcs hcms) (fun _ _ h => AllRes.sl h)).mono ?_
      rintro e w8 ⟨A8, c8, rfl, hI8, hb8'⟩
      have hb8 := hb.trans (hb8'.mono hb.size)
      rw [HW.out]
      clear hI8 hb8'
      go_wp2_with fail
      with_reducible refine (awake_any _ (hT.below' hb8)).mono ?_
      rintro e w9 ⟨rfl, hb9'⟩
      have hb9 := hb8.trans (hb9'.mono hb8.size)
      clear hb9'
      go_wp2
      go_ret
      exact ⟨rfl, hb9⟩
set_option maxHeartbeats 8000000 in
theorem lg_nil (a1 : Option Addr) (cap1 : Nat) (z1 : List Int) (w : World) (hT : Tab w) (hbig1 : z1.length ≤ 3) (hI1 : Ints w w.heap.size .u8 a1 z1) :
    Calls Tryd.prog 5 #[.slice none 0 0, .slice a1 z1.length cap1] w fun e w' => e = .returned (.bool true) ∧ Below w.heap.size w w' := by
  have HB0 : Hid (Bts []) := (fun _ h => (by cases h))
  have HG : Hid (Good [] 3) := good_start []
  have hq0 : Calls Tryd.prog 11 #[.slice none 0 0] w (AllSl w []) := Calls.mono (all_any none 0 [] w hT (Ints.nil _ _ _ _) HB0.out (by simp) (by simp) (by simp [maxLen])) (fun _ _ h => AllRes.sl h)
  clear hI1
  have hbig1' : decide (3 < (z1.length : Int)) = false := decide_eq_false (by omega)
  go_enter Tryd.func5, Tryd.ntmps5
  go_wp2_with fail
  with_reducible refine hq0.mono ?_
  rintro e w1 ⟨A1, c1, rfl, hI1, hb1⟩
  clear hI1
  have e0 : allS [] = ([], 0, true) := rfl
  rw [e0]
  clear e0
  have hz1 := hb1.size
  go_wp2_with (first
    | (at_builtin; refine wpList_app_n (by rfl) (.tmp 52) (.tmp 55) 22 rfl w.heap.size 5 .u8 1 Tryd.underlying22 info_u8 (by omega) _ [] rfl (own_empty w1 _ _ _ hz1) 0 none 0 0 [] rfl (by rfl) (fun _ => rfl) (Ints.nil _ _ _ _) (by simp) (by simp; omega) ?_; intro v2 w2 hO2 hg2))
  have hb2 : Below w.heap.size w w2 := (hb1.alloc hz1 _).trans (own_grown_below (own_empty w1 w.heap.size 5 .u8 hz1) hg2 (by simp; omega))
  rw [List.nil_append] at hO2
  have HO2 := Lib.hid hO2
  clear hO2 hg2
  go_loopw [8, 9] (fun s8 s9 w1 => LgLoop w s8 s9 w1) (fun _ i _ => 3 - (intOf i).toNat)
  case atStart => exact ⟨0, [], by omega, rfl, HO2.out, HG.out, HB0.out, by simp, hb2⟩
  case round =>
    obtain ⟨i, s, hi, rfl, hO, hG, hBs, hls, hb⟩ := hrel
    obtain ⟨As, cs, hv, hcs, hcms⟩ := own_form hO
    subst hv
    have HO := Lib.hid hO
    have HBs := Lib.hid hBs
    clear hO hBs hb2 HO2
    have hzr := hb.size
    by_cases hi3 : i < 3
    · have hi3' : (i : Int) < 3 := by omega
      have hq := Calls.mono (r_all_any As s.length cs s wr rfl (Ints.own HO.out) HBs.out (by omega) hcs hcms) (fun _ _ h => AllRes.sl h)
      rcases good_whole hG with hw | ⟨hw, hm, hex, hstep⟩
      · have HW := Lib.hid hw
        clear hw
        go_wp2_with fail
        with_reducible refine hq.mono ?_
        rintro e w3 ⟨A3, c3, rfl, hI3, hb3'⟩
        have hO3 := own_below HO.out hb3' (Nat.le_refl _)
        have hb3 := hb.trans (hb3'.mono hb.size)
        rw [HW.out]
        clear hI3 hb3' hq HO
        have HO := Lib.hid hO3
        clear hO3
        go_wp2_with fail
        with_reducible refine (Calls.mono (all_any As cs s w3 (hT.below' hb3) (Ints.own HO.out) HBs.out (by omega) hcs hcms) (fun _ _ h => AllRes.sl h)).mono ?_
        rintro e w8 ⟨A8, c8, rfl, hI8, hb8'⟩
        have hb8 := hb3.trans (hb8'.mono hb3.size)
        rw [HW.out]
        clear hI8 hb8'
        go_wp2_with fail
        with_reducible refine (awake_any _ (hT.below' hb8)).mono ?_
        rintro e w9 ⟨rfl, hb9'⟩
        have hb9 := hb8.trans (hb9'.mono hb8.size)
        clear hb9'
        go_wp2
        go_ret
        exact ⟨rfl, hb9⟩
      · have HEX := Lib.hid hex
        have HST := Lib.hid hstep
        have HW := Lib.hid hw
        clear hw hex hstep hG
        go_wp2_with fail
        with_reducible refine hq.mono ?_
        rintro e w3 ⟨A3, c3, rfl, hI3, hb3'⟩
        have hO3 := own_below HO.out hb3' (Nat.le_refl _)
        have hb3 := hb.trans (hb3'.mono hb.size)
        rw [HW.out]
        clear hI3 hb3' hq HO hb hzr
        have HO := Lib.hid hO3
        have hz3 := hb3.size
        clear hO3
        go_wp2_with fail
        go_loopw [13] (fun s13 w1 => LgIn w w3 s s13 w1) (fun x _ => 191 - (intOf x).toNat)
        case atStart => exact ⟨128, by omega, by omega, rfl, fun y h1 h2 => by omega, Below.refl _ _⟩
        case round =>
          obtain ⟨x, x0, x1, rfl, HNO, hbi⟩ := hrel
          have hOi := own_below HO.out hbi (Nat.le_refl _)
          have HOi := Lib.hid hOi
          have hb4 := hb3.trans (hbi.mono hz3)
          have hz4 := hb4.size
          have hBx := bts_snoc HBs.out (by omega : 0 ≤ x) (by omega : x ≤ 255)
          clear hOi
          by_cases hx : x < 191
          · go_wp2_with (first
              | (at_builtin; refine wpList_app_n (by rfl) (.tmp 71) (.tmp 72) 22 rfl wr.heap.size 5 .u8 1 Tryd.underlying22 info_u8 (by omega) _ [] rfl (own_empty wr _ _ _ (Nat.le_refl _)) _ As s.length cs s rfl (by rfl) (own_nil HOi.out) ((Ints.own HOi.out).below ((Below.refl wr.heap.size wr).alloc (Nat.le_refl _) _) (Nat.le_refl _)) (by simp; omega) (by simp) ?_; intro v5 w5 hO5 hg5
                 have hb5 := ((Below.refl wr.heap.size wr).alloc (Nat.le_refl _) _).trans (own_grown_below (own_empty wr wr.heap.size 5 .u8 (Nat.le_refl _)) hg5 (by simp))
                 have HO5 := Lib.hid hO5
                 have hz5 := hb5.size
                 clear hO5 hg5)
              | (at_builtin; refine wpList_app_n (by rfl) (.tmp 73) (.tmp 75) 22 rfl wr.heap.size 5 .u8 1 Tryd.underlying22 info_u8 (by omega) v5 ([] ++ s) rfl (HO5.out.alloc _) _ _ 1 1 [x] rfl (by rfl) (fun h => by cases h) (Ints.lit w5 5 .u8 [x]) (by simp; omega) (by simp; omega) ?_; intro v6 w6 hO6 hg6
                 have hb6 := (hb5.alloc hz5 _).trans (own_grown_below (HO5.out.alloc _) hg6 (by simp; omega))
                 have HO6 := Lib.hid hO6
                 clear hO6 hg6))
            have hO6 := HO6.out
            rw [List.nil_append] at hO6
            obtain ⟨A6, c6, rfl, hc6, hcm6⟩ := own_form hO6
            have hl6 : (s ++ [x]).length = s.length + 1 := by simp
            have HL6 := Lib.hid hl6
            have hq6 := begins_any A6 _ c6 (s ++ [x]) w6 rfl (Ints.own hO6) hBx (by omega) hc6 hcm6
            have HO4 := Lib.hid (own_below HOi.out hb6 (Nat.le_refl _))
            have hb36 := hbi.trans (hb6.mono hbi.size)
            clear hl6 HO6 hO6 HO5 hb5 hz5
            cases hbg : begB (s ++ [x]) with
            | true =>
              rw [hbg] at hq6
              have HGS := Lib.hid (HST.out x hbg)
              clear hbg
              with_reducible refine hq6.mono ?_
              rintro e w7 ⟨rfl, hb7'⟩
              have HO7 := Lib.hid (own_below HO4.out hb7' (Nat.le_refl _))
              have hb67 := hb36.trans (hb7'.mono hb36.size)
              have hb7 := hb3.trans (hb67.mono hz3)
              clear hb7' hq6 hc6 hcm6 hb36 HO4
              have hz9 := hb7.size
              go_wp2_with (first
                | (at_builtin; refine wpList_app_n (by rfl) (.tmp 82) (.tmp 84) 22 rfl w.heap.size 5 .u8 1 Tryd.underlying22 info_u8 (by omega) _ s rfl (HO7.out.alloc _) _ _ 1 1 [x] rfl (by rfl) (fun h => by cases h) (Ints.lit w7 5 .u8 [x]) (by simp; omega) (by simp; omega) ?_; intro v9 w9 hO9 hg9))
              have hb9 := (hb7.alloc hz9 _).trans (own_grown_below (HO7.out.alloc _) hg9 (by simp; omega))
              go_roundw
              case rel => exact ⟨i + 1, s ++ [x], by omega, by go_num, hO9, HGS.out, hBx, by simp; omega, hb9⟩
              case measure => simp [intOf]; omega
            | false =>
              rw [hbg] at hq6
              have HBG := Lib.hid hbg
              clear hbg
              with_reducible refine hq6.mono ?_
              rintro e w7 ⟨rfl, hb7'⟩
              have hb67 := hb36.trans (hb7'.mono hb36.size)
              clear hb7' hq6 hc6 hcm6 hb36 HO4
              go_wp2
              go_roundw
              case rel => exact ⟨x + 1, by omega, by omega, by go_num, (fun y h1 h2 => (by
                by_cases hy : y < x
                · exact HNO.out y h1 hy
                · obtain rfl : y = x := by omega
                  exact HBG.out)), hb67⟩
              case measure => simp [intOf]; omega
          · have hx' : decide (x < 191) = false := decide_eq_false hx
            have hgd : begB (s ++ [x]) = true := by
              obtain ⟨y, y0, y1, hy⟩ := HEX.out
              by_cases hyx : y < x
              · rw [HNO.out y y0 hyx] at hy; cases hy
              · obtain rfl : y = x := by omega
                exact hy
            have HGS := Lib.hid (HST.out x hgd)
            clear hgd
            have hz9 := hb4.size
            go_wp2_with (first
              | (at_builtin; refine wpList_app_n (by rfl) (.tmp 82) (.tmp 84) 22 rfl w.heap.size 5 .u8 1 Tryd.underlying22 info_u8 (by omega) _ s rfl (HOi.out.alloc _) _ _ 1 1 [x] rfl (by rfl) (fun h => by cases h) (Ints.lit wr 5 .u8 [x]) (by simp; omega) (by simp; omega) ?_; intro v9 w9 hO9 hg9))
            have hb9 := (hb4.alloc hz9 _).trans (own_grown_below (HOi.out.alloc _) hg9 (by simp; omega))
            go_roundw
            case rel => exact ⟨i + 1, s ++ [x], by omega, by go_num, hO9, HGS.out, hBx, by simp; omega, hb9⟩
            case measure => simp [intOf]; omega
    · obtain rfl : i = 3 := by omega
      have HW : Hid ((allS s).2.2 = true) := by
        rcases good_whole hG with hw | ⟨_, hm, _⟩
        · exact hw
        · omega
      clear hG
      go_wp2_with fail
      with_reducible refine (Calls.mono (all_any As cs s wr (hT.below' hb) (Ints.own HO.out) HBs.out (by omega) hcs hcms) (fun _ _ h => AllRes.sl h)).mono ?_
      rintro e w8 ⟨A8, c8, rfl, hI8, hb8'⟩
      have hb8 := hb.trans (hb8'.mono hb.size)
      rw [HW.out]
      clear hI8 hb8'
      go_wp2_with fail
      with_reducible refine (awake_any _ (hT.below' hb8)).mono ?_
      rintro e w9 ⟨rfl, hb9'⟩
      have hb9 := hb8.trans (hb9'.mono hb8.size)
      clear hb9'
      go_wp2
      go_ret
      exact ⟨rfl, hb9⟩
theorem longest_walk (a0 : Option Addr) (len0 cap0 : Nat) (z0 : List Int) (a1 : Option Addr) (len1 cap1 : Nat) (z1 : List Int) (w : World) (hT : Tab w) (r0 : ArgRow .u8 w a0 len0 cap0 z0) (r1 : ArgRow .u8 w a1 len1 cap1 z1) :
    Calls Tryd.prog 5 #[.slice a0 len0 cap0, .slice a1 len1 cap1] w fun e w' => e = .returned (.bool true) ∧ Below w.heap.size w w' := by
  have hB0 := u8_bts r0.wf
  have hB1 := u8_bts r1.wf
  obtain ⟨hz0, hle0, hmx0, hn0, hI0, _⟩ := r0
  obtain ⟨hz1, hle1, hmx1, hn1, hI1, _⟩ := r1
  subst hz0 hz1
  by_cases hbig : 200 < z0.length
  · have hbig' : decide (200 < (z0.length : Int)) = true := decide_eq_true (by omega)
    clear hI0 hI1 hB0 hB1 hn0 hn1
    go_enter Tryd.func5, Tryd.ntmps5
    go_wp2_with fail
    with_reducible refine (awake_any _ hT).mono ?_
    rintro e w2 ⟨rfl, hb2⟩
    go_wp2
    go_ret
    exact ⟨rfl, hb2⟩
  by_cases hbig1 : 3 < z1.length
  · have hbig' : decide (200 < (z0.length : Int)) = false := decide_eq_false (by omega)
    have hbig1' : decide (3 < (z1.length : Int)) = true := decide_eq_true (by omega)
    clear hI0 hI1 hB0 hB1 hn0 hn1
    go_enter Tryd.func5, Tryd.ntmps5
    go_wp2_with fail
    with_reducible refine (awake_any _ hT).mono ?_
    rintro e w2 ⟨rfl, hb2⟩
    go_wp2
    go_ret
    exact ⟨rfl, hb2⟩
  obtain ⟨hal, hao⟩ := allS_le z0
  have hG := good_start z0
  cases a0 with
  | none =>
    have hz : z0 = [] := by
      rcases hI0 with h | ⟨b, o, e, _⟩
      · exact h
      · cases e
    subst hz
    obtain rfl : cap0 = 0 := hn0 rfl
    exact lg_nil a1 cap1 z1 w hT (by omega) hI1
  | some ad =>
    cases hok : (allS z0).2.2 with
    | true => exact lg_true ad _ cap0 z0 a1 cap1 z1 w hT hle0 hmx0 (by omega) (by omega) hal hG rfl hok (hao hok) hI0 hI1 hB0 hB1 hn1
    | false =>
      by_cases hlt : (allS z0).2.1 < z0.length
      · exact lg_more ad _ cap0 z0 a1 cap1 z1 w hT hle0 hmx0 (by omega) (by omega) hal hG rfl hok hlt (none_more z0 z1 hok hlt) hI0 hI1 hB0 hB1 hn1
      · exact lg_len ad _ cap0 z0 a1 cap1 z1 w hT hle0 hmx0 (by omega) (by omega) hal hG rfl hok (by omega) hI0 hI1 hB0 hB1 hn1
end Go.Proofs.YtbmeinicjfmjlaaDoor
