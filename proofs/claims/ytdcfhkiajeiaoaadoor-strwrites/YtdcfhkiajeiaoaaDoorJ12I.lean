/- Joined of: R12D. -/
import Derived.Test.YtdcfhkiajeiaoaaDoorJ12H
import Derived.Test.YtdcfhkiajeiaoaaDoorJ12E
import Derived.Deep.QuietTactic
import Derived.BigQuiet
/- The document's string: a digit of an escape. -/
namespace Go.Proofs.YtdcfhkiajeiaoaaDoor
set_option maxRecDepth 100000
open Go.ChangeShapes Go.WideShapes Go.ChangeAt Go.RowKit
set_option linter.unusedVariables false
set_option linter.unusedSimpArgs false

theorem own_cells {w : World} {base n c : Nat} {e : TypeId} {k : IntKind} {A : Option Addr} {xs : List Int} (h : w.ownsRow base e 1 (.slice A n c) n (xs.map (Value.int k))) (hp : 0 < n) : ∃ q, A = some ⟨q, 0, none⟩ ∧ q < w.heap.size ∧ ∀ j, j < n → w.cell? ⟨q, j, none⟩ = some (.int k (xs.getD j 0)) := by
  have hl := h.1
  rw [List.length_map, Nat.mul_one] at hl
  rcases h.2 with ⟨e1, e2⟩ | ⟨q, cap, cur, hv, hb, hh, h1, h2, h3, h4⟩
  · omega
  · injection hv with e1 e2 e3
    refine ⟨q, e1, (Array.getElem?_eq_some_iff.1 hh).1, fun j hj => ?_⟩
    rw [cell_of_row w q j cur e (0, 0) hh]
    have hj' : (xs.map (Value.int k))[j]? = some (.int k (xs.getD j 0)) := by
      rw [List.getElem?_map, List.getD_eq_getElem?_getD, List.getElem?_eq_getElem (by omega)]; rfl
    rw [← h4, Nat.mul_one, List.getElem?_take] at hj'
    rw [if_pos (by omega)] at hj'
    rw [← Array.getElem?_toList]
    exact hj'
theorem low_eq (h : List Int) : lowH h = (decide (2 ≤ h.length) && ((h.getD 0 0 == 13) && decide (12 ≤ h.getD 1 0))) := by
  match h with
  | [] => rfl
  | [a] => simp [lowH]
  | a :: b :: l =>
    simp [lowH]
    by_cases h1 : a = 13 <;> by_cases h2 : 12 ≤ b <;> simp [h1, h2]
theorem non_eq (h : List Int) : nonH h = (decide (h.length = 3) && ((h.getD 0 0 == 15) && ((h.getD 1 0 == 13) && ((h.getD 2 0 == 13) || (h.getD 2 0 == 14))))) := by
  match h with
  | [] => rfl
  | [a] => simp [nonH]
  | [a, b] => simp [nonH]
  | [a, b, c] =>
    simp [nonH]
    by_cases h1 : a = 15 <;> by_cases h2 : b = 13 <;> by_cases h3 : c = 13 <;> by_cases h4 : c = 14 <;> simp [h1, h2, h3, h4]
  | a :: b :: c :: d :: l => simp [nonH]
theorem bad_eq (k : Int) (h : List Int) : badH k h = if 0 < k then (!(h.getD 0 0 == 13) || (decide (2 ≤ h.length) && !lowH h)) else lowH h := by
  unfold badH
  have e : h.headD 0 = h.getD 0 0 := by cases h <;> rfl
  rw [e]
  generalize h.getD 0 0 = d
  have ed : decide (d ≠ 13) = !(d == 13) := by by_cases h1 : d = 13 <;> simp [h1]
  rw [ed]
theorem info_i64 : (Tryd.prog.info? 3).map (fun i => (i.zero, i.size, i.bytes)) = some (some (.int .i64 0), 1, 8) := by kernel_rfl
set_option maxHeartbeats 16000000 in
theorem r_dig_any (base a : Nat) (ov bv hv : Value) (s : Ss) (x : Int) (w : World) (h : RStr w base a ov bv hv s) (hv0 : s.v = false) (he : s.e = 2) (hx0 : 0 ≤ x) (hx1 : x ≤ 255) (hbase : base ≤ w.heap.size) (hlo : s.o.length + 1 ≤ 100000) :
    Calls Tryd.prog 34 #[.pointer (some ⟨a, 0, none⟩), .int .u8 x] w (DRes base a ov bv (digS s x).2 (.int .i64 (digS s x).1) w) := by
  have HHX := Lib.hid (fun W => r_hex_any x W hx0 hx1)
  have hhb := hex_bd x
  have HH := Lib.hid h
  have HM := Lib.hid h.dm
  have hok := h.ok
  have hok2 := dig_ok hok he hv0 x
  have hk := hok.k
  obtain ⟨A0, ch, hhv, hch1, hch2⟩ := own_form h.h
  have c3 : w.cell? ⟨a, 3, none⟩ = some (.slice A0 s.h.length ch) := by rw [← hhv]; exact h.blk.cell 3
  have hlt : a < w.heap.size := h.blk.lt
  have HIH : Hid (Ints w w.heap.size .i64 A0 s.h) := Lib.hid (Ints.own (by have := h.h; rw [hhv] at this; exact this))
  have HNL : Hid (A0 = none → ch = 0) := Lib.hid (own_nil (by have := h.h; rw [hhv] at this; exact this))
  have hl3 := hok.h
  by_cases hneg : hexF x < 0
  · have HP : Hid (digS s x = (2, s)) := Lib.hid (by unfold digS; rw [if_pos hneg])
    clear h hok hok2 hhv
    generalize hexF x = y at *
    go_enter Tryd.func34, Tryd.ntmps34
    go_wp2_with fail
    with_reducible refine (HHX.out _).mono ?_
    rintro e w1 ⟨rfl, rfl⟩
    go_wp2
    go_ret
    exact dres_of HP.out (DRes.still HH.out rfl (Below.refl _ _))
  have hdS : digS s x = _ := digS.eq_1 s x
  rw [if_neg hneg] at hdS
  have hdd : ∀ d ∈ s.h ++ [hexF x], 0 ≤ d ∧ d ≤ 15 := snoc_mem hok.hd (by omega)
  obtain ⟨y, hy⟩ : ∃ y, hexF x = y := ⟨_, rfl⟩
  rw [hy] at hdS hdd hhb hneg HHX
  have HDS := Lib.hid hdS
  have HDD := Lib.hid hdd
  have HOK2 := Lib.hid hok2
  have HOK := Lib.hid hok
  clear h hok hok2 hhv hdS hdd hy hch1 hch2
  have hb0 := (Below.refl w.heap.size w).alloc (Nat.le_refl _) (.cells #[] 3)
  have HO0 : Hid (Own (w.alloc (.cells #[] 3)) w.heap.size 3 .i64 (.slice (some ⟨w.heap.size, 0, none⟩) 0 0) []) := Lib.hid (own_empty w _ 3 .i64 (Nat.le_refl _))
  go_enter Tryd.func34, Tryd.ntmps34
  go_wp2_with fail
  with_reducible refine (HHX.out _).mono ?_
  rintro e w0 ⟨rfl, rfl⟩
  have hyn : ¬ y < 0 := by omega
  have HZS := Lib.hid (And.intro HIH.out HNL.out)
  go_upto_region 4 with fail
  go_cut [6] from 15 to 23 (fun v W => ∃ A2 n2 cp2, v = .slice A2 n2 cp2 ∧ (s.h ++ [y]).length = n2 ∧ n2 ≤ cp2 ∧ W.ownsRow w.heap.size 3 1 (.slice A2 n2 cp2) n2 ((s.h ++ [y]).map (Value.int .i64)) ∧ Below w.heap.size w W)
  case first =>
    go_wp2_with (first
      | (at_builtin; refine wpList_app rfl (.tmp 15) (.tmp 19) 27 rfl w.heap.size 3 .i64 8 Tryd.underlying27 info_i64 (by omega) _ [] rfl HO0.out _ _ _ s.h rfl HNL.out (HIH.out.below hb0 (Nat.le_refl _)) (by simp; omega) (by simp) ?_; intro v1 w1 hO1 hg1
         have hb1 := hb0.trans (own_grown_below HO0.out hg1 (by simp))
         have HO1 := Lib.hid hO1
         have hz1 := hb1.size
         clear hO1 hg1)
      | (at_builtin; refine wpList_app rfl (.tmp 20) (.tmp 22) 27 rfl w.heap.size 3 .i64 8 Tryd.underlying27 info_i64 (by omega) v1 ([] ++ s.h) rfl (HO1.out.alloc _) _ _ 1 [y] rfl (fun h => by cases h) (Ints.lit w1 3 .i64 [y]) (by simp; omega) (by simp; omega) ?_; intro v2 w2 hO2 hg2
         have hb2 := (hb1.alloc hz1 _).trans (own_grown_below (HO1.out.alloc _) hg2 (by simp; omega))
         have HO2 := Lib.hid hO2
         clear hO2 hg2))
    go_meet
    case rel =>
      have hO2 := HO2.out
      rw [List.nil_append] at hO2
      obtain ⟨A2, cp2, rfl, hc2, _⟩ := own_form hO2
      exact ⟨A2, _, cp2, rfl, rfl, hc2, hO2, hb2⟩
  case rest =>
  obtain ⟨A2, n, cp2, rfl, hn, hncp, ho2, hb2⟩ := hcut
  have HO2 := Lib.hid ho2
  have HB2 := Lib.hid hb2
  have HM2 := Lib.hid (HM.out.go hb2)
  have HN := Lib.hid hn
  have hnn : s.h.length + 1 = n := by rw [← hn]; simp
  obtain ⟨q, hq, hql, hqc⟩ := own_cells ho2 (by omega)
  subst hq
  have HQC := Lib.hid hqc
  clear ho2 hb2 hn hqc hb0 HO0 HZS HNL HIH c3 hlt
  obtain ⟨d0, hd0⟩ : ∃ d, (s.h ++ [y]).getD 0 0 = d := ⟨_, rfl⟩
  obtain ⟨d1, hd1⟩ : ∃ d, (s.h ++ [y]).getD 1 0 = d := ⟨_, rfl⟩
  obtain ⟨d2, hd2⟩ : ∃ d, (s.h ++ [y]).getD 2 0 = d := ⟨_, rfl⟩
  obtain ⟨d3, hd3⟩ : ∃ d, (s.h ++ [y]).getD 3 0 = d := ⟨_, rfl⟩
  have e0 : wc.cell? ⟨q, 0, none⟩ = some (.int .i64 d0) := by rw [← hd0]; exact HQC.out 0 (by omega)
  have E1 : Hid (2 ≤ n → wc.cell? ⟨q, 1, none⟩ = some (.int .i64 d1)) := Lib.hid (fun h => by rw [← hd1]; exact HQC.out 1 (by omega))
  have E2 : Hid (3 ≤ n → wc.cell? ⟨q, 2, none⟩ = some (.int .i64 d2)) := Lib.hid (fun h => by rw [← hd2]; exact HQC.out 2 (by omega))
  have E3 : Hid (4 ≤ n → wc.cell? ⟨q, 3, none⟩ = some (.int .i64 d3)) := Lib.hid (fun h => by rw [← hd3]; exact HQC.out 3 (by omega))
  obtain ⟨lb, hlb⟩ : ∃ l, lowH (s.h ++ [y]) = l := ⟨_, rfl⟩
  obtain ⟨bd, hbd⟩ : ∃ l, badH s.k (s.h ++ [y]) = l := ⟨_, rfl⟩
  obtain ⟨nb, hnb⟩ : ∃ l, (decide (s.k = 0) && nonH (s.h ++ [y])) = l := ⟨_, rfl⟩
  have HLB : Hid (lb = (decide (2 ≤ n) && ((d0 == 13) && decide (12 ≤ d1)))) := Lib.hid (by rw [← hlb, low_eq, HN.out, hd0, hd1])
  have HBD : Hid (bd = if 0 < s.k then (!(d0 == 13) || (decide (2 ≤ n) && !lb)) else lb) := Lib.hid (by rw [← hbd, bad_eq, HN.out, hd0, hlb])
  have HNB : Hid (nb = (decide (s.k = 0) && (decide (n = 3) && ((d0 == 15) && ((d1 == 13) && ((d2 == 13) || (d2 == 14))))))) := Lib.hid (by rw [← hnb, non_eq, HN.out, hd0, hd1, hd2])
  rw [hbd, hnb] at HDS
  have hbdk : badH s.k (s.h ++ [y]) = bd := hbd
  have HD := Lib.hid (And.intro hd0 (And.intro hd1 (And.intro hd2 hd3)))
  have hn0 : 0 < n := by omega
  have hncs : n = 1 ∨ n = 2 ∨ n = 3 ∨ n = 4 := by omega
  have HNCS := Lib.hid hncs
  have HNN := Lib.hid hnn
  clear hlb hbd hnb hd0 hd1 hd2 hd3 HQC hncs hnn
  go_upto_region 6 with fail
  go_cut [8] from 26 to 39 (fun v W => v = .bool lb ∧ W = wc)
  case first =>
    have HLB2 := HLB.out
    obtain ⟨b0, hb0⟩ : ∃ b, (d0 == 13) = b := ⟨_, rfl⟩
    obtain ⟨b1, hb1⟩ : ∃ b, decide (12 ≤ d1) = b := ⟨_, rfl⟩
    rw [hb0, hb1] at HLB2
    rcases HNCS.out with rfl | rfl | rfl | rfl
    · have hl : lb = false := by rw [HLB2]; rfl
      subst hl
      clear HLB2
      go_wp2_with fail
      go_meet
      case rel => exact ⟨rfl, rfl⟩
    · have e1 := E1.out (by omega)
      cases b0 with
      | false =>
        have hl : lb = false := by rw [HLB2]; simp
        subst hl
        clear HLB2
        go_wp2_with fail
        go_meet
        case rel => exact ⟨rfl, rfl⟩
      | true =>
        have hl : lb = b1 := by rw [HLB2]; simp
        subst hl
        clear HLB2
        go_wp2_with fail
        go_meet
        case rel => exact ⟨rfl, rfl⟩
    · have e1 := E1.out (by omega)
      cases b0 with
      | false =>
        have hl : lb = false := by rw [HLB2]; simp
        subst hl
        clear HLB2
        go_wp2_with fail
        go_meet
        case rel => exact ⟨rfl, rfl⟩
      | true =>
        have hl : lb = b1 := by rw [HLB2]; simp
        subst hl
        clear HLB2
        go_wp2_with fail
        go_meet
        case rel => exact ⟨rfl, rfl⟩
    · have e1 := E1.out (by omega)
      cases b0 with
      | false =>
        have hl : lb = false := by rw [HLB2]; simp
        subst hl
        clear HLB2
        go_wp2_with fail
        go_meet
        case rel => exact ⟨rfl, rfl⟩
      | true =>
        have hl : lb = b1 := by rw [HLB2]; simp
        subst hl
        clear HLB2
        go_wp2_with fail
        go_meet
        case rel => exact ⟨rfl, rfl⟩
  case rest =>
  obtain ⟨rfl, hwc⟩ := hcut
  subst hwc
  have c4 : wc.cell? ⟨a, 4, none⟩ = some (.int .u16 s.k) := HM2.out.blk.cell 4
  have hla : a < wc.heap.size := HM2.out.blk.lt
  obtain ⟨kk, hkk⟩ : ∃ k, s.k = k := ⟨_, rfl⟩
  have HKK := Lib.hid hkk
  rw [hkk] at c4 HBD HNB hk
  go_upto_region 7 with fail
  go_cut [68] from 40 to 68 (fun v W => v = .bool bd ∧ W = wc)
  case first =>
    clear hkk
    have HBD2 := HBD.out
    obtain ⟨b0, hb0⟩ : ∃ b, (d0 == 13) = b := ⟨_, rfl⟩
    rw [hb0] at HBD2
    have hb0' : (d0 != 13) = !b0 := by rw [bne, hb0]
    rcases hk with hk0 | hk0
    · subst hk0
      have hl : bd = lb := by rw [HBD2]; rfl
      subst hl
      clear HBD2 HNB
      go_wp2_with fail
      go_meet
      case rel => exact ⟨rfl, rfl⟩
    · have hk1 : (0 : Int) < kk := by omega
      have hkz : (kk == 0) = false := by rw [beq_eq_false_iff_ne]; omega
      rw [if_pos hk1] at HBD2
      cases b0 with
      | false =>
        have hl : bd = true := by rw [HBD2]; rfl
        subst hl
        clear HBD2 HNB
        go_wp2_with fail
        go_meet
        case rel => exact ⟨rfl, rfl⟩
      | true =>
        rcases HNCS.out with rfl | rfl | rfl | rfl
        · have hl : bd = false := by rw [HBD2]; rfl
          subst hl
          clear HBD2 HNB
          go_wp2_with fail
          go_meet
          case rel => exact ⟨rfl, rfl⟩
        · cases lb with
          | true =>
            have hl : bd = false := by rw [HBD2]; rfl
            subst hl
            clear HBD2 HNB
            go_wp2_with fail
            go_meet
            case rel => exact ⟨rfl, rfl⟩
          | false =>
            have hl : bd = true := by rw [HBD2]; rfl
            subst hl
            clear HBD2 HNB
            go_wp2_with fail
            go_meet
            case rel => exact ⟨rfl, rfl⟩
        · cases lb with
          | true =>
            have hl : bd = false := by rw [HBD2]; rfl
            subst hl
            clear HBD2 HNB
            go_wp2_with fail
            go_meet
            case rel => exact ⟨rfl, rfl⟩
          | false =>
            have hl : bd = true := by rw [HBD2]; rfl
            subst hl
            clear HBD2 HNB
            go_wp2_with fail
            go_meet
            case rel => exact ⟨rfl, rfl⟩
        · cases lb with
          | true =>
            have hl : bd = false := by rw [HBD2]; rfl
            subst hl
            clear HBD2 HNB
            go_wp2_with fail
            go_meet
            case rel => exact ⟨rfl, rfl⟩
          | false =>
            have hl : bd = true := by rw [HBD2]; rfl
            subst hl
            clear HBD2 HNB
            go_wp2_with fail
            go_meet
            case rel => exact ⟨rfl, rfl⟩
  case rest =>
  obtain ⟨rfl, hwc⟩ := hcut
  subst hwc
  have HBF := Lib.hid hbdk
  cases bd with
  | true =>
    have hds := HDS.out
    rw [if_pos rfl] at hds
    have HP := Lib.hid hds
    clear hds
    go_wp2_with fail
    go_ret
    exact dres_of HP.out (DRes.still HH.out rfl HB2.out)
  | false =>
  have hds := HDS.out
  rw [if_neg Bool.false_ne_true] at hds
  have HDS := Lib.hid hds
  clear hds
  go_upto_region 9 with fail
  go_cut [101] from 69 to 101 (fun v W => v = .bool nb ∧ W = wc)
  case first =>
    clear hkk
    have HNB2 := HNB.out
    rcases hk with hk0 | hk0
    · subst hk0
      rcases HNCS.out with rfl | rfl | rfl | rfl
      · have hl : nb = false := by rw [HNB2]; rfl
        subst hl
        clear HNB2
        go_wp2_with fail
        go_meet
        case rel => exact ⟨rfl, rfl⟩
      · have hl : nb = false := by rw [HNB2]; rfl
        subst hl
        clear HNB2
        go_wp2_with fail
        go_meet
        case rel => exact ⟨rfl, rfl⟩
      · obtain ⟨b0, hb0⟩ : ∃ b, (d0 == 15) = b := ⟨_, rfl⟩
        obtain ⟨b1, hb1⟩ : ∃ b, (d1 == 13) = b := ⟨_, rfl⟩
        obtain ⟨b2, hb2⟩ : ∃ b, (d2 == 13) = b := ⟨_, rfl⟩
        obtain ⟨b3, hb3⟩ : ∃ b, (d2 == 14) = b := ⟨_, rfl⟩
        rw [hb0, hb1, hb2, hb3] at HNB2
        have e1 := E1.out (by omega)
        have e2 := E2.out (by omega)
        cases b0 with
        | false =>
          have hl : nb = false := by rw [HNB2]; rfl
          subst hl
          clear HNB2
          go_wp2_with fail
          go_meet
          case rel => exact ⟨rfl, rfl⟩
        | true =>
          cases b1 with
          | false =>
            have hl : nb = false := by rw [HNB2]; rfl
            subst hl
            clear HNB2
            go_wp2_with fail
            go_meet
            case rel => exact ⟨rfl, rfl⟩
          | true =>
            cases b2 with
            | true =>
              have hl : nb = true := by rw [HNB2]; rfl
              subst hl
              clear HNB2
              go_wp2_with fail
              go_meet
              case rel => exact ⟨rfl, rfl⟩
            | false =>
              have hl : nb = b3 := by rw [HNB2]; simp
              subst hl
              clear HNB2
              go_wp2_with fail
              go_meet
              case rel => exact ⟨rfl, rfl⟩
      · have hl : nb = false := by rw [HNB2]; rfl
        subst hl
        clear HNB2
        go_wp2_with fail
        go_meet
        case rel => exact ⟨rfl, rfl⟩
    · have hkz : (kk == 0) = false := by rw [beq_eq_false_iff_ne]; omega
      have hl : nb = false := by rw [HNB2, decide_eq_false (by omega)]; rfl
      subst hl
      clear HNB2
      go_wp2_with fail
      go_meet
      case rel => exact ⟨rfl, rfl⟩
  case rest =>
  obtain ⟨rfl, hwc⟩ := hcut
  subst hwc
  cases nb with
  | true =>
    have hds := HDS.out
    rw [if_pos rfl] at hds
    have HP := Lib.hid hds
    clear hds
    go_wp2_with fail
    go_ret
    exact dres_of HP.out (DRes.still HH.out rfl HB2.out)
  | false =>
  have hds := HDS.out
  rw [if_neg Bool.false_ne_true] at hds
  by_cases h4 : n < 4
  · have hds2 := hds
    rw [HNN.out, if_pos h4] at hds2
    have HP := Lib.hid hds2
    have HOK3 : Hid (SOk { s with h := s.h ++ [y] }) := Lib.hid (by have := HOK2.out; rw [HP.out] at this; exact this)
    have c3 : wc.cell? ⟨a, 3, none⟩ = some hv := HM2.out.blk.cell 3
    have f3 : wc.frozen? ⟨a, 3, none⟩ = false := HM2.out.blk.frozen 3
    have h4' : (n : Int) < 4 := by omega
    clear hds hds2
    go_wp2_with fail
    go_ret
    refine dres_of HP.out ⟨rfl, ov, bv, .slice (some ⟨q, 0, none⟩) n cp2, DM.str (s := { s with h := s.h ++ [y] }) ⟨HM2.out.blk.put 3 _ rfl, rown_set HM2.out.o HM2.out.blk (by decide), rown_set HM2.out.b HM2.out.blk (by decide), ?_, HM2.out.la⟩ HOK3.out HH.out.len, (SFr.of_below HB2.out).set 3 _, RowTo.refl _ _, RowTo.refl _ _⟩
    have h1 : I64r wc w.heap.size (.slice (some ⟨q, 0, none⟩) n cp2) (s.h ++ [y]) := by
      show wc.ownsRow w.heap.size 3 1 _ (s.h ++ [y]).length _
      rw [HN.out]; exact HO2.out
    exact rown_mono (rown_set h1 HM2.out.blk (by decide)) hbase
  have hn4 : n = 4 := by have := HNN.out; omega
  subst hn4
  rw [if_neg (by have := HNN.out; omega)] at hds
  obtain ⟨p0, p1, p2, hph⟩ := len3 (h := s.h) (by have := HNN.out; omega)
  have hp4 : s.h ++ [y] = [p0, p1, p2, y] := by rw [hph]; rfl
  have hdd := HDD.out
  rw [hp4] at hdd hds
  have e1 := E1.out (by omega)
  have e2 := E2.out (by omega)
  have e3 := E3.out (by omega)
  obtain ⟨r0, r1, r2, r3⟩ := HD.out
  rw [hp4] at r0 r1 r2 r3
  have r0 : p0 = d0 := r0
  have r1 : p1 = d1 := r1
  have r2 : p2 = d2 := r2
  have r3 : y = d3 := r3
  have hb0 := hdd p0 (by simp)
  have hb1 := hdd p1 (by simp)
  have hb2 := hdd p2 (by simp)
  have hb3 := hdd y (by simp)
  rw [r0] at hb0
  rw [r1] at hb1
  rw [r2] at hb2
  rw [r3] at hb3
  have hv4 := valH_4 p0 p1 p2 y
  rw [r0, r1, r2, r3] at hv4 hds
  have hbad4 : badH s.k [d0, d1, d2, d3] = false := by have := HBF.out; rw [hp4, r0, r1, r2, r3] at this; exact this
  obtain ⟨ub0, ub1, ub2, ub3⟩ := unit_is hb0 hb1 hb2 hb3 (k := s.k) (by rw [hkk]; exact hk) hbad4
  obtain ⟨u, hu⟩ : ∃ u, valH [d0, d1, d2, d3] = u := ⟨_, rfl⟩
  rw [hu] at hv4 hds ub0 ub1 ub2 ub3
  have hue : d0 * 4096 + d1 * 256 + d2 * 16 + d3 = u := by omega
  have hwu : IntKind.u16.wrap u = u := wraps_u16a _ ub0 (by omega)
  have HDS5 := Lib.hid hds
  have HUB := Lib.hid (And.intro ub2 ub3)
  have HR0 := Lib.hid r3
  clear hds hv4 hu ub2 ub3 hbad4 hdd hp4 r0 r1 r2 r3 E1 E2 E3 HLB HBD HNB HD HNCS HDS
  go_wp2_with fail
  go_quiet (fail)
  have HBq : Hid (Below w.heap.size w (wc.drewN nq)) := Lib.hid (below_drewN' HB2.out nq)
  have HMq := Lib.hid (HM2.out.go (below_drewN' (Below.refl _ _) nq))
  clear c4 e0 hla hql HB2 HM2 HO2
  generalize wc.drewN nq = wq at *
  have c4 : wq.cell? ⟨a, 4, none⟩ = some (.int .u16 kk) := by rw [← hkk]; exact HMq.out.blk.cell 4
  have f4 : wq.frozen? ⟨a, 4, none⟩ = false := HMq.out.blk.frozen 4
  have c3 : wq.cell? ⟨a, 3, none⟩ = some hv := HMq.out.blk.cell 3
  have f3 : wq.frozen? ⟨a, 3, none⟩ = false := HMq.out.blk.frozen 3
  have c2 : wq.cell? ⟨a, 2, none⟩ = some (.int .i64 s.e) := HMq.out.blk.cell 2
  have f2 : wq.frozen? ⟨a, 2, none⟩ = false := HMq.out.blk.frozen 2
  have hla : a < wq.heap.size := HMq.out.blk.lt
  have HHI := Lib.hid (fun W => r_high_any u W)
  have hds := HDS5.out
  have hub := HUB.out
  rw [hkk] at hds hub
  clear hkk HDS5
  have hwu32 : wrap32 u = u := IntWalk.wrap32_in _ (by omega)
  rcases hk with hk0 | hk0
  · subst hk0
    have hj : joinF 0 u = u := by unfold joinF; rw [if_neg (by omega)]
    rw [hj] at hds
    have HNC := Lib.hid (fun W => r_nonchar_any u W)
    cases hh : highB u with
    | true =>
      rw [hh] at HHI hds
      have HP : Hid (digS s x = (0, { s with h := [], e := 0, k := u })) := Lib.hid (by rw [hds]; rfl)
      have HOK3 : Hid (SOk { s with h := [], e := 0, k := u }) := Lib.hid (by have := HOK2.out; rw [HP.out] at this; exact this)
      clear hds hh HNC hj
      go_wp2_with fail
      with_reducible refine (HHI.out _).mono ?_
      rintro e w5 ⟨rfl, rfl⟩
      go_wp2_with fail
      go_ret
      have k1 : RefBlk (wq.setCell ⟨a, 3, none⟩ (.slice none 0 0)) a ov bv s.e (.slice none 0 0) s.k s.v := HMq.out.blk.put 3 _ rfl
      have k2 : RefBlk ((wq.setCell ⟨a, 3, none⟩ (.slice none 0 0)).setCell ⟨a, 2, none⟩ (.int .i64 0)) a ov bv 0 (.slice none 0 0) s.k s.v := k1.put 2 _ rfl
      have o1 := rown_set (i := 3) (u := .slice none 0 0) HMq.out.o HMq.out.blk (by decide)
      have o2 := rown_set (i := 2) (u := .int .i64 0) o1 k1 (by decide)
      have p1 := rown_set (i := 3) (u := .slice none 0 0) HMq.out.b HMq.out.blk (by decide)
      have p2 := rown_set (i := 2) (u := .int .i64 0) p1 k1 (by decide)
      exact dres_of HP.out ⟨rfl, ov, bv, .slice none 0 0, DM.str (s := { s with h := [], e := 0, k := u }) ⟨k2.put 4 _ rfl, rown_set o2 k2 (by decide), rown_set p2 k2 (by decide), World.ownsRow_nil _ _ _ _, HM.out.la⟩ HOK3.out HH.out.len, (((SFr.of_below HBq.out).set 3 _).set 2 _).set 4 _, RowTo.refl _ _, RowTo.refl _ _⟩
    | false =>
    rw [hh] at HHI hds
    obtain ⟨c, hc⟩ : ∃ c, u = c := ⟨_, rfl⟩
    cases hn : noncharB u with
    | true =>
      rw [hn] at HNC hds
      have HP : Hid (digS s x = (6, s)) := Lib.hid (by rw [hds]; rfl)
      clear hds hh hn hj hc
      go_wp2_with fail
      with_reducible refine (HHI.out _).mono ?_
      rintro e w5 ⟨rfl, rfl⟩
      go_wp2_with fail
      with_reducible refine (HNC.out _).mono ?_
      rintro e w5 ⟨rfl, rfl⟩
      go_wp2_with fail
      go_ret
      exact dres_of HP.out (DRes.still HH.out rfl HBq.out)
    | false =>
      rw [hn] at HNC hds
      have HP : Hid (digS s x = (0, { s with o := s.o ++ [u], h := [], e := 0, k := 0 })) := Lib.hid (by rw [hds]; rfl)
      have HOK3 : Hid (SOk { s with o := s.o ++ [u], h := [], e := 0, k := 0 }) := Lib.hid (by have := HOK2.out; rw [HP.out] at this; exact this)
      clear hds hh hn hj hc
      have hb1w : Below wq.heap.size wq (wq.alloc (.cells #[.int .i32 u] 21)) := (Below.refl _ _).alloc (Nat.le_refl _) _
      have hbw5 : Below w.heap.size w (wq.alloc (.cells #[.int .i32 u] 21)) := HBq.out.trans (hb1w.mono HBq.out.size)
      have HM5 := Lib.hid (HMq.out.go hb1w)
      have HO5 := Lib.hid HM5.out.o
      have HIL := Lib.hid (Ints.lit wq 21 .i32 [u])
      have d0' : wq.cell? ⟨a, 0, none⟩ = some ov := HMq.out.blk.cell 0
      have hsz4 : base ≤ wq.heap.size := Nat.le_trans hbase HBq.out.size
      go_wp2_with fail
      with_reducible refine (HHI.out _).mono ?_
      rintro e w5 ⟨rfl, rfl⟩
      go_wp2_with fail
      with_reducible refine (HNC.out _).mono ?_
      rintro e w5 ⟨rfl, rfl⟩
      go_wp2_with (at_builtin; refine wpList_appL rfl (.tmp 168) (.tmp 170) 26 rfl base 21 .i32 4 Tryd.underlying26 info_i32 (by omega) ov s.o rfl HO5.out _ _ 1 1 [u] rfl rfl (fun h => by cases h) HIL.out (by simp; omega) (by rw [World.size_alloc]; omega) ?_; intro v2 w2 hO2 hG2
                   obtain ⟨A9, m9, cp9, rfl⟩ := own_sl hO2
                   obtain ⟨k1, o1, p1, q1⟩ := HM5.out.grew hG2 hO2
                   have HK1 := Lib.hid (And.intro k1 (And.intro o1 (And.intro p1 q1)))
                   have HF := Lib.hid (Grew.fr (a := a) hbw5 hG2)
                   have HR := Lib.hid (Grew.to hbw5 hG2)
                   have x0 : w2.cell? ⟨a, 0, none⟩ = some ov := k1.cell 0
                   have g0 : w2.frozen? ⟨a, 0, none⟩ = false := k1.frozen 0
                   have x2 : w2.cell? ⟨a, 2, none⟩ = some (.int .i64 s.e) := k1.cell 2
                   have g2 : w2.frozen? ⟨a, 2, none⟩ = false := k1.frozen 2
                   have x3 : w2.cell? ⟨a, 3, none⟩ = some hv := k1.cell 3
                   have g3 : w2.frozen? ⟨a, 3, none⟩ = false := k1.frozen 3
                   have x4 : w2.cell? ⟨a, 4, none⟩ = some (.int .u16 s.k) := k1.cell 4
                   have g4 : w2.frozen? ⟨a, 4, none⟩ = false := k1.frozen 4
                   have hl2 : a < w2.heap.size := k1.lt
                   clear k1 o1 p1 q1 hG2 hO2)
      go_ret
      obtain ⟨k1, o1, p1, q1⟩ := HK1.out
      have k2 : RefBlk (w2.setCell ⟨a, 0, none⟩ (.slice A9 m9 cp9)) a (.slice A9 m9 cp9) bv s.e hv s.k s.v := k1.put 0 _ rfl
      have k3 : RefBlk ((w2.setCell ⟨a, 0, none⟩ (.slice A9 m9 cp9)).setCell ⟨a, 3, none⟩ (.slice none 0 0)) a (.slice A9 m9 cp9) bv s.e (.slice none 0 0) s.k s.v := k2.put 3 _ rfl
      have k4 : RefBlk (((w2.setCell ⟨a, 0, none⟩ (.slice A9 m9 cp9)).setCell ⟨a, 3, none⟩ (.slice none 0 0)).setCell ⟨a, 2, none⟩ (.int .i64 0)) a (.slice A9 m9 cp9) bv 0 (.slice none 0 0) s.k s.v := k3.put 2 _ rfl
      have o2 := rown_set (i := 0) (u := .slice A9 m9 cp9) o1 k1 (by decide)
      have o3 := rown_set (i := 3) (u := .slice none 0 0) o2 k2 (by decide)
      have o4 := rown_set (i := 2) (u := .int .i64 0) o3 k3 (by decide)
      have p2 := rown_set (i := 0) (u := .slice A9 m9 cp9) p1 k1 (by decide)
      have p3 := rown_set (i := 3) (u := .slice none 0 0) p2 k2 (by decide)
      have p4 := rown_set (i := 2) (u := .int .i64 0) p3 k3 (by decide)
      exact dres_of HP.out ⟨rfl, .slice A9 m9 cp9, bv, .slice none 0 0, DM.str (s := { s with o := s.o ++ [u], h := [], e := 0, k := 0 }) ⟨k4.put 4 _ rfl, rown_set o4 k4 (by decide), rown_set p4 k4 (by decide), World.ownsRow_nil _ _ _ _, HM.out.la⟩ HOK3.out (by show (s.o ++ [u]).length ≤ _; rw [List.length_append, List.length_singleton]; omega), (((HF.out.set 0 _).set 3 _).set 2 _).set 4 _, HR.out, RowTo.refl _ _⟩
  · have hk1 : (0 : Int) < kk := by omega
    have hkz : (kk == 0) = false := by rw [beq_eq_false_iff_ne]; omega
    have hsu := hub.1 hk1
    have hj : joinF kk u = 65536 + (kk - 55296) * 1024 + (u - 56320) := by unfold joinF; rw [if_pos hk1]
    have HJN := Lib.hid (fun W => r_join_yes kk u W hk0.1 hk0.2 hsu.1 hsu.2)
    have hdz : (decide (kk = 0) && highB u) = false := by rw [decide_eq_false (by omega)]; rfl
    rw [hdz, hj] at hds
    have hcb : 65536 ≤ 65536 + (kk - 55296) * 1024 + (u - 56320) ∧ 65536 + (kk - 55296) * 1024 + (u - 56320) ≤ 1114111 := by omega
    have HJS : Hid (joinF s.k u = 65536 + (kk - 55296) * 1024 + (u - 56320)) := Lib.hid (by rw [HKK.out]; exact hj)
    clear hj hdz hub
    generalize 65536 + (kk - 55296) * 1024 + (u - 56320) = c at *
    have HNC := Lib.hid (fun W => r_nonchar_any c W)
    cases hn : noncharB c with
    | true =>
      rw [hn] at HNC hds
      have HP : Hid (digS s x = (6, s)) := Lib.hid (by rw [hds]; rfl)
      clear hds hn
      go_wp2_with fail
      with_reducible refine (HJN.out _).mono ?_
      rintro e w5 ⟨rfl, rfl⟩
      go_wp2_with fail
      with_reducible refine (HNC.out _).mono ?_
      rintro e w5 ⟨rfl, rfl⟩
      go_wp2_with fail
      go_ret
      exact dres_of HP.out (DRes.still HH.out rfl HBq.out)
    | false =>
      rw [hn] at HNC hds
      have HP : Hid (digS s x = (0, { s with o := s.o ++ [c], h := [], e := 0, k := 0 })) := Lib.hid (by rw [hds]; rfl)
      have HOK3 : Hid (SOk { s with o := s.o ++ [c], h := [], e := 0, k := 0 }) := Lib.hid (by have := HOK2.out; rw [HP.out] at this; exact this)
      clear hds hn
      have hb1w : Below wq.heap.size wq (wq.alloc (.cells #[.int .i32 c] 21)) := (Below.refl _ _).alloc (Nat.le_refl _) _
      have hbw5 : Below w.heap.size w (wq.alloc (.cells #[.int .i32 c] 21)) := HBq.out.trans (hb1w.mono HBq.out.size)
      have HM5 := Lib.hid (HMq.out.go hb1w)
      have HO5 := Lib.hid HM5.out.o
      have HIL := Lib.hid (Ints.lit wq 21 .i32 [c])
      have d0' : wq.cell? ⟨a, 0, none⟩ = some ov := HMq.out.blk.cell 0
      have hsz4 : base ≤ wq.heap.size := Nat.le_trans hbase HBq.out.size
      go_wp2_with fail
      with_reducible refine (HJN.out _).mono ?_
      rintro e w5 ⟨rfl, rfl⟩
      go_wp2_with fail
      with_reducible refine (HNC.out _).mono ?_
      rintro e w5 ⟨rfl, rfl⟩
      go_wp2_with (at_builtin; refine wpList_appL rfl (.tmp 168) (.tmp 170) 26 rfl base 21 .i32 4 Tryd.underlying26 info_i32 (by omega) ov s.o rfl HO5.out _ _ 1 1 [c] rfl rfl (fun h => by cases h) HIL.out (by simp; omega) (by rw [World.size_alloc]; omega) ?_; intro v2 w2 hO2 hG2
                   obtain ⟨A9, m9, cp9, rfl⟩ := own_sl hO2
                   obtain ⟨k1, o1, p1, q1⟩ := HM5.out.grew hG2 hO2
                   have HK1 := Lib.hid (And.intro k1 (And.intro o1 (And.intro p1 q1)))
                   have HF := Lib.hid (Grew.fr (a := a) hbw5 hG2)
                   have HR := Lib.hid (Grew.to hbw5 hG2)
                   have x0 : w2.cell? ⟨a, 0, none⟩ = some ov := k1.cell 0
                   have g0 : w2.frozen? ⟨a, 0, none⟩ = false := k1.frozen 0
                   have x2 : w2.cell? ⟨a, 2, none⟩ = some (.int .i64 s.e) := k1.cell 2
                   have g2 : w2.frozen? ⟨a, 2, none⟩ = false := k1.frozen 2
                   have x3 : w2.cell? ⟨a, 3, none⟩ = some hv := k1.cell 3
                   have g3 : w2.frozen? ⟨a, 3, none⟩ = false := k1.frozen 3
                   have x4 : w2.cell? ⟨a, 4, none⟩ = some (.int .u16 s.k) := k1.cell 4
                   have g4 : w2.frozen? ⟨a, 4, none⟩ = false := k1.frozen 4
                   have hl2 : a < w2.heap.size := k1.lt
                   clear k1 o1 p1 q1 hG2 hO2)
      go_ret
      obtain ⟨k1, o1, p1, q1⟩ := HK1.out
      have k2 : RefBlk (w2.setCell ⟨a, 0, none⟩ (.slice A9 m9 cp9)) a (.slice A9 m9 cp9) bv s.e hv s.k s.v := k1.put 0 _ rfl
      have k3 : RefBlk ((w2.setCell ⟨a, 0, none⟩ (.slice A9 m9 cp9)).setCell ⟨a, 3, none⟩ (.slice none 0 0)) a (.slice A9 m9 cp9) bv s.e (.slice none 0 0) s.k s.v := k2.put 3 _ rfl
      have k4 : RefBlk (((w2.setCell ⟨a, 0, none⟩ (.slice A9 m9 cp9)).setCell ⟨a, 3, none⟩ (.slice none 0 0)).setCell ⟨a, 2, none⟩ (.int .i64 0)) a (.slice A9 m9 cp9) bv 0 (.slice none 0 0) s.k s.v := k3.put 2 _ rfl
      have o2 := rown_set (i := 0) (u := .slice A9 m9 cp9) o1 k1 (by decide)
      have o3 := rown_set (i := 3) (u := .slice none 0 0) o2 k2 (by decide)
      have o4 := rown_set (i := 2) (u := .int .i64 0) o3 k3 (by decide)
      have p2 := rown_set (i := 0) (u := .slice A9 m9 cp9) p1 k1 (by decide)
      have p3 := rown_set (i := 3) (u := .slice none 0 0) p2 k2 (by decide)
      have p4 := rown_set (i := 2) (u := .int .i64 0) p3 k3 (by decide)
      exact dres_of HP.out ⟨rfl, .slice A9 m9 cp9, bv, .slice none 0 0, DM.str (s := { s with o := s.o ++ [c], h := [], e := 0, k := 0 }) ⟨k4.put 4 _ rfl, rown_set o4 k4 (by decide), rown_set p4 k4 (by decide), World.ownsRow_nil _ _ _ _, HM.out.la⟩ HOK3.out (by show (s.o ++ [c]).length ≤ _; rw [List.length_append, List.length_singleton]; omega), (((HF.out.set 0 _).set 3 _).set 2 _).set 4 _, HR.out, RowTo.refl _ _⟩
end Go.Proofs.YtdcfhkiajeiaoaaDoor
