/- Printed by gen_n11edg.py. NumberEdges: about the greatest number, the program's number and the document's take alike. -/
import Derived.Test.YtiibfejgiilakaaDoorN11PlM
import Derived.Test.YtiibfejgiilakaaDoorN11Awk
import Derived.Test.YtiibfejgiilakaaDoorG10Print
import Derived.Test.YtiibfejgiilakaaDoorPlace4
import Derived.Test.YtiibfejgiilakaaDoorArg
import Derived.Deep.CutRange
import Derived.Deep.QuietTactic
import Derived.BigQuiet
namespace Go.Proofs.YtiibfejgiilakaaDoor
set_option maxRecDepth 100000
open Go.ChangeShapes Go.WideShapes Go.ChangeAt Go.RowKit
set_option linter.unusedVariables false
set_option linter.unusedSimpArgs false

theorem print_pos1 (n : Int) : 0 < (bs (printF n)).size := by
  rw [bs_size]
  unfold printF
  cases h : dig n.natAbs with
  | nil => exact absurd h (dig_ne _)
  | cons a l => simp; omega
/-- zeros put behind -/
def ZL (P : ByteArray) (z : Nat) (W : World) (i s : Value) (wr : World) : Prop := ∃ (k : Nat) (S : ByteArray), k ≤ z ∧ i = .int .i64 k ∧ s = .string S ∧ S.size = P.size + k ∧ Below W.heap.size W wr
/-- the document's number is pushed to -/
def EL (w : World) (g a : Nat) (s2 : List UInt8) (r : List UInt8 × Int) (F : ByteArray) (j p : Value) (wr : World) : Prop := ∃ (k : Nat) (pe : Int), k ≤ F.size ∧ j = .int .i64 k ∧ p = .int .i64 pe ∧ PP w wr g a s2 ((L8 F).take k) ∧ r = (if pe = 0 then feedF ((L8 F).take k) ((L8 F).drop k) else ((L8 F).take k, pe))
set_option maxHeartbeats 8000000 in
theorem edges_walk (n z0 t0 back : Int) (w : World) (hz : 0 ≤ z0 ∧ z0 ≤ 255) (ht : 0 ≤ t0 ∧ t0 ≤ 255) :
    Calls Tryd.prog 5 #[.int .i64 n, .int .u8 z0, .int .u8 t0, .int .i64 back] w fun e w' => e = .returned (.bool true) ∧ Below w.heap.size w w' := by
  have HAW := Lib.hid (fun W => awake_any W)
  have HPL : Hid (∀ W, Calls Tryd.prog 16 #[.int .i64 n, .int .i64 40] W fun e w' => e = .returned (.int .i64 (n % 40)) ∧ W = w') := Lib.hid fun W => place_any n 40 W (by omega) (by omega)
  have q0 : 0 ≤ n % 40 := by omega
  have q1 : n % 40 < 40 := by omega
  generalize n % 40 = p at HPL q0 q1
  obtain ⟨v, hv⟩ : ∃ v, 9007199254740971 + p = v := ⟨_, rfl⟩
  have hwv : IntKind.i64.wrap (9007199254740971 + p) = v := by rw [hv]; exact IntWalk.i64_in _ (by omega)
  have HPR := Lib.hid (fun W => rprint_any v (by omega) (by omega) W)
  have hP20 : (bs (printF v)).size ≤ 20 := print_len (by omega) (by omega)
  have hP1 := print_pos1 v
  generalize bs (printF v) = P at *
  obtain ⟨z, hzz⟩ : ∃ z : Nat, (z : Int) = z0 % 12 := ⟨(z0 % 12).toNat, by omega⟩
  have hz1 : z0.tmod 12 = (z : Int) := by rw [hzz]; exact Int.tmod_eq_emod_of_nonneg (by omega)
  have hz2 : z0 % 12 = (z : Int) := hzz.symm
  have hz12 : z < 12 := by omega
  have hz3 : IntKind.u8.wrap (z : Int) = z := IntWalk.u8_in _ (by omega)
  have hz4 : IntKind.i64.wrap (z : Int) = z := IntWalk.i64_in _ (by omega)
  have hz5 : IntKind.i64.wrap t0 = t0 := IntWalk.i64_in _ (by omega)
  clear hv hzz
  go_enter Tryd.func5, Tryd.ntmps5
  go_wp2_with fail
  with_reducible refine (HPL.out _).mono ?_
  rintro e w0 ⟨rfl, rfl⟩
  clear HPL
  go_wp2_with fail
  with_reducible refine (HPR.out _).mono ?_
  rintro e w1 ⟨rfl, hst⟩
  have HB1 := Lib.hid (hst.lower w.heap.size)
  clear hst HPR hwv
  go_wp2_with fail
  go_loopw [12, 10] (fun i s wr => ZL P z w i s wr) (fun i _ _ => z - (intOf i).toNat)
  case atStart => exact ⟨0, P, by omega, rfl, rfl, rfl, HB1.out⟩
  case round =>
    clear HB1
    obtain ⟨k, S, hk, rfl, rfl, hS, hb⟩ := hrel
    have HB := Lib.hid hb
    clear hb
    by_cases hlt : k < z
    · have hlt' : (k : Int) < z := by omega
      have e1 := ByteArray.size_append (a := S) (b := ⟨#[48]⟩)
      have e2 : (⟨#[48]⟩ : ByteArray).size = 1 := rfl
      have hsum : ¬ S.size + (⟨#[48]⟩ : ByteArray).size > 9223372036854775807 := by omega
      have hw1 : IntKind.i64.wrap ((k : Int) + 1) = (k : Int) + 1 := IntWalk.i64_in _ (by omega)
      have hS2 : (S ++ ⟨#[48]⟩).size = P.size + (k + 1) := by omega
      clear e1 e2
      go_wp2_with fail
      go_roundw
      case rel => exact ⟨k + 1, _, by omega, by go_num, rfl, hS2, HB.out⟩
      case measure => simp [intOf]; omega
    · have hlt' : ¬ (k : Int) < z := by omega
      have hSs : S.size ≤ 31 := by omega
      have hS1 : 0 < S.size := by omega
      go_upto_region 8 with fail
      clear hlt hlt' hS hk hz1 hz2 hz3 hz4 hz12 hP20 hP1
      obtain ⟨q, hq⟩ : ∃ q : Nat, (q : Int) = t0 % (S.size : Int) := ⟨(t0 % (S.size : Int)).toNat, by
        have := Int.emod_nonneg t0 (show (S.size : Int) ≠ 0 by omega)
        omega⟩
      have hq1 : t0.tmod (S.size : Int) = q := by rw [hq]; exact Int.tmod_eq_emod_of_nonneg (by omega)
      have hq2 : t0 % (S.size : Int) = q := hq.symm
      have hqlt : q < S.size := by
        have := Int.emod_lt_of_pos t0 (show (0 : Int) < S.size by omega)
        omega
      have hS0 : ((S.size : Int) == 0) = false := beq_eq_false_iff_ne.2 (by omega)
      have hS0' : S.size ≠ 0 := by omega
      have hwq : IntKind.i64.wrap (q : Int) = q := IntWalk.i64_in _ (by omega)
      have hwm : IntKind.i64.wrap (1 + (q : Int)) = 1 + (q : Int) := IntWalk.i64_in _ (by omega)
      clear hq
      obtain ⟨wx, hwx⟩ : ∃ wx, wr = wx := ⟨_, rfl⟩
      rw [hwx] at HB
      by_cases hms : 1 + q < S.size
      · have hms' : 1 + (q : Int) < S.size := by omega
        have hx1 : (S.extract 0 (1 + q)).size ≤ S.size := by rw [ByteArray.size_extract]; omega
        have hx2 : (S.extract (1 + q) S.size).size ≤ S.size := by rw [ByteArray.size_extract]; omega
        have e1 := ByteArray.size_append (a := S.extract 0 (1 + q)) (b := ⟨#[46]⟩)
        have e2 := ByteArray.size_append (a := S.extract 0 (1 + q) ++ ⟨#[46]⟩) (b := S.extract (1 + q) S.size)
        have e0 : (⟨#[46]⟩ : ByteArray).size = 1 := rfl
        have hs1 : ¬ (S.extract 0 (1 + q)).size + (⟨#[46]⟩ : ByteArray).size > 9223372036854775807 := by omega
        have hs2 : ¬ (S.extract 0 (1 + q) ++ ⟨#[46]⟩).size + (S.extract (1 + q) S.size).size > 9223372036854775807 := by omega
        have hWh : (S.extract 0 (1 + q) ++ ⟨#[46]⟩ ++ S.extract (1 + q) S.size).size ≤ 65 := by omega
        clear e1 e2 e0 hx1 hx2
        go_wp2_with fail
        go_quiet (fail)
        have HBx := Lib.hid (below_drewN' HB.out nq)
        generalize wx.drewN nq = wv at *
        clear hs1 hs2
        generalize S.extract 0 (1 + q) ++ ⟨#[46]⟩ ++ S.extract (1 + q) S.size = Wh at *
        have HPB : Hid (∀ W, Calls Tryd.prog 16 #[.int .i64 back, .int .i64 41] W fun e w' => e = .returned (.int .i64 (back % 41)) ∧ W = w') := Lib.hid fun W => place_any back 41 W (by omega) (by omega)
        have u0 : 0 ≤ back % 41 := by omega
        have u1 : back % 41 < 41 := by omega
        generalize back % 41 = u at HPB u0 u1
        go_wp2_with fail
        with_reducible refine (HPB.out _).mono ?_
        rintro e wb ⟨rfl, rfl⟩
        clear HPB
        have hwu : IntKind.i64.wrap (u - 20) = u - 20 := IntWalk.i64_in _ (by omega)
        have HPE := Lib.hid (fun W => rprint_any (u - 20) (by omega) (by omega) W)
        have hE20 : (bs (printF (u - 20))).size ≤ 20 := print_len (by omega) (by omega)
        generalize bs (printF (u - 20)) = E at *
        go_wp2_with fail
        with_reducible refine (HPE.out _).mono ?_
        rintro e wp ⟨rfl, hst⟩
        have HB3 := Lib.hid (HBx.out.trans (hst.lower _))
        have e3 := ByteArray.size_append (a := Wh) (b := ⟨#[101]⟩)
        have e4 := ByteArray.size_append (a := Wh ++ ⟨#[101]⟩) (b := E)
        have e5 : (⟨#[101]⟩ : ByteArray).size = 1 := rfl
        have hs3 : ¬ Wh.size + (⟨#[101]⟩ : ByteArray).size > 9223372036854775807 := by omega
        have hs4 : ¬ (Wh ++ ⟨#[101]⟩).size + E.size > 9223372036854775807 := by omega
        have hFs : (Wh ++ ⟨#[101]⟩ ++ E).size ≤ 90 := by omega
        obtain ⟨F, hF⟩ : ∃ F, Wh ++ ⟨#[101]⟩ ++ E = F := ⟨_, rfl⟩
        rw [hF] at hFs
        clear hst HBx HPE e3 e4 e5
        go_wp2_with fail
        with_reducible refine (new_spec w.heap.size wp).mono ?_
        rintro e1 w4 ⟨rfl, hn4, hb4⟩
        clear hs3 hs4 hF hE20 hWh hwu
        have HB4 := Lib.hid (HB3.out.trans (hb4.mono HB3.out.size))
        obtain ⟨g, hg⟩ : ∃ g, wp.heap.size = g := ⟨_, rfl⟩
        obtain ⟨a, ha⟩ : ∃ a, w4.heap.size = a := ⟨_, rfl⟩
        have HP0 : Hid (PP w (w4.alloc (.cells #[.string (bs [])] 27)) g a [] []) := Lib.hid (by rw [← ha]; exact PP.new (by rw [hg] at hn4; exact hn4) HB4.out (by have := HB3.out.size; omega))
        rw [hg]
        clear hn4 hb4 HB3 HB4
        go_wp2_with fail
        obtain ⟨v0, hv0⟩ := HP0.out.n
        have HB5 := Lib.hid HP0.out.b
        refine Calls.mono (push_law w.heap.size g v0 [] F _ hv0 HB5.out.size (by simp; omega)) ?_
        rintro e1 w6 ⟨rfl, v6, hn6, hf6, hra6⟩
        have e6 : ((feedF [] (L8 F)).1.length : Int) - (([] : List UInt8).length : Int) = ((feedF [] (L8 F)).1.length : Int) := by simp
        rw [e6]
        have HP6 := Lib.hid (HP0.out.pushN hv0 hn6 hf6)
        clear hv0 hn6 hf6 hra6 HP0 HB5 e6
        obtain ⟨s2, hs2⟩ : ∃ s2, (feedF [] (L8 F)).1 = s2 := ⟨_, rfl⟩
        obtain ⟨er, her⟩ : ∃ er, (feedF [] (L8 F)).2 = er := ⟨_, rfl⟩
        have hr : (s2, er) = feedF [] (L8 F) := by rw [← hs2, ← her]
        rw [hs2] at HP6
        rw [hs2, her]
        have HR := Lib.hid hr
        clear hs2 her hr
        go_wp2_with fail
        go_loopw [20, 21] (fun j p wr => EL w g a s2 (s2, er) F j p wr) (fun j p _ => (F.size - (intOf j).toNat) + (if intOf p = 0 then 1 else 0))
        case atStart => exact ⟨0, 0, by omega, rfl, rfl, by rw [List.take_zero]; exact HP6.out, by rw [if_pos rfl, List.take_zero, List.drop_zero]; exact HR.out⟩
        case round =>
          clear HP6 HR
          obtain ⟨j, pe, hj, rfl, rfl, hpp, hrr⟩ := hrel
          have HP := Lib.hid hpp
          clear hpp
          by_cases hp0 : pe = 0
          · subst hp0
            rw [if_pos rfl] at hrr
            by_cases hlt : j < F.size
            · have hlt' : (j : Int) < F.size := by omega
              have hdr := L8_drop F j hlt
              have htk := L8_take F j hlt
              rw [hdr] at hrr
              have hfe2 : feedF ((L8 F).take j) (F[j] :: (L8 F).drop (j + 1)) = if pushF ((L8 F).take j) F[j] = 0 then feedF (((L8 F).take j) ++ [F[j]]) ((L8 F).drop (j + 1)) else ((L8 F).take j, pushF ((L8 F).take j) F[j]) := rfl
              rw [hfe2] at hrr
              obtain ⟨pe, s3, hpe, hs3, hl3, _, hpr⟩ := both_push w.heap.size g a ((L8 F).take j) F[j] (by rw [List.length_take, L8_len]; omega)
              rw [hpe] at hrr
              have HPR := Lib.hid hpr
              have HRR := Lib.hid hrr
              have HS3 := Lib.hid hs3
              have HTK := Lib.hid htk
              have hw1 : IntKind.i64.wrap ((j : Int) + 1) = (j : Int) + 1 := IntWalk.i64_in _ (by omega)
              clear hpr hrr hfe2 hpe hs3 hl3 hdr htk
              go_wp2_with fail
              with_reducible refine (HPR.out _ HP.out.r).mono ?_
              rintro e w7 ⟨rfl, hr7, hbt⟩
              have HP7 := Lib.hid (HP.out.pushR hr7 hbt)
              clear hr7 hbt HP HPR
              by_cases h1 : pe = 0
              · subst h1
                go_wp2_with fail
                go_roundw
                case rel => exact ⟨j + 1, 0, by omega, by go_num, rfl, by rw [HTK.out]; have := HS3.out; rw [if_pos trivial] at this; rw [this]; exact HP7.out, by rw [if_pos rfl, HTK.out]; have := HRR.out; rw [if_pos trivial] at this; exact this⟩
                case measure => simp [intOf]; omega
              · have h1b : (pe == 0) = false := beq_eq_false_iff_ne.2 h1
                go_wp2_with fail
                go_roundw
                case rel => exact ⟨j, pe, by omega, rfl, rfl, by have := HS3.out; rw [if_neg h1] at this; rw [this]; exact HP7.out, by rw [if_neg h1]; have := HRR.out; rw [if_neg h1] at this; exact this⟩
                case measure => simp [intOf, h1]
            · have hlt' : ¬ (j : Int) < F.size := by omega
              have hkd : (L8 F).drop j = [] := List.drop_eq_nil_of_le (by rw [L8_len]; omega)
              rw [hkd] at hrr
              obtain ⟨rfl, rfl⟩ := Prod.mk.inj hrr
              have hln : (((L8 F).take j).length : Int) = j := by rw [List.length_take, L8_len]; omega
              rw [hln]
              have hjj : ((j : Int) == j) = true := by simp
              clear hrr hkd hln
              have HXX := Lib.hid HP.out.b
              go_wp2_with fail
              with_reducible refine (HAW.out _).mono ?_
              rintro e1 w9 ⟨rfl, hb9⟩
              have HB9 := Lib.hid (HXX.out.trans (hb9.mono HXX.out.size))
              clear hb9
              go_wp2
              go_ret
              exact ⟨rfl, HB9.out⟩
          · rw [if_neg hp0] at hrr
            obtain ⟨rfl, rfl⟩ := Prod.mk.inj hrr
            have hp0b : (er == 0) = false := beq_eq_false_iff_ne.2 hp0
            have hee : (er == er) = true := by simp
            have hln : (((L8 F).take j).length : Int) = j := by rw [List.length_take, L8_len]; omega
            rw [hln]
            have hjj : ((j : Int) == j) = true := by simp
            clear hrr hln
            by_cases hlt : j < F.size
            · have hlt' : (j : Int) < F.size := by omega
              have HXX := Lib.hid HP.out.b
              go_wp2_with fail
              with_reducible refine (HAW.out _).mono ?_
              rintro e1 w9 ⟨rfl, hb9⟩
              have HB9 := Lib.hid (HXX.out.trans (hb9.mono HXX.out.size))
              clear hb9
              go_wp2
              go_ret
              exact ⟨rfl, HB9.out⟩
            · have hlt' : ¬ (j : Int) < F.size := by omega
              have HXX := Lib.hid HP.out.b
              go_wp2_with fail
              with_reducible refine (HAW.out _).mono ?_
              rintro e1 w9 ⟨rfl, hb9⟩
              have HB9 := Lib.hid (HXX.out.trans (hb9.mono HXX.out.size))
              clear hb9
              go_wp2
              go_ret
              exact ⟨rfl, HB9.out⟩
      · have hms' : ¬ 1 + (q : Int) < S.size := by omega
        have hWh : S.size ≤ 65 := by omega
        have HBx := HB
        go_wp2_with fail
        have HPB : Hid (∀ W, Calls Tryd.prog 16 #[.int .i64 back, .int .i64 41] W fun e w' => e = .returned (.int .i64 (back % 41)) ∧ W = w') := Lib.hid fun W => place_any back 41 W (by omega) (by omega)
        have u0 : 0 ≤ back % 41 := by omega
        have u1 : back % 41 < 41 := by omega
        generalize back % 41 = u at HPB u0 u1
        go_wp2_with fail
        with_reducible refine (HPB.out _).mono ?_
        rintro e wb ⟨rfl, rfl⟩
        clear HPB
        have hwu : IntKind.i64.wrap (u - 20) = u - 20 := IntWalk.i64_in _ (by omega)
        have HPE := Lib.hid (fun W => rprint_any (u - 20) (by omega) (by omega) W)
        have hE20 : (bs (printF (u - 20))).size ≤ 20 := print_len (by omega) (by omega)
        generalize bs (printF (u - 20)) = E at *
        go_wp2_with fail
        with_reducible refine (HPE.out _).mono ?_
        rintro e wp ⟨rfl, hst⟩
        have HB3 := Lib.hid (HBx.out.trans (hst.lower _))
        have e3 := ByteArray.size_append (a := S) (b := ⟨#[101]⟩)
        have e4 := ByteArray.size_append (a := S ++ ⟨#[101]⟩) (b := E)
        have e5 : (⟨#[101]⟩ : ByteArray).size = 1 := rfl
        have hs3 : ¬ S.size + (⟨#[101]⟩ : ByteArray).size > 9223372036854775807 := by omega
        have hs4 : ¬ (S ++ ⟨#[101]⟩).size + E.size > 9223372036854775807 := by omega
        have hFs : (S ++ ⟨#[101]⟩ ++ E).size ≤ 90 := by omega
        obtain ⟨F, hF⟩ : ∃ F, S ++ ⟨#[101]⟩ ++ E = F := ⟨_, rfl⟩
        rw [hF] at hFs
        clear hst HBx HPE e3 e4 e5
        go_wp2_with fail
        with_reducible refine (new_spec w.heap.size wp).mono ?_
        rintro e1 w4 ⟨rfl, hn4, hb4⟩
        clear hs3 hs4 hF hE20 hWh hwu
        have HB4 := Lib.hid (HB3.out.trans (hb4.mono HB3.out.size))
        obtain ⟨g, hg⟩ : ∃ g, wp.heap.size = g := ⟨_, rfl⟩
        obtain ⟨a, ha⟩ : ∃ a, w4.heap.size = a := ⟨_, rfl⟩
        have HP0 : Hid (PP w (w4.alloc (.cells #[.string (bs [])] 27)) g a [] []) := Lib.hid (by rw [← ha]; exact PP.new (by rw [hg] at hn4; exact hn4) HB4.out (by have := HB3.out.size; omega))
        rw [hg]
        clear hn4 hb4 HB3 HB4
        go_wp2_with fail
        obtain ⟨v0, hv0⟩ := HP0.out.n
        have HB5 := Lib.hid HP0.out.b
        refine Calls.mono (push_law w.heap.size g v0 [] F _ hv0 HB5.out.size (by simp; omega)) ?_
        rintro e1 w6 ⟨rfl, v6, hn6, hf6, hra6⟩
        have e6 : ((feedF [] (L8 F)).1.length : Int) - (([] : List UInt8).length : Int) = ((feedF [] (L8 F)).1.length : Int) := by simp
        rw [e6]
        have HP6 := Lib.hid (HP0.out.pushN hv0 hn6 hf6)
        clear hv0 hn6 hf6 hra6 HP0 HB5 e6
        obtain ⟨s2, hs2⟩ : ∃ s2, (feedF [] (L8 F)).1 = s2 := ⟨_, rfl⟩
        obtain ⟨er, her⟩ : ∃ er, (feedF [] (L8 F)).2 = er := ⟨_, rfl⟩
        have hr : (s2, er) = feedF [] (L8 F) := by rw [← hs2, ← her]
        rw [hs2] at HP6
        rw [hs2, her]
        have HR := Lib.hid hr
        clear hs2 her hr
        go_wp2_with fail
        go_loopw [20, 21] (fun j p wr => EL w g a s2 (s2, er) F j p wr) (fun j p _ => (F.size - (intOf j).toNat) + (if intOf p = 0 then 1 else 0))
        case atStart => exact ⟨0, 0, by omega, rfl, rfl, by rw [List.take_zero]; exact HP6.out, by rw [if_pos rfl, List.take_zero, List.drop_zero]; exact HR.out⟩
        case round =>
          clear HP6 HR
          obtain ⟨j, pe, hj, rfl, rfl, hpp, hrr⟩ := hrel
          have HP := Lib.hid hpp
          clear hpp
          by_cases hp0 : pe = 0
          · subst hp0
            rw [if_pos rfl] at hrr
            by_cases hlt : j < F.size
            · have hlt' : (j : Int) < F.size := by omega
              have hdr := L8_drop F j hlt
              have htk := L8_take F j hlt
              rw [hdr] at hrr
              have hfe2 : feedF ((L8 F).take j) (F[j] :: (L8 F).drop (j + 1)) = if pushF ((L8 F).take j) F[j] = 0 then feedF (((L8 F).take j) ++ [F[j]]) ((L8 F).drop (j + 1)) else ((L8 F).take j, pushF ((L8 F).take j) F[j]) := rfl
              rw [hfe2] at hrr
              obtain ⟨pe, s3, hpe, hs3, hl3, _, hpr⟩ := both_push w.heap.size g a ((L8 F).take j) F[j] (by rw [List.length_take, L8_len]; omega)
              rw [hpe] at hrr
              have HPR := Lib.hid hpr
              have HRR := Lib.hid hrr
              have HS3 := Lib.hid hs3
              have HTK := Lib.hid htk
              have hw1 : IntKind.i64.wrap ((j : Int) + 1) = (j : Int) + 1 := IntWalk.i64_in _ (by omega)
              clear hpr hrr hfe2 hpe hs3 hl3 hdr htk
              go_wp2_with fail
              with_reducible refine (HPR.out _ HP.out.r).mono ?_
              rintro e w7 ⟨rfl, hr7, hbt⟩
              have HP7 := Lib.hid (HP.out.pushR hr7 hbt)
              clear hr7 hbt HP HPR
              by_cases h1 : pe = 0
              · subst h1
                go_wp2_with fail
                go_roundw
                case rel => exact ⟨j + 1, 0, by omega, by go_num, rfl, by rw [HTK.out]; have := HS3.out; rw [if_pos trivial] at this; rw [this]; exact HP7.out, by rw [if_pos rfl, HTK.out]; have := HRR.out; rw [if_pos trivial] at this; exact this⟩
                case measure => simp [intOf]; omega
              · have h1b : (pe == 0) = false := beq_eq_false_iff_ne.2 h1
                go_wp2_with fail
                go_roundw
                case rel => exact ⟨j, pe, by omega, rfl, rfl, by have := HS3.out; rw [if_neg h1] at this; rw [this]; exact HP7.out, by rw [if_neg h1]; have := HRR.out; rw [if_neg h1] at this; exact this⟩
                case measure => simp [intOf, h1]
            · have hlt' : ¬ (j : Int) < F.size := by omega
              have hkd : (L8 F).drop j = [] := List.drop_eq_nil_of_le (by rw [L8_len]; omega)
              rw [hkd] at hrr
              obtain ⟨rfl, rfl⟩ := Prod.mk.inj hrr
              have hln : (((L8 F).take j).length : Int) = j := by rw [List.length_take, L8_len]; omega
              rw [hln]
              have hjj : ((j : Int) == j) = true := by simp
              clear hrr hkd hln
              have HXX := Lib.hid HP.out.b
              go_wp2_with fail
              with_reducible refine (HAW.out _).mono ?_
              rintro e1 w9 ⟨rfl, hb9⟩
              have HB9 := Lib.hid (HXX.out.trans (hb9.mono HXX.out.size))
              clear hb9
              go_wp2
              go_ret
              exact ⟨rfl, HB9.out⟩
          · rw [if_neg hp0] at hrr
            obtain ⟨rfl, rfl⟩ := Prod.mk.inj hrr
            have hp0b : (er == 0) = false := beq_eq_false_iff_ne.2 hp0
            have hee : (er == er) = true := by simp
            have hln : (((L8 F).take j).length : Int) = j := by rw [List.length_take, L8_len]; omega
            rw [hln]
            have hjj : ((j : Int) == j) = true := by simp
            clear hrr hln
            by_cases hlt : j < F.size
            · have hlt' : (j : Int) < F.size := by omega
              have HXX := Lib.hid HP.out.b
              go_wp2_with fail
              with_reducible refine (HAW.out _).mono ?_
              rintro e1 w9 ⟨rfl, hb9⟩
              have HB9 := Lib.hid (HXX.out.trans (hb9.mono HXX.out.size))
              clear hb9
              go_wp2
              go_ret
              exact ⟨rfl, HB9.out⟩
            · have hlt' : ¬ (j : Int) < F.size := by omega
              have HXX := Lib.hid HP.out.b
              go_wp2_with fail
              with_reducible refine (HAW.out _).mono ?_
              rintro e1 w9 ⟨rfl, hb9⟩
              have HB9 := Lib.hid (HXX.out.trans (hb9.mono HXX.out.size))
              clear hb9
              go_wp2
              go_ret
              exact ⟨rfl, HB9.out⟩
end Go.Proofs.YtiibfejgiilakaaDoor
