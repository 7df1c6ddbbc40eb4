/- Printed by gen_g10forms.py. The walk of DigitsForms. -/
import Derived.Test.YtadbnajodpfpgaaDoorG10FormM
import Derived.Test.YtadbnajodpfpgaaDoorG10Awk
import Derived.Test.YtadbnajodpfpgaaDoorPlace4
namespace Go.Proofs.YtadbnajodpfpgaaDoor
set_option maxRecDepth 100000
open Go.ChangeShapes Go.WideShapes Go.ChangeAt Go.RowKit
set_option linter.unusedVariables false
set_option linter.unusedSimpArgs false

theorem add_str {A B : ByteArray} (h : A.size + B.size ≤ 1000) (w : World) : (binOp .add 9 (.string A) (.string B)).run Tryd.prog w = .ok (.string (A ++ B)) w := by
  have hs : ¬ A.size + B.size > 9223372036854775807 := by omega
  go_simp
theorem tmod_53 (n : Int) : In53 (n.tmod 9007199254740991) := by
  have b1 := Int.tmod_lt_of_pos n (show (0 : Int) < 9007199254740991 by omega)
  have b2 := Int.lt_tmod_of_pos n (show (0 : Int) < 9007199254740991 by omega)
  unfold In53
  omega
/-- the law's end: what is read of s -/
structure FormTail (m : Int) (s : ByteArray) : Prop where
  out : ∃ y : Dc, (∀ W, Calls Tryd.prog 11 #[.string s] W fun e w' => e = .returned (.tuple #[dcV y, .bool true]) ∧ Below W.heap.size W w') ∧
    (∀ W, Calls Tryd.prog 16 #[dcV y] W fun e w' => e = .returned (.tuple #[.int .i64 m, .int .i64 0]) ∧ Below W.heap.size W w') ∧
    (∀ W, Calls Tryd.prog 22 #[dcV y] W fun e w' => e = .returned (.bool true) ∧ Below W.heap.size W w')
theorem form_tail (HD : DigitsOk) {m : Int} {s : ByteArray} (h : FormOf m s) (hm : In53 m) : FormTail m s := by
  obtain ⟨y, h1, h2, h3, h4, h5⟩ := form_end h hm
  refine ⟨y, fun W => ?_, fun W => ?_, fun W => ?_⟩
  · have := HD.read s W (by have := h.size; omega)
    rw [h1] at this
    exact this
  · have := HD.int y W h3 h2
    rw [h5] at this
    exact this
  · have := HD.whole y W h3 h2
    rw [h4] at this
    exact this

set_option maxHeartbeats 8000000 in
theorem forms_walk (HD : DigitsOk) (n k how : Int) (w : World) : Calls Tryd.prog 5 #[.int .i64 n, .int .i64 k, .int .i64 how] w fun e w' => e = .returned (.bool true) ∧ Below w.heap.size w w' := by
  have HM53 := Lib.hid (tmod_53 n)
  obtain ⟨m, hmm⟩ : ∃ m, n.tmod 9007199254740991 = m := ⟨_, rfl⟩
  rw [hmm] at HM53
  obtain ⟨z, hz⟩ : ∃ z : Nat, k % 30 = z := ⟨(k % 30).toNat, by omega⟩
  have hz30 : z < 30 := by omega
  have hm1 : -9007199254740991 < m ∧ m < 9007199254740991 := by have := HM53.out; unfold In53 at this; omega
  obtain ⟨hm1, hm2⟩ := hm1
  have HPL := Lib.hid (fun W => place_any k 30 W (by omega) (by omega))
  rw [hz] at HPL
  have HPR := Lib.hid (fun W => rprint_any m (by omega) (by omega) W)
  have HPZ := Lib.hid (fun W => rprint_any (z : Int) (by omega) (by omega) W)
  have HT := Lib.hid (fun (s : ByteArray) (h : FormOf m s) => form_tail HD h HM53.out)
  have HA := Lib.hid (fun W => awake10 HD W)
  have hPs : (bs (printF m)).size ≤ 17 := by rw [bs_size]; exact print_17 HM53.out
  obtain ⟨P, hP⟩ : ∃ P, bs (printF m) = P := ⟨_, rfl⟩
  have HLP : Hid (L8 P = printF m) := Lib.hid (by rw [← hP, L8_bs])
  rw [hP] at HPR hPs
  clear hP HD hz
  have HC : Hid (∃ c : Int, how % 4 = c ∧ (c = 0 ∨ c = 1 ∨ c = 2 ∨ c = 3)) := Lib.hid ⟨_, rfl, by omega⟩
  have HPH := Lib.hid (fun W => place_any how 4 W (by omega) (by omega))
  go_enter Tryd.func5, Tryd.ntmps5
  go_wp2_with fail
  with_reducible refine (HPL.out _).mono ?_
  rintro e w1 ⟨rfl, rfl⟩
  go_wp2_with fail
  with_reducible refine (HPR.out _).mono ?_
  rintro e w1 ⟨rfl, hst⟩
  have HB1 := Lib.hid (hst.lower w.heap.size)
  clear hst
  go_wp2_with fail
  go_loop [10, 11] (fun zz i => ∃ j : Nat, j ≤ z ∧ zz = .string (bs (zs j)) ∧ i = .int .i64 j) (fun _ i => z - (intOf i).toNat)
  case atStart => exact ⟨0, Nat.zero_le _, rfl, rfl⟩
  case round =>
    obtain ⟨j, hj, rfl, rfl⟩ := hrel
    have hZs : (bs (zs j)).size = j := by rw [bs_size, zs_len]
    obtain ⟨Z, hZ⟩ : ∃ Z, bs (zs j) = Z := ⟨_, rfl⟩
    have HLZ : Hid (L8 Z = zs j) := Lib.hid (by rw [← hZ, L8_bs])
    rw [hZ] at hZs ⊢
    clear hZ
    have hZ1 : Z.size ≤ j := by omega
    have hZ2 : j ≤ Z.size := by omega
    clear hZs
    by_cases hlt : j < z
    · have hlt' : (j : Int) < z := by omega
      have hadd := add_str (A := Z) (B := ⟨#[48]⟩) (by have : (⟨#[48]⟩ : ByteArray).size = 1 := rfl; omega)
      have HE : Hid (Z ++ ⟨#[48]⟩ = bs (zs (j + 1))) := Lib.hid (L8_inj (by rw [L8_app, HLZ.out, L8_bs, ← zs_snoc]; rfl))
      go_wp2
      go_round
      case rel => exact ⟨j + 1, by omega, by rw [HE.out], by go_num⟩
      case measure => simp [intOf]; omega
    · have hlt' : ¬ (j : Int) < z := by omega
      obtain rfl : j = z := by omega
      go_wp2_with fail
      with_reducible refine (HPH.out _).mono ?_
      rintro e w2 ⟨rfl, rfl⟩
      obtain ⟨c, hc, hcc⟩ := HC.out
      rw [hc]
      clear hc HC HPH hlt hlt' hj
      rcases hcc with rfl | rfl | rfl | rfl
      · skip
        have HF : Hid (FormOf m (P ++ ⟨#[46]⟩ ++ Z ++ ⟨#[48]⟩)) := Lib.hid (form_point (z := j + 1) HM53.out (by omega) (by omega) exp_none (by simp) rfl (by
          rw [L8_app, L8_app, L8_app, HLP.out, HLZ.out, ← zs_snoc]
          change ((printF m ++ [46]) ++ zs j) ++ [48] = printF m ++ (46 :: (zs j ++ [48]) ++ [])
          simp))
        have c1 : (⟨#[46]⟩ : ByteArray).size = 1 := rfl
        have c2 : (⟨#[48]⟩ : ByteArray).size = 1 := rfl
        obtain ⟨y, hR, hI, hW⟩ := (HT.out _ HF.out).out
        have HR := Lib.hid hR
        have HI := Lib.hid hI
        have HW := Lib.hid hW
        clear hR hI hW HT HF
        obtain ⟨yn, yd, ye⟩ := y
        unfold dcV at HR HI HW
        dsimp only at HR HI HW
        generalize bs yd = ys at *
        go_wp2_with fail
        with_reducible refine (HR.out _).mono ?_
        rintro e w3 ⟨rfl, hb⟩
        have HB3 := Lib.hid (HB1.out.trans (hb.mono HB1.out.size))
        clear hb HB1
        go_wp2_with fail
        have HX4 : Hid (DcBlk (w3.alloc (.cells #[.bool yn, .string ys, .int .i64 ye] 23)) w3.heap.size yn ys ye) := Lib.hid (Blk.new w3 23 _)
        have HB4 : Hid (Below w.heap.size w (w3.alloc (.cells #[.bool yn, .string ys, .int .i64 ye] 23))) := Lib.hid (HB3.out.alloc HB3.out.size _)
        clear HB3
        generalize w3.alloc (.cells #[.bool yn, .string ys, .int .i64 ye] 23) = w4 at *
        generalize w3.heap.size = g at *
        with_reducible refine (HI.out _).mono ?_
        rintro e w5 ⟨rfl, hb⟩
        have HB5 := Lib.hid (HB4.out.trans (hb.mono HB4.out.size))
        have HX5 := Lib.hid (HX4.out.below hb HX4.out.lt)
        have k0 : w5.cell? ⟨g, 0, none⟩ = some (.bool yn) := HX5.out.cell 0
        have k1 : w5.cell? ⟨g, 1, none⟩ = some (.string ys) := HX5.out.cell 1
        have k2 : w5.cell? ⟨g, 2, none⟩ = some (.int .i64 ye) := HX5.out.cell 2
        have hmm2 : (m == m) = true := by simp
        clear hb HB4 HX4
        go_wp2_with fail
        with_reducible refine (HW.out _).mono ?_
        rintro e w6 ⟨rfl, hb⟩
        have HB6 := Lib.hid (HB5.out.trans (hb.mono HB5.out.size))
        clear hb HB5 HX5 k0 k1 k2
        go_wp2_with fail
        with_reducible refine (HA.out _).mono ?_
        rintro e w7 ⟨rfl, hb⟩
        have HB7 := Lib.hid (HB6.out.trans (hb.mono HB6.out.size))
        clear hb HB6
        go_wp2
        go_ret
        exact ⟨rfl, HB7.out⟩
      · by_cases hm0 : m = 0
        · have hm0' : (m != 0) = false := by rw [hm0]; rfl
          clear hm0
          have HF : Hid (FormOf m (P ++ ⟨#[101, 48]⟩ ++ Z)) := Lib.hid (form_plain (z := 0) HM53.out (by omega) (.inl rfl) (exp_zeros j) (by simp [zs_len]; omega) rfl (by
            rw [L8_app, L8_app, HLP.out, HLZ.out]
            change (printF m ++ [101, 48]) ++ zs j = printF m ++ ([] ++ 101 :: 48 :: zs j)
            simp))
          have c1 : (⟨#[101, 48]⟩ : ByteArray).size = 2 := rfl
          obtain ⟨y, hR, hI, hW⟩ := (HT.out _ HF.out).out
          have HR := Lib.hid hR
          have HI := Lib.hid hI
          have HW := Lib.hid hW
          clear hR hI hW HT HF
          obtain ⟨yn, yd, ye⟩ := y
          unfold dcV at HR HI HW
          dsimp only at HR HI HW
          generalize bs yd = ys at *
          go_wp2_with fail
          with_reducible refine (HR.out _).mono ?_
          rintro e w3 ⟨rfl, hb⟩
          have HB3 := Lib.hid (HB1.out.trans (hb.mono HB1.out.size))
          clear hb HB1
          go_wp2_with fail
          have HX4 : Hid (DcBlk (w3.alloc (.cells #[.bool yn, .string ys, .int .i64 ye] 23)) w3.heap.size yn ys ye) := Lib.hid (Blk.new w3 23 _)
          have HB4 : Hid (Below w.heap.size w (w3.alloc (.cells #[.bool yn, .string ys, .int .i64 ye] 23))) := Lib.hid (HB3.out.alloc HB3.out.size _)
          clear HB3
          generalize w3.alloc (.cells #[.bool yn, .string ys, .int .i64 ye] 23) = w4 at *
          generalize w3.heap.size = g at *
          with_reducible refine (HI.out _).mono ?_
          rintro e w5 ⟨rfl, hb⟩
          have HB5 := Lib.hid (HB4.out.trans (hb.mono HB4.out.size))
          have HX5 := Lib.hid (HX4.out.below hb HX4.out.lt)
          have k0 : w5.cell? ⟨g, 0, none⟩ = some (.bool yn) := HX5.out.cell 0
          have k1 : w5.cell? ⟨g, 1, none⟩ = some (.string ys) := HX5.out.cell 1
          have k2 : w5.cell? ⟨g, 2, none⟩ = some (.int .i64 ye) := HX5.out.cell 2
          have hmm2 : (m == m) = true := by simp
          clear hb HB4 HX4
          go_wp2_with fail
          with_reducible refine (HW.out _).mono ?_
          rintro e w6 ⟨rfl, hb⟩
          have HB6 := Lib.hid (HB5.out.trans (hb.mono HB5.out.size))
          clear hb HB5 HX5 k0 k1 k2
          go_wp2_with fail
          with_reducible refine (HA.out _).mono ?_
          rintro e w7 ⟨rfl, hb⟩
          have HB7 := Lib.hid (HB6.out.trans (hb.mono HB6.out.size))
          clear hb HB6
          go_wp2
          go_ret
          exact ⟨rfl, HB7.out⟩
        · have hm0' : (m != 0) = true := by simpa using hm0
          have HF : Hid (FormOf m (P ++ Z ++ ⟨#[69, 45]⟩ ++ bs (printF (j : Int)))) := Lib.hid (form_plain (z := j) HM53.out (by omega) (.inr hm0) (exp_less (n := j) (by omega)) (by
            have := dig_len (n := j) (k := 2) (by omega) (by omega)
            simp only [List.length_cons]; omega) rfl (by
            rw [L8_app, L8_app, L8_app, HLP.out, HLZ.out, L8_bs, print_nat (n := (j : Int)) (by omega)]
            change ((printF m ++ zs j) ++ [69, 45]) ++ dig j = printF m ++ (zs j ++ 69 :: 45 :: dig j)
            simp))
          have hPz : (bs (printF (j : Int))).size ≤ 20 := print_len (by omega) (by omega)
          generalize bs (printF (j : Int)) = PZ at *
          clear hm0
          have c1 : (⟨#[101, 48]⟩ : ByteArray).size = 2 := rfl
          have c2 : (⟨#[69, 45]⟩ : ByteArray).size = 2 := rfl
          go_wp2_with fail
          with_reducible refine (HPR.out _).mono ?_
          rintro e w21 ⟨rfl, hst⟩
          have HB2 := Lib.hid (HB1.out.trans ((hst.lower _).mono HB1.out.size))
          clear hst HB1
          go_wp2_with fail
          with_reducible refine (HPZ.out _).mono ?_
          rintro e w22 ⟨rfl, hst⟩
          have HB22 := Lib.hid (HB2.out.trans ((hst.lower _).mono HB2.out.size))
          clear hst HB2
          obtain ⟨y, hR, hI, hW⟩ := (HT.out _ HF.out).out
          have HR := Lib.hid hR
          have HI := Lib.hid hI
          have HW := Lib.hid hW
          clear hR hI hW HT HF
          obtain ⟨yn, yd, ye⟩ := y
          unfold dcV at HR HI HW
          dsimp only at HR HI HW
          generalize bs yd = ys at *
          go_wp2_with fail
          with_reducible refine (HR.out _).mono ?_
          rintro e w3 ⟨rfl, hb⟩
          have HB3 := Lib.hid (HB22.out.trans (hb.mono HB22.out.size))
          clear hb HB22
          go_wp2_with fail
          have HX4 : Hid (DcBlk (w3.alloc (.cells #[.bool yn, .string ys, .int .i64 ye] 23)) w3.heap.size yn ys ye) := Lib.hid (Blk.new w3 23 _)
          have HB4 : Hid (Below w.heap.size w (w3.alloc (.cells #[.bool yn, .string ys, .int .i64 ye] 23))) := Lib.hid (HB3.out.alloc HB3.out.size _)
          clear HB3
          generalize w3.alloc (.cells #[.bool yn, .string ys, .int .i64 ye] 23) = w4 at *
          generalize w3.heap.size = g at *
          with_reducible refine (HI.out _).mono ?_
          rintro e w5 ⟨rfl, hb⟩
          have HB5 := Lib.hid (HB4.out.trans (hb.mono HB4.out.size))
          have HX5 := Lib.hid (HX4.out.below hb HX4.out.lt)
          have k0 : w5.cell? ⟨g, 0, none⟩ = some (.bool yn) := HX5.out.cell 0
          have k1 : w5.cell? ⟨g, 1, none⟩ = some (.string ys) := HX5.out.cell 1
          have k2 : w5.cell? ⟨g, 2, none⟩ = some (.int .i64 ye) := HX5.out.cell 2
          have hmm2 : (m == m) = true := by simp
          clear hb HB4 HX4
          go_wp2_with fail
          with_reducible refine (HW.out _).mono ?_
          rintro e w6 ⟨rfl, hb⟩
          have HB6 := Lib.hid (HB5.out.trans (hb.mono HB5.out.size))
          clear hb HB5 HX5 k0 k1 k2
          go_wp2_with fail
          with_reducible refine (HA.out _).mono ?_
          rintro e w7 ⟨rfl, hb⟩
          have HB7 := Lib.hid (HB6.out.trans (hb.mono HB6.out.size))
          clear hb HB6
          go_wp2
          go_ret
          exact ⟨rfl, HB7.out⟩
      · by_cases hj0 : j = 0
        · have hj0' : decide ((0 : Int) < (j : Int)) = false := decide_eq_false (by omega)
          have hj0'' : decide ((j : Int) > 0) = false := decide_eq_false (by omega)
          have HF : Hid (FormOf m (P)) := Lib.hid (form_plain (z := 0) HM53.out (by omega) (.inl rfl) exp_none (by simp) rfl (by
            rw [HLP.out]
            change printF m = printF m ++ ([] ++ [])
            simp))
          obtain ⟨y, hR, hI, hW⟩ := (HT.out _ HF.out).out
          have HR := Lib.hid hR
          have HI := Lib.hid hI
          have HW := Lib.hid hW
          clear hR hI hW HT HF
          obtain ⟨yn, yd, ye⟩ := y
          unfold dcV at HR HI HW
          dsimp only at HR HI HW
          generalize bs yd = ys at *
          go_wp2_with fail
          with_reducible refine (HR.out _).mono ?_
          rintro e w3 ⟨rfl, hb⟩
          have HB3 := Lib.hid (HB1.out.trans (hb.mono HB1.out.size))
          clear hb HB1
          go_wp2_with fail
          have HX4 : Hid (DcBlk (w3.alloc (.cells #[.bool yn, .string ys, .int .i64 ye] 23)) w3.heap.size yn ys ye) := Lib.hid (Blk.new w3 23 _)
          have HB4 : Hid (Below w.heap.size w (w3.alloc (.cells #[.bool yn, .string ys, .int .i64 ye] 23))) := Lib.hid (HB3.out.alloc HB3.out.size _)
          clear HB3
          generalize w3.alloc (.cells #[.bool yn, .string ys, .int .i64 ye] 23) = w4 at *
          generalize w3.heap.size = g at *
          with_reducible refine (HI.out _).mono ?_
          rintro e w5 ⟨rfl, hb⟩
          have HB5 := Lib.hid (HB4.out.trans (hb.mono HB4.out.size))
          have HX5 := Lib.hid (HX4.out.below hb HX4.out.lt)
          have k0 : w5.cell? ⟨g, 0, none⟩ = some (.bool yn) := HX5.out.cell 0
          have k1 : w5.cell? ⟨g, 1, none⟩ = some (.string ys) := HX5.out.cell 1
          have k2 : w5.cell? ⟨g, 2, none⟩ = some (.int .i64 ye) := HX5.out.cell 2
          have hmm2 : (m == m) = true := by simp
          clear hb HB4 HX4
          go_wp2_with fail
          with_reducible refine (HW.out _).mono ?_
          rintro e w6 ⟨rfl, hb⟩
          have HB6 := Lib.hid (HB5.out.trans (hb.mono HB5.out.size))
          clear hb HB5 HX5 k0 k1 k2
          go_wp2_with fail
          with_reducible refine (HA.out _).mono ?_
          rintro e w7 ⟨rfl, hb⟩
          have HB7 := Lib.hid (HB6.out.trans (hb.mono HB6.out.size))
          clear hb HB6
          go_wp2
          go_ret
          exact ⟨rfl, HB7.out⟩
        · have hj0' : decide ((0 : Int) < (j : Int)) = true := decide_eq_true (by omega)
          have hj0'' : decide ((j : Int) > 0) = true := decide_eq_true (by omega)
          have HF : Hid (FormOf m (P ++ ⟨#[46]⟩ ++ Z ++ ⟨#[101, 43, 48]⟩)) := Lib.hid (form_point (z := j) HM53.out (by omega) (by omega) exp_plus0 (by simp) rfl (by
            rw [L8_app, L8_app, L8_app, HLP.out, HLZ.out]
            change ((printF m ++ [46]) ++ zs j) ++ [101, 43, 48] = printF m ++ (46 :: zs j ++ [101, 43, 48])
            simp))
          have c1 : (⟨#[101, 43, 48]⟩ : ByteArray).size = 3 := rfl
          have c2 : (⟨#[46]⟩ : ByteArray).size = 1 := rfl
          obtain ⟨y, hR, hI, hW⟩ := (HT.out _ HF.out).out
          have HR := Lib.hid hR
          have HI := Lib.hid hI
          have HW := Lib.hid hW
          clear hR hI hW HT HF
          obtain ⟨yn, yd, ye⟩ := y
          unfold dcV at HR HI HW
          dsimp only at HR HI HW
          generalize bs yd = ys at *
          go_wp2_with fail
          with_reducible refine (HR.out _).mono ?_
          rintro e w3 ⟨rfl, hb⟩
          have HB3 := Lib.hid (HB1.out.trans (hb.mono HB1.out.size))
          clear hb HB1
          go_wp2_with fail
          have HX4 : Hid (DcBlk (w3.alloc (.cells #[.bool yn, .string ys, .int .i64 ye] 23)) w3.heap.size yn ys ye) := Lib.hid (Blk.new w3 23 _)
          have HB4 : Hid (Below w.heap.size w (w3.alloc (.cells #[.bool yn, .string ys, .int .i64 ye] 23))) := Lib.hid (HB3.out.alloc HB3.out.size _)
          clear HB3
          generalize w3.alloc (.cells #[.bool yn, .string ys, .int .i64 ye] 23) = w4 at *
          generalize w3.heap.size = g at *
          with_reducible refine (HI.out _).mono ?_
          rintro e w5 ⟨rfl, hb⟩
          have HB5 := Lib.hid (HB4.out.trans (hb.mono HB4.out.size))
          have HX5 := Lib.hid (HX4.out.below hb HX4.out.lt)
          have k0 : w5.cell? ⟨g, 0, none⟩ = some (.bool yn) := HX5.out.cell 0
          have k1 : w5.cell? ⟨g, 1, none⟩ = some (.string ys) := HX5.out.cell 1
          have k2 : w5.cell? ⟨g, 2, none⟩ = some (.int .i64 ye) := HX5.out.cell 2
          have hmm2 : (m == m) = true := by simp
          clear hb HB4 HX4
          go_wp2_with fail
          with_reducible refine (HW.out _).mono ?_
          rintro e w6 ⟨rfl, hb⟩
          have HB6 := Lib.hid (HB5.out.trans (hb.mono HB5.out.size))
          clear hb HB5 HX5 k0 k1 k2
          go_wp2_with fail
          with_reducible refine (HA.out _).mono ?_
          rintro e w7 ⟨rfl, hb⟩
          have HB7 := Lib.hid (HB6.out.trans (hb.mono HB6.out.size))
          clear hb HB6
          go_wp2
          go_ret
          exact ⟨rfl, HB7.out⟩
      · by_cases hm0 : 0 < m
        · have hm0' : decide (0 < m) = true := decide_eq_true hm0
          by_cases hj0 : j = 0
          · have hj0' : decide ((0 : Int) < (j : Int)) = false := decide_eq_false (by omega)
            have HF : Hid (FormOf m (P)) := Lib.hid (form_plain (z := 0) HM53.out (by omega) (.inl rfl) exp_none (by simp) rfl (by
              rw [HLP.out]
              change printF m = printF m ++ ([] ++ [])
              simp))
            obtain ⟨y, hR, hI, hW⟩ := (HT.out _ HF.out).out
            have HR := Lib.hid hR
            have HI := Lib.hid hI
            have HW := Lib.hid hW
            clear hR hI hW HT HF
            obtain ⟨yn, yd, ye⟩ := y
            unfold dcV at HR HI HW
            dsimp only at HR HI HW
            generalize bs yd = ys at *
            go_wp2_with fail
            with_reducible refine (HR.out _).mono ?_
            rintro e w3 ⟨rfl, hb⟩
            have HB3 := Lib.hid (HB1.out.trans (hb.mono HB1.out.size))
            clear hb HB1
            go_wp2_with fail
            have HX4 : Hid (DcBlk (w3.alloc (.cells #[.bool yn, .string ys, .int .i64 ye] 23)) w3.heap.size yn ys ye) := Lib.hid (Blk.new w3 23 _)
            have HB4 : Hid (Below w.heap.size w (w3.alloc (.cells #[.bool yn, .string ys, .int .i64 ye] 23))) := Lib.hid (HB3.out.alloc HB3.out.size _)
            clear HB3
            generalize w3.alloc (.cells #[.bool yn, .string ys, .int .i64 ye] 23) = w4 at *
            generalize w3.heap.size = g at *
            with_reducible refine (HI.out _).mono ?_
            rintro e w5 ⟨rfl, hb⟩
            have HB5 := Lib.hid (HB4.out.trans (hb.mono HB4.out.size))
            have HX5 := Lib.hid (HX4.out.below hb HX4.out.lt)
            have k0 : w5.cell? ⟨g, 0, none⟩ = some (.bool yn) := HX5.out.cell 0
            have k1 : w5.cell? ⟨g, 1, none⟩ = some (.string ys) := HX5.out.cell 1
            have k2 : w5.cell? ⟨g, 2, none⟩ = some (.int .i64 ye) := HX5.out.cell 2
            have hmm2 : (m == m) = true := by simp
            clear hb HB4 HX4
            go_wp2_with fail
            with_reducible refine (HW.out _).mono ?_
            rintro e w6 ⟨rfl, hb⟩
            have HB6 := Lib.hid (HB5.out.trans (hb.mono HB5.out.size))
            clear hb HB5 HX5 k0 k1 k2
            go_wp2_with fail
            with_reducible refine (HA.out _).mono ?_
            rintro e w7 ⟨rfl, hb⟩
            have HB7 := Lib.hid (HB6.out.trans (hb.mono HB6.out.size))
            clear hb HB6
            go_wp2
            go_ret
            exact ⟨rfl, HB7.out⟩
          · have hj0' : decide ((0 : Int) < (j : Int)) = true := decide_eq_true (by omega)
            obtain ⟨i, rfl⟩ : ∃ i, j = i + 1 := ⟨j - 1, by omega⟩
            obtain ⟨D, hD⟩ : ∃ D, Z.extract 1 Z.size = D := ⟨_, rfl⟩
            have HLD : Hid (L8 D = zs i) := Lib.hid (by
              rw [← hD, L8_cut, HLZ.out]
              have e : Z.size - 1 = i := by omega
              have e2 : (zs (i + 1)).drop 1 = zs i := rfl
              rw [e, e2, List.take_of_length_le (by rw [zs_len]; omega)])
            have hDs : D.size ≤ 40 := by rw [L8_size HLD.out, zs_len]; omega
            have hPl : Hid (P.size = (dig m.natAbs).length) := Lib.hid (by rw [L8_size HLP.out, print_nat (n := m) (by omega)])
            have HPX := Lib.hid (fun W => rprint_any ((i : Int) + P.size) (by omega) (by omega) W)
            have hXs : (bs (printF ((i : Int) + P.size))).size ≤ 20 := print_len (by omega) (by omega)
            have HF : Hid (FormOf m (⟨#[48, 46]⟩ ++ D ++ P ++ ⟨#[101]⟩ ++ bs (printF ((i : Int) + P.size)))) := Lib.hid (form_front (z := i) HM53.out (by omega) hm0 (by
              have e : ((i : Int) + P.size).natAbs = i + (dig m.natAbs).length := by have := hPl.out; omega
              rw [L8_app, L8_app, L8_app, L8_app, HLP.out, HLD.out, L8_bs, print_nat (n := (i : Int) + P.size) (by omega), print_nat (n := m) (by omega), e]
              change ((([48, 46] ++ zs i) ++ dig m.natAbs) ++ [101]) ++ dig (i + (dig m.natAbs).length) = _
              simp))
            generalize bs (printF ((i : Int) + P.size)) = X at *
            have hw1 : IntKind.i64.wrap (((i + 1 : Nat) : Int) - 1) = (i : Int) := by rw [IntWalk.i64_in _ (by omega)]; omega
            have hw2 : IntKind.i64.wrap ((i : Int) + P.size) = (i : Int) + P.size := IntWalk.i64_in _ (by omega)
            have c1 : (⟨#[48, 46]⟩ : ByteArray).size = 2 := rfl
            have c2 : (⟨#[101]⟩ : ByteArray).size = 1 := rfl
            have hsl : ∀ W, (Instr.slice 9 (.string Z) (some (.int .i64 1)) none none).run Tryd.prog W = .ok (.string D) W := fun W => by
              have hz1 : ¬ (Z.size : Int) < 1 := by omega
              rw [← hD]
              go_simp
            clear hD hm0 hj0 HPL HPZ
            go_wp2_with fail
            go_quiet ((go_at_call 14; with_reducible exact quiet_still (HPX.out _)))
            have HBq := Lib.hid (below_drewN' HB1.out nq)
            clear HB1
            generalize w1.drewN nq = w2 at *
            obtain ⟨y, hR, hI, hW⟩ := (HT.out _ HF.out).out
            have HR := Lib.hid hR
            have HI := Lib.hid hI
            have HW := Lib.hid hW
            clear hR hI hW HT HF
            obtain ⟨yn, yd, ye⟩ := y
            unfold dcV at HR HI HW
            dsimp only at HR HI HW
            generalize bs yd = ys at *
            go_wp2_with fail
            with_reducible refine (HR.out _).mono ?_
            rintro e w3 ⟨rfl, hb⟩
            have HB3 := Lib.hid (HBq.out.trans (hb.mono HBq.out.size))
            clear hb HBq
            go_wp2_with fail
            have HX4 : Hid (DcBlk (w3.alloc (.cells #[.bool yn, .string ys, .int .i64 ye] 23)) w3.heap.size yn ys ye) := Lib.hid (Blk.new w3 23 _)
            have HB4 : Hid (Below w.heap.size w (w3.alloc (.cells #[.bool yn, .string ys, .int .i64 ye] 23))) := Lib.hid (HB3.out.alloc HB3.out.size _)
            clear HB3
            generalize w3.alloc (.cells #[.bool yn, .string ys, .int .i64 ye] 23) = w4 at *
            generalize w3.heap.size = g at *
            with_reducible refine (HI.out _).mono ?_
            rintro e w5 ⟨rfl, hb⟩
            have HB5 := Lib.hid (HB4.out.trans (hb.mono HB4.out.size))
            have HX5 := Lib.hid (HX4.out.below hb HX4.out.lt)
            have k0 : w5.cell? ⟨g, 0, none⟩ = some (.bool yn) := HX5.out.cell 0
            have k1 : w5.cell? ⟨g, 1, none⟩ = some (.string ys) := HX5.out.cell 1
            have k2 : w5.cell? ⟨g, 2, none⟩ = some (.int .i64 ye) := HX5.out.cell 2
            have hmm2 : (m == m) = true := by simp
            clear hb HB4 HX4
            go_wp2_with fail
            with_reducible refine (HW.out _).mono ?_
            rintro e w6 ⟨rfl, hb⟩
            have HB6 := Lib.hid (HB5.out.trans (hb.mono HB5.out.size))
            clear hb HB5 HX5 k0 k1 k2
            go_wp2_with fail
            with_reducible refine (HA.out _).mono ?_
            rintro e w7 ⟨rfl, hb⟩
            have HB7 := Lib.hid (HB6.out.trans (hb.mono HB6.out.size))
            clear hb HB6
            go_wp2
            go_ret
            exact ⟨rfl, HB7.out⟩
        · have hm0' : decide (0 < m) = false := decide_eq_false hm0
          have HF : Hid (FormOf m (P)) := Lib.hid (form_plain (z := 0) HM53.out (by omega) (.inl rfl) exp_none (by simp) rfl (by
            rw [HLP.out]
            change printF m = printF m ++ ([] ++ [])
            simp))
          obtain ⟨y, hR, hI, hW⟩ := (HT.out _ HF.out).out
          have HR := Lib.hid hR
          have HI := Lib.hid hI
          have HW := Lib.hid hW
          clear hR hI hW HT HF
          obtain ⟨yn, yd, ye⟩ := y
          unfold dcV at HR HI HW
          dsimp only at HR HI HW
          generalize bs yd = ys at *
          go_wp2_with fail
          with_reducible refine (HR.out _).mono ?_
          rintro e w3 ⟨rfl, hb⟩
          have HB3 := Lib.hid (HB1.out.trans (hb.mono HB1.out.size))
          clear hb HB1
          go_wp2_with fail
          have HX4 : Hid (DcBlk (w3.alloc (.cells #[.bool yn, .string ys, .int .i64 ye] 23)) w3.heap.size yn ys ye) := Lib.hid (Blk.new w3 23 _)
          have HB4 : Hid (Below w.heap.size w (w3.alloc (.cells #[.bool yn, .string ys, .int .i64 ye] 23))) := Lib.hid (HB3.out.alloc HB3.out.size _)
          clear HB3
          generalize w3.alloc (.cells #[.bool yn, .string ys, .int .i64 ye] 23) = w4 at *
          generalize w3.heap.size = g at *
          with_reducible refine (HI.out _).mono ?_
          rintro e w5 ⟨rfl, hb⟩
          have HB5 := Lib.hid (HB4.out.trans (hb.mono HB4.out.size))
          have HX5 := Lib.hid (HX4.out.below hb HX4.out.lt)
          have k0 : w5.cell? ⟨g, 0, none⟩ = some (.bool yn) := HX5.out.cell 0
          have k1 : w5.cell? ⟨g, 1, none⟩ = some (.string ys) := HX5.out.cell 1
          have k2 : w5.cell? ⟨g, 2, none⟩ = some (.int .i64 ye) := HX5.out.cell 2
          have hmm2 : (m == m) = true := by simp
          clear hb HB4 HX4
          go_wp2_with fail
          with_reducible refine (HW.out _).mono ?_
          rintro e w6 ⟨rfl, hb⟩
          have HB6 := Lib.hid (HB5.out.trans (hb.mono HB5.out.size))
          clear hb HB5 HX5 k0 k1 k2
          go_wp2_with fail
          with_reducible refine (HA.out _).mono ?_
          rintro e w7 ⟨rfl, hb⟩
          have HB7 := Lib.hid (HB6.out.trans (hb.mono HB6.out.size))
          clear hb HB6
          go_wp2
          go_ret
          exact ⟨rfl, HB7.out⟩
end Go.Proofs.YtadbnajodpfpgaaDoor
