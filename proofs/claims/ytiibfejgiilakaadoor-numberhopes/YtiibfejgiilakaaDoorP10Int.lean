/- The program's Whole, amountOf, Int by their contracts. -/
import Derived.Test.YtiibfejgiilakaaDoorP10Norm
import Derived.Test.YtiibfejgiilakaaDoorG10Int
namespace Go.Proofs.YtiibfejgiilakaaDoor
set_option maxRecDepth 100000
open Go.ChangeShapes Go.WideShapes Go.ChangeAt Go.RowKit
set_option linter.unusedVariables false
set_option linter.unusedSimpArgs false

set_option maxHeartbeats 1000000 in
theorem whole_any (x : Dc) (w : World) (hx : x.d.length ≤ 1000000) (he0 : -4000000000 ≤ x.e) (he1 : x.e ≤ 4000000000) : Calls Tryd.prog 21 #[dcV x] w fun e w' => e = .returned (.bool (wholeF x)) ∧ Below w.heap.size w w' := by
  have HN := Lib.hid (fun W => norm_any x W hx he0 he1)
  have HW : Hid (wholeF x = decide (0 ≤ (normF x).e)) := Lib.hid rfl
  have hfe := fun w => field_e w (normF x)
  generalize normF x = y at *
  generalize wholeF x = b at *
  have hb : b = decide (0 ≤ y.e) := HW.out
  subst hb
  clear HW
  obtain ⟨n, d, e⟩ := x
  unfold dcV at HN ⊢
  dsimp only at *
  go_enter Tryd.func21, Tryd.ntmps21
  go_wp2_with fail
  with_reducible refine (HN.out _).mono ?_
  rintro e1 w1 ⟨rfl, hb1⟩
  unfold dcV at hfe
  have HB : Hid (Below w.heap.size w w1) := Lib.hid (((Below.refl _ w).alloc (Nat.le_refl _) (.cells #[.bool n, .string (bs d), .int .i64 e] 52)).trans (hb1.mono (by rw [World.size_alloc]; omega)))
  clear hb1
  go_wp2
  go_ret
  exact ⟨rfl, HB.out⟩

set_option maxHeartbeats 2000000 in
theorem amountOf_any (n : Bool) (s : ByteArray) (E : Nat) (w : World) (hd : allD (L8 s)) (hsm : s.size + E ≤ 16) : Calls Tryd.prog 43 #[.agg #[.bool n, .string s, .int .i64 E]] w fun e w' => e = .returned (.int .i64 ((num (L8 s) * 10 ^ E : Nat) : Int)) ∧ Below w.heap.size w w' := by
  have HD := Lib.hid hd
  clear hd
  generalize hr : num (L8 s) * 10 ^ E = r
  have HR := Lib.hid hr
  clear hr
  have HB1 : Hid (Below w.heap.size w (w.alloc (.cells #[.bool n, .string s, .int .i64 E] 52))) := Lib.hid ((Below.refl _ _).alloc (Nat.le_refl _) _)
  have HX : Hid (DcBlk (w.alloc (.cells #[.bool n, .string s, .int .i64 E] 52)) w.heap.size n s E) := Lib.hid (Blk.new w 52 _)
  go_enter Tryd.func43, Tryd.ntmps43
  go_wp2_with fail
  have hc1 : (w.alloc (.cells #[.bool n, .string s, .int .i64 E] 52)).cell? ⟨w.heap.size, 1, none⟩ = some (.string s) := HX.out.cell 1
  have hc2 : (w.alloc (.cells #[.bool n, .string s, .int .i64 E] 52)).cell? ⟨w.heap.size, 2, none⟩ = some (.int .i64 E) := HX.out.cell 2
  generalize w.alloc (.cells #[.bool n, .string s, .int .i64 E] 52) = w2 at *
  generalize hps : w.heap.size = p at *
  have HPS := Lib.hid hps
  clear hps
  go_loop [3, 8] (fun v i => ∃ k : Nat, k ≤ s.size ∧ i = .int .i64 k ∧ v = .int .i64 (num ((L8 s).take k) : Int)) (fun _ i => s.size - (intOf i).toNat)
  case atStart => exact ⟨0, by omega, rfl, rfl⟩
  case round =>
    obtain ⟨k, hk, rfl, rfl⟩ := hrel
    have hal : allD ((L8 s).take k) := fun c hc => HD.out c (List.mem_of_mem_take hc)
    by_cases hlt : k < s.size
    · have hlt' : (k : Int) < s.size := by omega
      have hcap := num_cap hal (k := 15) (m := 0) (by rw [List.length_take, L8_len]; omega)
      rw [Nat.pow_zero, Nat.mul_one] at hcap
      have hcap : num ((L8 s).take k) < 1000000000000000 := hcap
      have HT : Hid (num ((L8 s).take (k + 1)) = 10 * num ((L8 s).take k) + dv s[k]) := Lib.hid (by rw [L8_take s k hlt, num_snoc])
      have hdg := isD_lo.1 (HD.out s[k] (List.mem_of_getElem? (L8_at s k hlt)))
      obtain ⟨hd1, hd2⟩ := hdg
      clear hal
      generalize num ((L8 s).take k) = N at *
      go_wp2
      go_round
      case rel => exact ⟨k + 1, by omega, by go_num, by rw [HT.out]; unfold dv; exact congrArg _ (by omega)⟩
      case measure => simp [intOf]; omega
    · have hlt' : ¬ (k : Int) < s.size := by omega
      have hkk : (L8 s).take k = L8 s := List.take_of_length_le (by rw [L8_len]; omega)
      rw [hkk]
      clear hkk hal
      go_wp2_with fail
      go_loop [3, 23] (fun v i => ∃ j : Nat, j ≤ E ∧ i = .int .i64 j ∧ v = .int .i64 ((num (L8 s) * 10 ^ j : Nat) : Int)) (fun _ i => E - (intOf i).toNat)
      case atStart => exact ⟨0, by omega, rfl, by rw [Nat.pow_zero, Nat.mul_one]⟩
      case round =>
        obtain ⟨j, hj, rfl, rfl⟩ := hrel
        by_cases hlj : j < E
        · have hlj' : (j : Int) < E := by omega
          have hcap := num_cap HD.out (k := 15 - j) (m := j) (by rw [L8_len]; omega)
          have e15 : 15 - j + j = 15 := by omega
          rw [e15] at hcap
          have hcap : num (L8 s) * 10 ^ j < 1000000000000000 := hcap
          have HT : Hid (num (L8 s) * 10 ^ (j + 1) = 10 * (num (L8 s) * 10 ^ j)) := Lib.hid (by rw [Nat.pow_succ, ← Nat.mul_assoc, Nat.mul_comm 10])
          generalize num (L8 s) * 10 ^ j = N at *
          go_wp2
          go_round
          case rel => exact ⟨j + 1, by omega, by go_num, by rw [HT.out]; exact congrArg _ (by omega)⟩
          case measure => simp [intOf]; omega
        · have hlj' : ¬ (j : Int) < E := by omega
          obtain rfl : j = E := by omega
          rw [HR.out]
          clear HR
          go_wp2
          go_ret
          exact ⟨rfl, by rw [HPS.out]; exact HB1.out⟩

set_option maxHeartbeats 4000000 in
theorem int_any (x : Dc) (w : World) (hd : allD x.d) (hx : x.d.length ≤ 1000000) (he0 : -4000000000 ≤ x.e) (he1 : x.e ≤ 4000000000) : Calls Tryd.prog 29 #[dcV x] w fun e w' => e = .returned (.tuple #[.int .i64 (intF x).1, .int .i64 (intF x).2]) ∧ Below w.heap.size w w' := by
  have HN := Lib.hid (fun W => norm_any x W hx he0 he1)
  have HI : Hid (intF x = _) := Lib.hid (intF.eq_1 x)
  have HD := Lib.hid (norm_allD hd)
  have hlen := norm_len x
  have hne := norm_e x
  generalize intF x = r at *
  generalize normF x = y at *
  clear hd
  obtain ⟨n0, d0, e0⟩ := x
  obtain ⟨n, d, e⟩ := y
  obtain ⟨r1, r2⟩ := r
  unfold dcV at HN ⊢
  dsimp only at *
  obtain ⟨s, rfl⟩ : ∃ s, d = L8 s := ⟨bs d, rfl⟩
  rw [bs_L8] at HN
  rw [L8_len] at hlen HI
  obtain ⟨hne0, hne1⟩ := hne
  have he2 : -5000000000 ≤ e := by omega
  have he3 : e ≤ 5000000000 := by omega
  clear hne0 hne1
  go_enter Tryd.func29, Tryd.ntmps29
  go_wp2_with fail
  with_reducible refine (HN.out _).mono ?_
  rintro e1 w1 ⟨rfl, hb1⟩
  have HD0 : Hid (DcBlk w1 w.heap.size n0 (bs d0) e0) := Lib.hid ((Blk.new w 52 _).below hb1 (by rw [World.size_alloc]; omega))
  have HB0 : Hid (Below w.heap.size w w1) := Lib.hid (((Below.refl _ w).alloc (Nat.le_refl _) (.cells #[.bool n0, .string (bs d0), .int .i64 e0] 52)).trans (hb1.mono (by rw [World.size_alloc]; omega)))
  have hz0 : w1.cell? ⟨w.heap.size, 0, none⟩ = some (.bool n0) := HD0.out.cell 0
  have hz1 : w1.cell? ⟨w.heap.size, 1, none⟩ = some (.string (bs d0)) := HD0.out.cell 1
  have hz2 : w1.cell? ⟨w.heap.size, 2, none⟩ = some (.int .i64 e0) := HD0.out.cell 2
  have hf0 : w1.frozen? ⟨w.heap.size, 0, none⟩ = false := HD0.out.frozen 0
  have hf1 : w1.frozen? ⟨w.heap.size, 1, none⟩ = false := HD0.out.frozen 1
  have hf2 : w1.frozen? ⟨w.heap.size, 2, none⟩ = false := HD0.out.frozen 2
  have hpl : w.heap.size < w1.heap.size := HD0.out.lt
  have HX : Hid (DcBlk (((w1.setCell ⟨w.heap.size, 0, none⟩ (.bool n)).setCell ⟨w.heap.size, 1, none⟩ (.string s)).setCell ⟨w.heap.size, 2, none⟩ (.int .i64 e)) w.heap.size n s e) := Lib.hid (((HD0.out.set' 0 _ rfl).set' 1 _ rfl).set' 2 _ rfl)
  have HB1 : Hid (Below w.heap.size w (((w1.setCell ⟨w.heap.size, 0, none⟩ (.bool n)).setCell ⟨w.heap.size, 1, none⟩ (.string s)).setCell ⟨w.heap.size, 2, none⟩ (.int .i64 e))) := Lib.hid (((HB0.out.setCell (by simp) _).setCell (by simp) _).setCell (by simp) _)
  clear hb1 HN HB0 HD0
  by_cases hneg : e < 0
  · have hr : (r1, r2) = ((0 : Int), errFraction) := by rw [HI.out, if_pos hneg]
    obtain ⟨rfl, rfl⟩ := Prod.mk.inj hr
    clear HI hr
    go_wp2
    go_ret2
    exact ⟨rfl, HB1.out⟩
  obtain ⟨E, rfl⟩ : ∃ E : Nat, e = E := ⟨e.toNat, by omega⟩
  by_cases hbig : 16 < (s.size : Int) + (E : Int)
  · have hr : (r1, r2) = ((0 : Int), errRange) := by rw [HI.out, if_neg hneg, if_pos hbig]
    obtain ⟨rfl, rfl⟩ := Prod.mk.inj hr
    have hgt : (16 : Int) - s.size < E := by omega
    clear HI hr
    go_wp2
    go_ret2
    exact ⟨rfl, HB1.out⟩
  rw [if_neg hneg, if_neg hbig] at HI
  have hET : ((E : Int)).toNat = E := by omega
  rw [hET] at HI
  clear hET
  have hsm : s.size + E ≤ 16 := by omega
  have hgt : ¬ (16 : Int) - s.size < E := by omega
  have HA := Lib.hid (fun W => amountOf_any n s E W HD.out hsm)
  have hcap := num_cap HD.out (k := 16 - E) (m := E) (by rw [L8_len]; omega)
  have e15 : 16 - E + E = 16 := by omega
  rw [e15] at hcap
  have hcap : num (L8 s) * 10 ^ E < 10000000000000000 := hcap
  clear e15
  generalize num (L8 s) * 10 ^ E = N at *
  have hx0 := HX.out.cell 0
  have hx1 := HX.out.cell 1
  have hx2 := HX.out.cell 2
  go_wp2_with fail
  with_reducible refine (HA.out _).mono ?_
  rintro e1 w3 ⟨rfl, hb3⟩
  have HB3 := Lib.hid (HB1.out.trans (hb3.mono HB1.out.size))
  have HX3 := Lib.hid (HX.out.below hb3 HX.out.lt)
  have hc0 : w3.cell? ⟨w.heap.size, 0, none⟩ = some (.bool n) := HX3.out.cell 0
  clear hb3 HB1 HX hx0 hx1 hx2 hz0 hz1 hz2 hf0 hf1 hf2
  by_cases hm : maxW < N
  · have hm' : (9007199254740991 : Int) < (N : Int) := by unfold maxW at hm; omega
    have hr : (r1, r2) = ((0 : Int), errRange) := by rw [HI.out, if_pos hm]
    obtain ⟨rfl, rfl⟩ := Prod.mk.inj hr
    clear HI hr hm
    go_wp2
    go_ret2
    exact ⟨rfl, HB3.out⟩
  · have hm' : ¬ (9007199254740991 : Int) < (N : Int) := by unfold maxW at hm; omega
    rw [if_neg hm] at HI
    clear hm
    cases n with
    | true =>
      have hr : (r1, r2) = (-(N : Int), (0 : Int)) := HI.out
      obtain ⟨rfl, rfl⟩ := Prod.mk.inj hr
      clear HI hr
      go_wp2
      go_ret2
      exact ⟨rfl, HB3.out⟩
    | false =>
      have hr : (r1, r2) = ((N : Int), (0 : Int)) := HI.out
      obtain ⟨rfl, rfl⟩ := Prod.mk.inj hr
      clear HI hr
      go_wp2
      go_ret2
      exact ⟨rfl, HB3.out⟩
end Go.Proofs.YtiibfejgiilakaaDoor
