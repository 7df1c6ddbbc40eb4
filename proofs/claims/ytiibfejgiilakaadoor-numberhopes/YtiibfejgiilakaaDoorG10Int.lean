/- The document's Int of layer 10 by its contract. -/
import Derived.Test.YtiibfejgiilakaaDoorG10Run
namespace Go.Proofs.YtiibfejgiilakaaDoor
set_option maxRecDepth 100000
open Go.ChangeShapes Go.WideShapes Go.ChangeAt Go.RowKit
set_option linter.unusedVariables false
set_option linter.unusedSimpArgs false

theorem num_cap {l : List UInt8} (h : allD l) {k m : Nat} (hk : l.length ≤ k) : num l * 10 ^ m < 10 ^ (k + m) := by
  have h1 := num_lt h
  have h2 : 10 ^ l.length ≤ 10 ^ k := Nat.pow_le_pow_right (by omega) hk
  rw [Nat.pow_add]
  exact Nat.mul_lt_mul_of_pos_right (by omega) (Nat.pow_pos (by omega))
theorem norm_allD {x : Dc} (h : allD x.d) : allD (normF x).d := by
  rcases norm_cases x with ⟨e, _⟩ | ⟨_, _, _, _, _, hm, _⟩
  · rw [e]; intro c hc; cases hc
  · exact fun c hc => h c (hm c hc)
theorem norm_len (x : Dc) : (normF x).d.length ≤ x.d.length := by
  rcases norm_cases x with ⟨e, _⟩ | ⟨_, _, _, _, _, _, h⟩
  · rw [e]; simp [zeroD]
  · exact h
theorem norm_e (x : Dc) : (min x.e 0 ≤ (normF x).e) ∧ (normF x).e ≤ max (x.e + x.d.length) 0 := by
  rcases norm_cases x with ⟨e, _⟩ | ⟨_, _, h1, h2, _⟩
  · rw [e]; simp [zeroD]; omega
  · omega

set_option maxHeartbeats 4000000 in
theorem rint_any (x : Dc) (w : World) (hd : allD x.d) (hx : x.d.length ≤ 1000000) (he0 : -4000000000 ≤ x.e) (he1 : x.e ≤ 4000000000) : Calls Tryd.prog 30 #[dcV x] w fun e w' => e = .returned (.tuple #[.int .i64 (intF x).1, .int .i64 (intF x).2]) ∧ Below w.heap.size w w' := by
  have HN := Lib.hid (fun W => rnorm_any x W hx he0 he1)
  have HI : Hid (intF x = _) := Lib.hid (intF.eq_1 x)
  have HD := Lib.hid (norm_allD hd)
  have hlen := norm_len x
  have hne := norm_e x
  generalize intF x = r at *
  generalize normF x = y at *
  clear hd
  obtain ⟨n0, d0, e0⟩ := x
  obtain ⟨n, d, e⟩ := y
  obtain ⟨r1, r2⟩ := r
  unfold dcV at HN ⊢
  dsimp only at *
  obtain ⟨s, rfl⟩ : ∃ s, d = L8 s := ⟨bs d, rfl⟩
  rw [bs_L8] at HN
  rw [L8_len] at hlen HI
  obtain ⟨hne0, hne1⟩ := hne
  have he2 : -5000000000 ≤ e := by omega
  have he3 : e ≤ 5000000000 := by omega
  clear hne0 hne1
  go_enter Tryd.func30, Tryd.ntmps30
  go_wp2_with fail
  with_reducible refine (HN.out _).mono ?_
  rintro e1 w1 ⟨rfl, hb1⟩
  have HB1 : Hid (Below w.heap.size w (w1.alloc (.cells #[.bool n, .string s, .int .i64 e] 52))) := Lib.hid ((((Below.refl _ w).alloc (Nat.le_refl _) (.cells #[.bool n0, .string (bs d0), .int .i64 e0] 52)).trans (hb1.mono (by rw [World.size_alloc]; omega))).alloc (by have := hb1.size; rw [World.size_alloc] at this; omega) _)
  have HX : Hid (DcBlk (w1.alloc (.cells #[.bool n, .string s, .int .i64 e] 52)) w1.heap.size n s e) := Lib.hid (Blk.new w1 52 _)
  have hpz := HX.out.lt
  clear hb1 HN
  by_cases hneg : e < 0
  · have hr : (r1, r2) = ((0 : Int), errFraction) := by rw [HI.out, if_pos hneg]
    obtain ⟨rfl, rfl⟩ := Prod.mk.inj hr
    clear HI hr
    go_wp2
    go_ret2
    exact ⟨rfl, HB1.out⟩
  obtain ⟨E, rfl⟩ : ∃ E : Nat, e = E := ⟨e.toNat, by omega⟩
  by_cases hbig : 16 < (s.size : Int) + (E : Int)
  · have hr : (r1, r2) = ((0 : Int), errRange) := by rw [HI.out, if_neg hneg, if_pos hbig]
    obtain ⟨rfl, rfl⟩ := Prod.mk.inj hr
    clear HI hr
    go_wp2
    go_ret2
    exact ⟨rfl, HB1.out⟩
  rw [if_neg hneg, if_neg hbig] at HI
  have hET : ((E : Int)).toNat = E := by omega
  rw [hET] at HI
  clear hET
  have hsm : s.size + E ≤ 16 := by omega
  go_wp2_with fail
  have hc1 : (w1.alloc (.cells #[.bool n, .string s, .int .i64 E] 52)).cell? ⟨w1.heap.size, 1, none⟩ = some (.string s) := HX.out.cell 1
  have hc2 : (w1.alloc (.cells #[.bool n, .string s, .int .i64 E] 52)).cell? ⟨w1.heap.size, 2, none⟩ = some (.int .i64 E) := HX.out.cell 2
  have hc0 : (w1.alloc (.cells #[.bool n, .string s, .int .i64 E] 52)).cell? ⟨w1.heap.size, 0, none⟩ = some (.bool n) := HX.out.cell 0
  generalize w1.alloc (.cells #[.bool n, .string s, .int .i64 E] 52) = w2 at *
  generalize w1.heap.size = p at *
  go_loop [5, 6] (fun v i => ∃ k : Nat, k ≤ s.size ∧ i = .int .i64 k ∧ v = .int .i64 (num ((L8 s).take k) : Int)) (fun _ i => s.size - (intOf i).toNat)
  case atStart => exact ⟨0, by omega, rfl, rfl⟩
  case round =>
    obtain ⟨k, hk, rfl, rfl⟩ := hrel
    have hal : allD ((L8 s).take k) := fun c hc => HD.out c (List.mem_of_mem_take hc)
    by_cases hlt : k < s.size
    · have hlt' : (k : Int) < s.size := by omega
      have hcap := num_cap hal (k := 15) (m := 0) (by rw [List.length_take, L8_len]; omega)
      rw [Nat.pow_zero, Nat.mul_one] at hcap
      have hcap : num ((L8 s).take k) < 1000000000000000 := hcap
      have HT : Hid (num ((L8 s).take (k + 1)) = 10 * num ((L8 s).take k) + dv s[k]) := Lib.hid (by rw [L8_take s k hlt, num_snoc])
      have hdg := isD_lo.1 (HD.out s[k] (List.mem_of_getElem? (L8_at s k hlt)))
      obtain ⟨hd1, hd2⟩ := hdg
      clear hal
      generalize num ((L8 s).take k) = N at *
      go_wp2
      go_round
      case rel => exact ⟨k + 1, by omega, by go_num, by rw [HT.out]; unfold dv; exact congrArg _ (by omega)⟩
      case measure => simp [intOf]; omega
    · have hlt' : ¬ (k : Int) < s.size := by omega
      have hkk : (L8 s).take k = L8 s := List.take_of_length_le (by rw [L8_len]; omega)
      rw [hkk]
      clear hkk hal
      go_wp2_with fail
      go_loop [5, 7] (fun v i => ∃ j : Nat, j ≤ E ∧ i = .int .i64 j ∧ v = .int .i64 ((num (L8 s) * 10 ^ j : Nat) : Int)) (fun _ i => E - (intOf i).toNat)
      case atStart => exact ⟨0, by omega, rfl, by rw [Nat.pow_zero, Nat.mul_one]⟩
      case round =>
        obtain ⟨j, hj, rfl, rfl⟩ := hrel
        by_cases hlj : j < E
        · have hlj' : (j : Int) < E := by omega
          have hcap := num_cap HD.out (k := 15 - j) (m := j) (by rw [L8_len]; omega)
          have e15 : 15 - j + j = 15 := by omega
          rw [e15] at hcap
          have hcap : num (L8 s) * 10 ^ j < 1000000000000000 := hcap
          have HT : Hid (num (L8 s) * 10 ^ (j + 1) = 10 * (num (L8 s) * 10 ^ j)) := Lib.hid (by rw [Nat.pow_succ, ← Nat.mul_assoc, Nat.mul_comm 10])
          generalize num (L8 s) * 10 ^ j = N at *
          go_wp2
          go_round
          case rel => exact ⟨j + 1, by omega, by go_num, by rw [HT.out]; exact congrArg _ (by omega)⟩
          case measure => simp [intOf]; omega
        · have hlj' : ¬ (j : Int) < E := by omega
          obtain rfl : j = E := by omega
          have hcap := num_cap HD.out (k := 16 - j) (m := j) (by rw [L8_len]; omega)
          have e15 : 16 - j + j = 16 := by omega
          rw [e15] at hcap
          have hcap : num (L8 s) * 10 ^ j < 10000000000000000 := hcap
          generalize num (L8 s) * 10 ^ j = N at *
          by_cases hm : maxW < N
          · have hm' : (9007199254740991 : Int) < (N : Int) := by unfold maxW at hm; omega
            have hr : (r1, r2) = ((0 : Int), errRange) := by rw [HI.out, if_pos hm]
            obtain ⟨rfl, rfl⟩ := Prod.mk.inj hr
            clear HI hr hm
            go_wp2
            go_ret2
            exact ⟨rfl, HB1.out⟩
          · have hm' : ¬ (9007199254740991 : Int) < (N : Int) := by unfold maxW at hm; omega
            rw [if_neg hm] at HI
            clear hm
            cases n with
            | true =>
              have hr : (r1, r2) = (-(N : Int), (0 : Int)) := HI.out
              obtain ⟨rfl, rfl⟩ := Prod.mk.inj hr
              clear HI hr
              go_wp2
              go_ret2
              exact ⟨rfl, HB1.out⟩
            | false =>
              have hr : (r1, r2) = ((N : Int), (0 : Int)) := HI.out
              obtain ⟨rfl, rfl⟩ := Prod.mk.inj hr
              clear HI hr
              go_wp2
              go_ret2
              exact ⟨rfl, HB1.out⟩
end Go.Proofs.YtiibfejgiilakaaDoor
