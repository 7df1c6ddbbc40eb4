/- The walk of DigitsBack. -/
import Derived.Test.YtadbnajodpfpgaaDoorG10BackM
import Derived.Test.YtadbnajodpfpgaaDoorG10Awk
namespace Go.Proofs.YtadbnajodpfpgaaDoor
set_option maxRecDepth 100000
open Go.ChangeShapes Go.WideShapes Go.ChangeAt Go.RowKit
set_option linter.unusedVariables false
set_option linter.unusedSimpArgs false

set_option maxHeartbeats 8000000 in
theorem back_walk (HD : DigitsOk) (n : Int) (w : World) (hn : I64 n) : Calls Tryd.prog 4 #[.int .i64 n] w fun e w' => e = .returned (.bool true) ∧ Below w.heap.size w w' := by
  have HP := Lib.hid (fun W => HD.print n W hn)
  have HR : Hid (∀ W, Calls Tryd.prog 11 #[.string (bs (printF n))] W fun e w' => e = .returned (.tuple #[dcV (backD n), .bool true]) ∧ Below W.heap.size W w') := Lib.hid fun W => by
    have h := HD.read (bs (printF n)) W (by have := print_len hn.1 hn.2; omega)
    rw [L8_bs, read_print] at h
    exact h
  have HI : Hid (∀ W, Calls Tryd.prog 16 #[dcV (backD n)] W fun e w' => e = .returned (.tuple #[.int .i64 (if n.natAbs ≤ maxW then (n, (0 : Int)) else (0, errRange)).1, .int .i64 (if n.natAbs ≤ maxW then (n, (0 : Int)) else (0, errRange)).2]) ∧ Below W.heap.size W w') := Lib.hid fun W => by
    have h := HD.int (backD n) W (check_back hn).2 (check_back hn).1
    rw [int_back] at h
    exact h
  have HA := Lib.hid (fun W => awake10 HD W)
  obtain ⟨hz, hh⟩ := print_head n
  obtain ⟨hn0, hn1⟩ := hn
  clear HD
  generalize bs (printF n) = s at *
  generalize backD n = y at *
  obtain ⟨yn, yd, ye⟩ := y
  unfold dcV at HR HI
  dsimp only at HR HI
  generalize bs yd = ys at *
  have hz' : (0 : Int) < s.size := by omega
  rcases hh with ⟨hneg, hc⟩ | ⟨hneg, hc⟩ | ⟨hneg, hc, hc2⟩
  · have hb1 : ((s[0].toNat : Int) == 45) = true := by rw [hc]; rfl
    have hb2 : ((s[0].toNat : Int) == 48) = false := by rw [hc]; rfl
    have hb3 : ((s[0].toNat : Int) != 48) = true := by rw [hc]; rfl
    have hb4 : (s.toList == [48]) = false := by
      rw [beq_eq_false_iff_ne, L8_toList]
      intro e
      have h := L8_at s 0 hz
      rw [e, hc] at h
      cases h
    have hl : decide (n < 0) = true := decide_eq_true hneg
    clear hc
    by_cases hin : n.natAbs ≤ maxW
    · rw [if_pos hin] at HI
      unfold maxW at hin
      have hi1 : decide ((-9007199254740991 : Int) ≤ n) = true := decide_eq_true (by omega)
      have hi2 : decide (n ≤ (9007199254740991 : Int)) = true := decide_eq_true (by omega)
      have hnn : (n != n) = false := by simp
      clear hin
      go_enter Tryd.func4, Tryd.ntmps4
      go_wp2_with fail
      with_reducible refine (HP.out _).mono ?_
      rintro e w1 ⟨rfl, hb⟩
      have HB1 := Lib.hid hb
      clear hb
      go_wp2_with fail
      with_reducible refine (HR.out _).mono ?_
      rintro e w2 ⟨rfl, hb⟩
      have HB2 := Lib.hid (HB1.out.trans (hb.mono HB1.out.size))
      clear hb HB1
      go_wp2_with fail
      have HB3 : Hid (Below w.heap.size w (w2.alloc (.cells #[.bool yn, .string ys, .int .i64 ye] 23))) := Lib.hid (HB2.out.alloc HB2.out.size _)
      clear HB2
      generalize w2.alloc (.cells #[.bool yn, .string ys, .int .i64 ye] 23) = w3 at *
      with_reducible refine (HI.out _).mono ?_
      rintro e w4 ⟨rfl, hb⟩
      have HB4 := Lib.hid (HB3.out.trans (hb.mono HB3.out.size))
      clear hb HB3
      go_wp2_with fail
      with_reducible refine (HA.out _).mono ?_
      rintro e w5 ⟨rfl, hb⟩
      have HB5 := Lib.hid (HB4.out.trans (hb.mono HB4.out.size))
      clear hb HB4
      go_wp2
      go_ret
      exact ⟨rfl, HB5.out⟩
    · rw [if_neg hin] at HI
      unfold maxW errRange at *
      have hi : (decide ((-9007199254740991 : Int) ≤ n) = false) ∨ (decide ((-9007199254740991 : Int) ≤ n) = true ∧ decide (n ≤ (9007199254740991 : Int)) = false) := by
        by_cases h : (-9007199254740991 : Int) ≤ n
        · exact .inr ⟨decide_eq_true h, decide_eq_false (by omega)⟩
        · exact .inl (decide_eq_false h)
      clear hin
      rcases hi with hi1 | ⟨hi1, hi2⟩
      · skip
        go_enter Tryd.func4, Tryd.ntmps4
        go_wp2_with fail
        with_reducible refine (HP.out _).mono ?_
        rintro e w1 ⟨rfl, hb⟩
        have HB1 := Lib.hid hb
        clear hb
        go_wp2_with fail
        with_reducible refine (HR.out _).mono ?_
        rintro e w2 ⟨rfl, hb⟩
        have HB2 := Lib.hid (HB1.out.trans (hb.mono HB1.out.size))
        clear hb HB1
        go_wp2_with fail
        have HB3 : Hid (Below w.heap.size w (w2.alloc (.cells #[.bool yn, .string ys, .int .i64 ye] 23))) := Lib.hid (HB2.out.alloc HB2.out.size _)
        clear HB2
        generalize w2.alloc (.cells #[.bool yn, .string ys, .int .i64 ye] 23) = w3 at *
        with_reducible refine (HI.out _).mono ?_
        rintro e w4 ⟨rfl, hb⟩
        have HB4 := Lib.hid (HB3.out.trans (hb.mono HB3.out.size))
        clear hb HB3
        go_wp2_with fail
        with_reducible refine (HA.out _).mono ?_
        rintro e w5 ⟨rfl, hb⟩
        have HB5 := Lib.hid (HB4.out.trans (hb.mono HB4.out.size))
        clear hb HB4
        go_wp2
        go_ret
        exact ⟨rfl, HB5.out⟩
      · skip
        go_enter Tryd.func4, Tryd.ntmps4
        go_wp2_with fail
        with_reducible refine (HP.out _).mono ?_
        rintro e w1 ⟨rfl, hb⟩
        have HB1 := Lib.hid hb
        clear hb
        go_wp2_with fail
        with_reducible refine (HR.out _).mono ?_
        rintro e w2 ⟨rfl, hb⟩
        have HB2 := Lib.hid (HB1.out.trans (hb.mono HB1.out.size))
        clear hb HB1
        go_wp2_with fail
        have HB3 : Hid (Below w.heap.size w (w2.alloc (.cells #[.bool yn, .string ys, .int .i64 ye] 23))) := Lib.hid (HB2.out.alloc HB2.out.size _)
        clear HB2
        generalize w2.alloc (.cells #[.bool yn, .string ys, .int .i64 ye] 23) = w3 at *
        with_reducible refine (HI.out _).mono ?_
        rintro e w4 ⟨rfl, hb⟩
        have HB4 := Lib.hid (HB3.out.trans (hb.mono HB3.out.size))
        clear hb HB3
        go_wp2_with fail
        with_reducible refine (HA.out _).mono ?_
        rintro e w5 ⟨rfl, hb⟩
        have HB5 := Lib.hid (HB4.out.trans (hb.mono HB4.out.size))
        clear hb HB4
        go_wp2
        go_ret
        exact ⟨rfl, HB5.out⟩
  · subst hneg
    have hb4 : (s.toList == [48]) = true := by rw [hc]; rfl
    have hb1 : ((s[0].toNat : Int) == 45) = false := by
      have h := L8_at s 0 hz
      rw [← L8_toList, hc] at h
      have h := Option.some.inj h
      rw [← h]; rfl
    clear hc
    have e0 : (Int.natAbs 0) ≤ maxW := by decide
    rw [if_pos e0] at HI
    clear e0
    go_enter Tryd.func4, Tryd.ntmps4
    go_wp2_with fail
    with_reducible refine (HP.out _).mono ?_
    rintro e w1 ⟨rfl, hb⟩
    have HB1 := Lib.hid hb
    clear hb
    go_wp2_with fail
    with_reducible refine (HR.out _).mono ?_
    rintro e w2 ⟨rfl, hb⟩
    have HB2 := Lib.hid (HB1.out.trans (hb.mono HB1.out.size))
    clear hb HB1
    go_wp2_with fail
    have HB3 : Hid (Below w.heap.size w (w2.alloc (.cells #[.bool yn, .string ys, .int .i64 ye] 23))) := Lib.hid (HB2.out.alloc HB2.out.size _)
    clear HB2
    generalize w2.alloc (.cells #[.bool yn, .string ys, .int .i64 ye] 23) = w3 at *
    with_reducible refine (HI.out _).mono ?_
    rintro e w4 ⟨rfl, hb⟩
    have HB4 := Lib.hid (HB3.out.trans (hb.mono HB3.out.size))
    clear hb HB3
    go_wp2_with fail
    with_reducible refine (HA.out _).mono ?_
    rintro e w5 ⟨rfl, hb⟩
    have HB5 := Lib.hid (HB4.out.trans (hb.mono HB4.out.size))
    clear hb HB4
    go_wp2
    go_ret
    exact ⟨rfl, HB5.out⟩
  · have hb1 : ((s[0].toNat : Int) == 45) = false := by
      rw [beq_eq_false_iff_ne]
      intro h
      exact hc (UInt8.toNat_inj.1 (by have : (45 : UInt8).toNat = 45 := rfl; omega))
    have hb2 : ((s[0].toNat : Int) == 48) = false := by
      rw [beq_eq_false_iff_ne]
      intro h
      exact hc2 (UInt8.toNat_inj.1 (by have : (48 : UInt8).toNat = 48 := rfl; omega))
    have hb3 : ((s[0].toNat : Int) != 48) = true := by simpa using hb2
    have hl : decide (n < 0) = false := decide_eq_false (by omega)
    clear hc hc2
    cases hb4 : (s.toList == [48]) with
    | true =>
      exfalso
      rw [beq_iff_eq, L8_toList] at hb4
      have h := L8_at s 0 hz
      rw [hb4] at h
      have h := Option.some.inj h
      rw [← h] at hb2
      cases hb2
    | false =>
      by_cases hin : n.natAbs ≤ maxW
      · rw [if_pos hin] at HI
        unfold maxW at hin
        have hi1 : decide ((-9007199254740991 : Int) ≤ n) = true := decide_eq_true (by omega)
        have hi2 : decide (n ≤ (9007199254740991 : Int)) = true := decide_eq_true (by omega)
        have hnn : (n != n) = false := by simp
        clear hin
        go_enter Tryd.func4, Tryd.ntmps4
        go_wp2_with fail
        with_reducible refine (HP.out _).mono ?_
        rintro e w1 ⟨rfl, hb⟩
        have HB1 := Lib.hid hb
        clear hb
        go_wp2_with fail
        with_reducible refine (HR.out _).mono ?_
        rintro e w2 ⟨rfl, hb⟩
        have HB2 := Lib.hid (HB1.out.trans (hb.mono HB1.out.size))
        clear hb HB1
        go_wp2_with fail
        have HB3 : Hid (Below w.heap.size w (w2.alloc (.cells #[.bool yn, .string ys, .int .i64 ye] 23))) := Lib.hid (HB2.out.alloc HB2.out.size _)
        clear HB2
        generalize w2.alloc (.cells #[.bool yn, .string ys, .int .i64 ye] 23) = w3 at *
        with_reducible refine (HI.out _).mono ?_
        rintro e w4 ⟨rfl, hb⟩
        have HB4 := Lib.hid (HB3.out.trans (hb.mono HB3.out.size))
        clear hb HB3
        go_wp2_with fail
        with_reducible refine (HA.out _).mono ?_
        rintro e w5 ⟨rfl, hb⟩
        have HB5 := Lib.hid (HB4.out.trans (hb.mono HB4.out.size))
        clear hb HB4
        go_wp2
        go_ret
        exact ⟨rfl, HB5.out⟩
      · rw [if_neg hin] at HI
        unfold maxW errRange at *
        have hi : (decide ((-9007199254740991 : Int) ≤ n) = false) ∨ (decide ((-9007199254740991 : Int) ≤ n) = true ∧ decide (n ≤ (9007199254740991 : Int)) = false) := by
          by_cases h : (-9007199254740991 : Int) ≤ n
          · exact .inr ⟨decide_eq_true h, decide_eq_false (by omega)⟩
          · exact .inl (decide_eq_false h)
        clear hin
        rcases hi with hi1 | ⟨hi1, hi2⟩
        · skip
          go_enter Tryd.func4, Tryd.ntmps4
          go_wp2_with fail
          with_reducible refine (HP.out _).mono ?_
          rintro e w1 ⟨rfl, hb⟩
          have HB1 := Lib.hid hb
          clear hb
          go_wp2_with fail
          with_reducible refine (HR.out _).mono ?_
          rintro e w2 ⟨rfl, hb⟩
          have HB2 := Lib.hid (HB1.out.trans (hb.mono HB1.out.size))
          clear hb HB1
          go_wp2_with fail
          have HB3 : Hid (Below w.heap.size w (w2.alloc (.cells #[.bool yn, .string ys, .int .i64 ye] 23))) := Lib.hid (HB2.out.alloc HB2.out.size _)
          clear HB2
          generalize w2.alloc (.cells #[.bool yn, .string ys, .int .i64 ye] 23) = w3 at *
          with_reducible refine (HI.out _).mono ?_
          rintro e w4 ⟨rfl, hb⟩
          have HB4 := Lib.hid (HB3.out.trans (hb.mono HB3.out.size))
          clear hb HB3
          go_wp2_with fail
          with_reducible refine (HA.out _).mono ?_
          rintro e w5 ⟨rfl, hb⟩
          have HB5 := Lib.hid (HB4.out.trans (hb.mono HB4.out.size))
          clear hb HB4
          go_wp2
          go_ret
          exact ⟨rfl, HB5.out⟩
        · skip
          go_enter Tryd.func4, Tryd.ntmps4
          go_wp2_with fail
          with_reducible refine (HP.out _).mono ?_
          rintro e w1 ⟨rfl, hb⟩
          have HB1 := Lib.hid hb
          clear hb
          go_wp2_with fail
          with_reducible refine (HR.out _).mono ?_
          rintro e w2 ⟨rfl, hb⟩
          have HB2 := Lib.hid (HB1.out.trans (hb.mono HB1.out.size))
          clear hb HB1
          go_wp2_with fail
          have HB3 : Hid (Below w.heap.size w (w2.alloc (.cells #[.bool yn, .string ys, .int .i64 ye] 23))) := Lib.hid (HB2.out.alloc HB2.out.size _)
          clear HB2
          generalize w2.alloc (.cells #[.bool yn, .string ys, .int .i64 ye] 23) = w3 at *
          with_reducible refine (HI.out _).mono ?_
          rintro e w4 ⟨rfl, hb⟩
          have HB4 := Lib.hid (HB3.out.trans (hb.mono HB3.out.size))
          clear hb HB3
          go_wp2_with fail
          with_reducible refine (HA.out _).mono ?_
          rintro e w5 ⟨rfl, hb⟩
          have HB5 := Lib.hid (HB4.out.trans (hb.mono HB4.out.size))
          clear hb HB4
          go_wp2
          go_ret
          exact ⟨rfl, HB5.out⟩
end Go.Proofs.YtadbnajodpfpgaaDoor
