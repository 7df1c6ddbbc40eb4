/- The document's stands and has of layer 11 by their contracts. -/
import Derived.Test.YtiibfejgiilakaaDoorG11Hope
import Derived.Test.YtiibfejgiilakaaDoorG10Int
import Derived.Test.YtiibfejgiilakaaDoorG10RdM
namespace Go.Proofs.YtiibfejgiilakaaDoor
set_option maxRecDepth 100000
open Go.ChangeShapes Go.WideShapes Go.ChangeAt Go.RowKit
set_option linter.unusedVariables false
set_option linter.unusedSimpArgs false

/-- a text without what stands at its end and is no digit -/
def standF (l : List UInt8) : List UInt8 := (l.reverse.dropWhile fun c => !isD c).reverse
theorem stand_snoc (l : List UInt8) (c : UInt8) : standF (l ++ [c]) = if isD c = true then l ++ [c] else standF l := by
  unfold standF
  rw [List.reverse_append, List.reverse_cons, List.reverse_nil, List.nil_append, List.cons_append, List.nil_append, List.dropWhile_cons]
  cases h : isD c <;> simp
theorem last_cut {s : ByteArray} (h : 0 < s.size) : L8 s = (L8 s).take (s.size - 1) ++ [s[s.size - 1]] ∧ L8 (s.extract 0 (s.size - 1)) = (L8 s).take (s.size - 1) ∧ (s.extract 0 (s.size - 1)).size + 1 = s.size := by
  have e1 := L8_take s (s.size - 1) (by omega)
  have e0 : s.size - 1 + 1 = s.size := by omega
  rw [e0, List.take_of_length_le (by rw [L8_len]; exact Nat.le_refl _)] at e1
  have e2 : L8 (s.extract 0 (s.size - 1)) = (L8 s).take (s.size - 1) := by rw [L8_cut]; simp
  refine ⟨e1, e2, by rw [← L8_len, e2, List.length_take, L8_len]; omega⟩
set_option maxHeartbeats 2000000 in
theorem stands_any (s : ByteArray) (w : World) (hs : s.size ≤ 1000000) : Calls Tryd.prog 26 #[.string s] w fun e w' => e = .returned (.string (bs (standF (L8 s)))) ∧ w = w' := by
  generalize hr : bs (standF (L8 s)) = r
  have HR := Lib.hid hr
  clear hr
  go_enter Tryd.func26, Tryd.ntmps26
  go_wp2_with fail
  go_loop [0] (fun v => ∃ t : ByteArray, v = .string t ∧ t.size ≤ s.size ∧ standF (L8 t) = standF (L8 s)) (fun v => strLen (some v))
  case atStart => exact ⟨s, rfl, Nat.le_refl _, rfl⟩
  case round =>
    obtain ⟨t, rfl, hle, hf⟩ := hrel
    have HF := Lib.hid hf
    clear hf
    by_cases h0 : 0 < t.size
    · have h0' : (0 : Int) < t.size := by omega
      obtain ⟨c1, c2, c3⟩ := last_cut h0
      have HC1 := Lib.hid c1
      have HC2 := Lib.hid c2
      have HC3 := Lib.hid c3
      have hw1 : IntKind.i64.wrap ((t.size : Int) - 1) = (t.size : Int) - 1 := IntWalk.i64_in _ (by omega)
      have u1 : (0 : Int) ≤ (t.size : Int) - 1 := by omega
      have u2 : (t.size : Int) - 1 < (t.size : Int) := by omega
      have u3 : ((t.size : Int) - 1).toNat = t.size - 1 := by omega
      have u4 : t.size - 1 < t.size := by omega
      clear c1 c2 c3
      rcases isD_ask t[t.size - 1] with ⟨hd, h1, h2, h3, h4⟩ | ⟨hd, h1, h3⟩ | ⟨hd, h1, h2, h3, h4⟩
      · have hrr : t = r := by
          rw [← HR.out, ← HF.out]
          have e : standF (L8 t) = L8 t := by rw [HC1.out, stand_snoc, if_pos hd]
          rw [e, bs_L8]
        subst hrr
        clear hd HR
        go_wp2
        go_ret
        exact ⟨rfl, rfl⟩
      · have HS : Hid (standF (L8 (t.extract 0 (t.size - 1))) = standF (L8 t)) := Lib.hid (by rw [HC2.out]; conv => rhs; rw [HC1.out, stand_snoc, hd, if_neg Bool.false_ne_true])
        clear hd
        go_wp2
        go_round
        case rel => exact ⟨_, rfl, by have := HC3.out; omega, by rw [HS.out, HF.out]⟩
        case measure =>
          have := HC3.out
          show (t.extract 0 (t.size - 1)).size < t.size
          omega
      · have HS : Hid (standF (L8 (t.extract 0 (t.size - 1))) = standF (L8 t)) := Lib.hid (by rw [HC2.out]; conv => rhs; rw [HC1.out, stand_snoc, hd, if_neg Bool.false_ne_true])
        clear hd
        go_wp2
        go_round
        case rel => exact ⟨_, rfl, by have := HC3.out; omega, by rw [HS.out, HF.out]⟩
        case measure =>
          have := HC3.out
          show (t.extract 0 (t.size - 1)).size < t.size
          omega
    · have h0' : ¬ (0 : Int) < t.size := by omega
      have hrr : t = r := by
        have hl : L8 t = [] := List.eq_nil_of_length_eq_zero (by rw [L8_len]; omega)
        rw [← HR.out, ← HF.out]
        have e : standF (L8 t) = L8 t := by rw [hl]; rfl
        rw [e, bs_L8]
      clear HR HF
      subst hrr
      go_wp2
      go_ret
      exact ⟨rfl, rfl⟩
/-! ## has -/
theorem reach_zero {lo hi : Int} (hl : lo ≤ hi) (hh : hi < 1000000000) (hn : -1000000000 < hi) : reachB 0 lo hi = decide (0 ≤ hi) := by
  by_cases h : 0 ≤ hi
  · rw [decide_eq_true h]
    refine reach_any hh (by omega) (k := 11) ?_ ?_
    · rw [Nat.zero_mul]; exact h
    · have h4 : (10 : Nat) ^ 11 = 100000000000 := by decide
      rw [Nat.zero_mul, h4]; omega
  · rw [decide_eq_false h]
    cases hr : reachB 0 lo hi with
    | false => rfl
    | true =>
      obtain ⟨k, _, h1, _⟩ := (reach_iff _ _ _).1 hr
      rw [Nat.zero_mul] at h1
      omega
theorem reach_past {v : Nat} {lo hi : Int} (h : hi < (v : Int)) : reachB v lo hi = false := by
  cases hr : reachB v lo hi with
  | false => rfl
  | true =>
    obtain ⟨k, _, h1, _⟩ := (reach_iff _ _ _).1 hr
    have hp : 1 ≤ 10 ^ k := Nat.pow_pos (by omega)
    have hm : v * 1 ≤ v * 10 ^ k := Nat.mul_le_mul_left _ hp
    omega
theorem num_frontL (l : List UInt8) : exF (frontL l) = exF l := by rw [exF_num, exF_num, num_front]
theorem num_pre' (a b : List UInt8) : num a ≤ num (a ++ b) := by
  rw [num_app]
  have hp : 1 ≤ 10 ^ b.length := Nat.pow_pos (by omega)
  have hm : num a * 1 ≤ num a * 10 ^ b.length := Nat.mul_le_mul_left _ hp
  omega
theorem num_take_le {l : List UInt8} (h : allD l) (k : Nat) : num (l.take k) ≤ num l := by
  have e := num_pre' (l.take k) (l.drop k)
  rwa [List.take_append_drop] at e
theorem ten_le {v k : Nat} (h : 1 ≤ v) : 10 ^ k ≤ v * 10 ^ k := by
  have : 1 * 10 ^ k ≤ v * 10 ^ k := Nat.mul_le_mul_right _ h
  omega
set_option maxHeartbeats 8000000 in
theorem has_any (x : ByteArray) (a b : Int) (w : World) (hd : allD (L8 x)) (hx : x.size ≤ 1000000) (ha0 : -100000000 ≤ a) (ha1 : a ≤ 100000000) (hb0 : -100000000 ≤ b) (hb1 : b ≤ 100000000) (hab : a ≤ b) :
    Calls Tryd.prog 41 #[.string x, .int .i64 a, .int .i64 b] w fun e w' => e = .returned (.bool (reachB (exF (L8 x)) a b)) ∧ w = w' := by
  generalize hr : reachB (exF (L8 x)) a b = r
  have HR := Lib.hid hr
  have HD := Lib.hid hd
  clear hr hd
  go_enter Tryd.func41, Tryd.ntmps41
  go_wp2_with fail
  go_loop [0] (fun v => ∃ t : ByteArray, v = .string t ∧ t.size ≤ x.size ∧ frontL (L8 t) = frontL (L8 x)) (fun v => strLen (some v))
  case atStart => exact ⟨x, rfl, Nat.le_refl _, rfl⟩
  case round =>
    obtain ⟨t, rfl, hle, hf⟩ := hrel
    have HF := Lib.hid hf
    clear hf
    by_cases h0 : 0 < t.size
    · have h0' : (0 : Int) < t.size := by omega
      rcases byte_is t[0] 48 48 rfl with ⟨hc, hcb⟩ | ⟨hc, hcb⟩
      · obtain ⟨hs1, hs2⟩ := front_step h0 hc
        have HS1 := Lib.hid hs1
        have HS2 := Lib.hid hs2
        clear hc hs1 hs2
        go_wp2
        go_round
        case rel => exact ⟨_, rfl, by have := HS2.out; omega, by rw [HS1.out, HF.out]⟩
        case measure =>
          have := HS2.out
          show (t.extract 1 t.size).size < t.size
          omega
      · -- the digits begin with another one than 0
        have hft : frontL (L8 t) = L8 t := front_stop (.inr ⟨h0, hc⟩)
        have HT : Hid (L8 t = frontL (L8 x)) := Lib.hid (by rw [← HF.out, hft])
        have HTD : Hid (allD (L8 t)) := Lib.hid (fun c hc => HD.out c (by rw [HT.out] at hc; exact front_mem hc))
        have hne : L8 t ≠ [] := fun h => by have := L8_len t; rw [h] at this; simp at this; omega
        have hge := num_ge HTD.out hne (by rw [HT.out]; exact front_head _)
        rw [L8_len] at hge
        have hlt := num_lt HTD.out
        rw [L8_len] at hlt
        have hex : exF (L8 x) = min (num (L8 t)) 1000000000 := by rw [← num_frontL, ← HT.out, exF_num]
        obtain ⟨am, ham⟩ : ∃ am : Int, (a < 0 ∧ 0 = am) ∨ (¬ a < 0 ∧ a = am) := by
          by_cases h : a < 0
          · exact ⟨_, .inl ⟨h, rfl⟩⟩
          · exact ⟨_, .inr ⟨h, rfl⟩⟩
        have hsz0 : ((t.size : Int) == 0) = false := by rw [beq_eq_false_iff_ne]; omega
        by_cases h9 : 9 < t.size
        · have h9' : (9 : Int) < t.size := by omega
          have hbig : 1000000000 ≤ num (L8 t) := by
            have h1 : (10 : Nat) ^ 9 ≤ 10 ^ (t.size - 1) := Nat.pow_le_pow_right (by omega) (by omega)
            omega
          have hrr : r = false := by rw [← HR.out, hex]; exact reach_past (by omega)
          subst hrr
          clear HR hex hge hlt hbig hft hc hne
          rcases ham with ⟨k1, k2⟩ | ⟨k1, k2⟩
          all_goals subst k2
          all_goals
            go_wp2
            go_ret
            exact ⟨rfl, rfl⟩
        · have h9' : ¬ (9 : Int) < t.size := by omega
          have hsm : num (L8 t) < 1000000000 := by
            have h1 : (10 : Nat) ^ t.size ≤ 10 ^ 9 := Nat.pow_le_pow_right (by omega) (by omega)
            omega
          have hv1 : 1 ≤ num (L8 t) := by
            have h1 : 1 ≤ (10 : Nat) ^ (t.size - 1) := Nat.pow_pos (by omega)
            omega
          have HEX : Hid (reachB (num (L8 t)) a b = r) := Lib.hid (by rw [← HR.out, hex, Nat.min_eq_left (by omega)])
          have HSM := Lib.hid hsm
          have HV1 := Lib.hid hv1
          have HNT := Lib.hid (fun k => num_take_le HTD.out k)
          clear HR hex hge hlt hft hc hne hsm hv1
          rcases ham with ⟨k1, k2⟩ | ⟨k1, k2⟩
          all_goals subst k2
          all_goals
            go_wp2_with fail
            go_loop [7, 8] (fun v i => ∃ k : Nat, k ≤ t.size ∧ i = .int .i64 k ∧ v = .int .i64 (num ((L8 t).take k) : Int)) (fun _ i => t.size - (intOf i).toNat)
            case atStart => exact ⟨0, by omega, rfl, rfl⟩
            case round =>
              obtain ⟨k, hk, rfl, rfl⟩ := hrel
              have hcap := HNT.out k
              have hsm := HSM.out
              by_cases hlt : k < t.size
              · have hlt' : (k : Int) < t.size := by omega
                have HK : Hid (num ((L8 t).take (k + 1)) = 10 * num ((L8 t).take k) + dv t[k]) := Lib.hid (by rw [L8_take t k hlt, num_snoc])
                have hdg := isD_lo.1 (HTD.out t[k] (List.mem_of_getElem? (L8_at t k hlt)))
                obtain ⟨hd1, hd2⟩ := hdg
                generalize num ((L8 t).take k) = N at *
                go_wp2
                go_round
                case rel => exact ⟨k + 1, by omega, by go_num, by rw [HK.out]; unfold dv; exact congrArg _ (by omega)⟩
                case measure => simp [intOf]; omega
              · have hlt' : ¬ (k : Int) < t.size := by omega
                have hkk : (L8 t).take k = L8 t := List.take_of_length_le (by rw [L8_len]; omega)
                rw [hkk]
                clear hkk hcap
                have hv1 := HV1.out
                generalize num (L8 t) = v at *
                go_wp2_with fail
                go_loop [7, 9] (fun lo hi => ∃ k : Nat, lo = .int .i64 ((v * 10 ^ k : Nat) : Int) ∧ hi = .int .i64 (((v * 10 ^ k + 10 ^ k : Nat) : Int) - 1) ∧ v * 10 ^ k ≤ 10000000000 ∧ ∀ j, j < k → ¬ (((v * 10 ^ j : Nat) : Int) ≤ b ∧ a ≤ ((v * 10 ^ j + 10 ^ j : Nat) : Int) - 1)) (fun lo _ => (20000000000 - intOf lo).toNat)
                case atStart =>
                  have e1 : v * 10 ^ 0 = v := by rw [Nat.pow_zero, Nat.mul_one]
                  have e2 : (10 : Nat) ^ 0 = 1 := rfl
                  refine ⟨0, by rw [e1], ?_, by rw [e1]; omega, fun j hj => by omega⟩
                  rw [e1, e2]
                  exact congrArg _ (by omega)
                case round =>
                  obtain ⟨k2, rfl, rfl, hcp, hall⟩ := hrel
                  have HA := Lib.hid hall
                  have HT10 := ten_le (v := v) (k := k2) hv1
                  have hp1 : 1 ≤ 10 ^ k2 := Nat.pow_pos (by omega)
                  have HN : Hid (v * 10 ^ (k2 + 1) = 10 * (v * 10 ^ k2) ∧ 10 ^ (k2 + 1) = 10 * 10 ^ k2) := Lib.hid ⟨by rw [Nat.pow_succ]; rw [← Nat.mul_assoc, Nat.mul_comm _ 10], by rw [Nat.pow_succ, Nat.mul_comm]⟩
                  have HV := Lib.hid (fun h2 h3 h4 => reach_no (v := v) (lo := a) (hi := b) (k := k2) (by omega) h2 h3 h4)
                  have HY := Lib.hid (fun h1 h2 => reach_any (v := v) (lo := a) (hi := b) (by omega) (by omega) (k := k2) h1 h2)
                  clear hall
                  obtain ⟨f, hf⟩ : ∃ f : Nat, v * 10 ^ k2 = f := ⟨_, rfl⟩
                  obtain ⟨p, hp⟩ : ∃ p : Nat, 10 ^ k2 = p := ⟨_, rfl⟩
                  have HFP : Hid (v * 10 ^ k2 = f ∧ 10 ^ k2 = p) := Lib.hid ⟨hf, hp⟩
                  rw [hf, hp] at HN HV HY HT10 ⊢
                  rw [hf] at hcp
                  rw [hp] at hp1
                  clear hf hp
                  have hf1 : 1 ≤ f := by omega
                  have hwr1 : IntKind.i64.wrap (10 * (f : Int)) = 10 * (f : Int) := IntWalk.i64_in _ (by omega)
                  obtain ⟨L, hL⟩ : ∃ L : Int, ((f + p : Nat) : Int) - 1 = L := ⟨_, rfl⟩
                  have hL0 : (f : Int) ≤ L := by omega
                  have hL1 : L ≤ 2 * (f : Int) := by omega
                  have HL : Hid (((10 * f + 10 * p : Nat) : Int) - 1 = 10 * L + 9) := Lib.hid (by omega)
                  rw [hL] at HV HY ⊢
                  have HFL := Lib.hid hL
                  have hten : ((10 * f : Nat) : Int) = 10 * (f : Int) := by omega
                  clear hL hp1 HT10
                  by_cases hlb : (f : Int) ≤ b
                  · have HCP : Hid (10 * f ≤ 10000000000) := Lib.hid (by omega)
                    have hwr2 : IntKind.i64.wrap (10 * L) = 10 * L := IntWalk.i64_in _ (by omega)
                    have hwr3 : IntKind.i64.wrap (10 * L + 9) = 10 * L + 9 := IntWalk.i64_in _ (by omega)
                    by_cases hla : a ≤ L
                    · have hrr : r = true := by rw [← HEX.out]; exact HY.out hlb hla
                      subst hrr
                      have hla0 : (0 : Int) ≤ L := by omega
                      clear HEX
                      go_wp2
                      go_ret
                      exact ⟨rfl, rfl⟩
                    · first
                      | (exfalso; omega)
                      | (go_wp2
                         go_round
                         case rel =>
                           refine ⟨k2 + 1, by rw [HN.out.1, hten], by rw [HN.out.1, HN.out.2, HL.out], by rw [HN.out.1]; exact HCP.out, fun j hj => ?_⟩
                           by_cases hjk : j < k2
                           · exact HA.out j hjk
                           · obtain rfl : j = k2 := by omega
                             rw [HFP.out.1, HFP.out.2, HFL.out]
                             exact fun h => hla h.2
                         case measure => simp [intOf]; omega)
                  · have hrr : r = false := by rw [← HEX.out]; exact HV.out HA.out (fun h => hlb h.1) (.inl (by omega))
                    subst hrr
                    clear HEX
                    go_wp2
                    go_ret
                    exact ⟨rfl, rfl⟩
    · have h0' : ¬ (0 : Int) < t.size := by omega
      have hl : L8 t = [] := List.eq_nil_of_length_eq_zero (by rw [L8_len]; omega)
      have hex : exF (L8 x) = 0 := by rw [← num_frontL, ← HF.out, hl]; rfl
      have hsz0 : ((t.size : Int) == 0) = true := by rw [beq_iff_eq]; omega
      have hrr : r = decide (0 ≤ b) := by rw [← HR.out, hex]; exact reach_zero hab (by omega) (by omega)
      clear HR HF hl hex
      by_cases k1 : a < 0
      · have hq : decide ((0 : Int) ≤ b) = r := hrr.symm
        clear hrr
        go_wp2
        go_ret
        exact ⟨rfl, rfl⟩
      · have hq : r = true := by rw [hrr, decide_eq_true (by omega : 0 ≤ b)]
        subst hq
        clear hrr
        go_wp2
        go_ret
        exact ⟨rfl, rfl⟩
end Go.Proofs.YtiibfejgiilakaaDoor
