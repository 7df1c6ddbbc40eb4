/- kinds: the tokens of a value by numbers. -/
import Derived.Test.YtdkfffncohipbaaG13Txt
import Derived.Test.YtdkfffncohipbaaR13B
import Derived.Test.YtdkfffncohipbaaPlace4
namespace Go.Proofs.Ytdkfffncohipbaa
set_option maxRecDepth 100000
open Go.ChangeShapes Go.WideShapes Go.ChangeAt Go.RowKit
set_option linter.unusedVariables false
set_option linter.unusedSimpArgs false

def KRes (d at0 : Nat) (W : World) (e : Ending) (W' : World) : Prop := ∃ (v : Value) (at1 : Nat) (row : List Int), e = .returned (.tuple #[v, .int .i64 (at1 : Int)]) ∧ Own W' W.heap.size 3 .i64 v row ∧ Below W.heap.size W W' ∧ Val row ∧ row.length ≤ TB d ∧ at0 ≤ at1 ∧ at1 ≤ at0 + TB d
abbrev KOk (a0 : Option Addr) (n cap : Nat) (z : List Int) (d : Nat) : Prop := ∀ (at0 : Nat) (W : World), at0 + TB d ≤ 100000 → Ints W W.heap.size .i64 a0 z → Calls Try.prog 20 #[.slice a0 n cap, .int .i64 (at0 : Int), .int .i64 (d : Int)] W (KRes d at0 W)
def KnL (W : World) (e a : Int) (M at0 tb : Nat) (atv out iv : Value) (wr : World) : Prop :=
  ∃ (i at1 : Nat) (row : List Int), iv = .int .i64 i ∧ i ≤ M ∧ atv = .int .i64 at1 ∧ at0 + 1 ≤ at1 ∧ at1 ≤ at0 + 1 + i * tb ∧ Own wr W.heap.size 3 .i64 out row ∧ Part row e a i ∧ row.length ≤ 1 + i * (3 + tb) ∧ Below W.heap.size W wr
theorem kone {d at0 : Nat} {W : World} {s : Int} (h0 : 0 ≤ s) (h4 : s ≤ 4) : KRes d at0 W (.returned (.tuple #[.slice (some ⟨W.heap.size, 0, none⟩) 1 1, .int .i64 ((at0 + 1 : Nat) : Int)])) (W.alloc (.cells #[.int .i64 (1 + s)] 3)) :=
  ⟨_, at0 + 1, [1 + s], rfl, own_lit W W.heap.size 3 .i64 [1 + s] (Nat.le_refl _) (by simp [maxLen]), (Below.refl _ _).alloc (Nat.le_refl _) _, val_one (by omega) (by omega), tb_pos d, by omega, by have := tb_pos d; omega⟩
set_option maxHeartbeats 16000000 in
theorem kinds_step (a0 : Option Addr) (n cap : Nat) (z : List Int) (hn : z.length = n) (hm : n ≤ maxLen) (d : Nat) (IH : ∀ k, d = k + 1 → KOk a0 n cap z k) : KOk a0 n cap z d := by
  intro at0 W hat hI
  have htb := tb_pos d
  unfold maxLen at hm
  have HN := Lib.hid hn
  have HI := Lib.hid hI
  have HIH := Lib.hid IH
  have hd10 : d ≤ 100000 := by
    have : d ≤ TB d := by
      clear IH hat htb HIH
      induction d with
      | zero => omega
      | succ d ih => unfold TB; omega
    omega
  have e1 : ((at0 + 1 : Nat) : Int) = (at0 : Int) + 1 := by omega
  by_cases hlt : at0 < n
  · have hlt' : (at0 : Int) < n := by omega
    have hgt' : ¬ (n : Int) < (at0 : Int) + 1 := by omega
    obtain ⟨b, o, rfl, hbl, hcell⟩ := hI.at (by omega)
    obtain ⟨x, hx⟩ : ∃ x, z.getD at0 0 = x := ⟨_, rfl⟩
    have kx : W.cell? ⟨b, o + at0, none⟩ = some (.int .i64 x) := by rw [← hx]; exact hcell at0 (by omega)
    have HPL := Lib.hid (fun W => place_any x 1073741824 W (by decide) (by decide))
    have hy0 := Int.emod_nonneg x (show (1073741824 : Int) ≠ 0 by decide)
    have hy1 := Int.emod_lt_of_pos x (show (0 : Int) < 1073741824 by decide)
    clear hx hcell hI hn IH
    generalize x % 1073741824 = y at *
    have r0 : 0 ≤ y.tmod 7 := Int.tmod_nonneg _ hy0
    have r6 : y.tmod 7 < 7 := Int.tmod_lt_of_pos _ (by decide)
    obtain ⟨r, hr⟩ : ∃ r, y.tmod 7 = r := ⟨_, rfl⟩
    rw [hr] at r0 r6
    by_cases h5 : r < 5
    · have s0 : 0 ≤ r.tmod 5 := Int.tmod_nonneg _ r0
      have s5 : r.tmod 5 < 5 := Int.tmod_lt_of_pos _ (by decide)
      obtain ⟨s, hs⟩ : ∃ s, r.tmod 5 = s := ⟨_, rfl⟩
      rw [hs] at s0 s5
      go_enter Try.func20, Try.ntmps20
      go_wp2_with fail
      with_reducible refine (HPL.out _).mono ?_
      rintro e w1 ⟨rfl, rfl⟩
      go_wp2
      go_ret2
      rw [← e1]
      exact kone s0 (by omega)
    rcases d with _ | d
    · have s0 : 0 ≤ r.tmod 5 := Int.tmod_nonneg _ r0
      have s5 : r.tmod 5 < 5 := Int.tmod_lt_of_pos _ (by decide)
      obtain ⟨s, hs⟩ : ∃ s, r.tmod 5 = s := ⟨_, rfl⟩
      rw [hs] at s0 s5
      go_enter Try.func20, Try.ntmps20
      go_wp2_with fail
      with_reducible refine (HPL.out _).mono ?_
      rintro e w1 ⟨rfl, rfl⟩
      go_wp2
      go_ret2
      rw [← e1]
      exact kone s0 (by omega)
    replace HIH := Lib.hid (HIH.out d rfl)
    have TBs : Hid (TB (d + 1) = 11 + 3 * TB d) := Lib.hid rfl
    have htb0 := tb_pos d
    rw [TBs.out] at hat htb
    have hdn : ¬ ((d + 1 : Nat) : Int) = 0 := by omega
    have bdn : (((d : Int) + 1) == 0) = false := by rw [beq_eq_false_iff_ne]; omega
    have hd1 : IntKind.i64.wrap (((d + 1 : Nat) : Int) - 1) = (d : Int) := by rw [IntWalk.i64_in _ (by omega)]; omega
    have hwd : IntKind.i64.wrap (d : Int) = (d : Int) := IntWalk.i64_in _ (by omega)
    have q0 : 0 ≤ y.tdiv 7 := Int.tdiv_nonneg hy0 (by decide)
    have q1 : y.tdiv 7 ≤ y := Int.tdiv_le_self _ hy0
    obtain ⟨dq, hdq⟩ : ∃ dq, y.tdiv 7 = dq := ⟨_, rfl⟩
    rw [hdq] at q0 q1
    have hwq : IntKind.i64.wrap dq = dq := IntWalk.i64_in _ (by omega)
    have t0 : 0 ≤ dq.tmod 4 := Int.tmod_nonneg _ q0
    have t4 : dq.tmod 4 < 4 := Int.tmod_lt_of_pos _ (by decide)
    obtain ⟨M, hM⟩ : ∃ M : Nat, dq.tmod 4 = (M : Int) := ⟨(dq.tmod 4).toNat, by omega⟩
    rw [hM] at t0 t4
    have hM3 : M ≤ 3 := by omega
    clear hdn t0 t4
    by_cases h6 : r = 6
    · subst h6
      go_enter Try.func20, Try.ntmps20
      go_wp2_with fail
      with_reducible refine (HPL.out _).mono ?_
      rintro e w1 ⟨rfl, rfl⟩
      have HO0 : Hid (Own ((W.alloc (.cells #[.int .i64 6] 3)).alloc (.cells #[.int .i64 8] 3)) W.heap.size 3 .i64 (.slice (some ⟨W.heap.size + 1, 0, none⟩) 1 1) [8]) := Lib.hid (by have := own_lit (W.alloc (.cells #[.int .i64 6] 3)) W.heap.size 3 .i64 [8] (by rw [World.size_alloc]; omega) (by simp [maxLen]); rw [World.size_alloc] at this; exact this)
      have HB0 : Hid (Below W.heap.size W _) := Lib.hid (((Below.refl _ _).alloc (Nat.le_refl _) (.cells #[.int .i64 6] 3)).alloc (by rw [World.size_alloc]; omega) (.cells #[.int .i64 8] 3))
      go_wp2_with fail
      go_loopw [1, 9, 12] (fun atv out iv wr => KnL W 9 2 M at0 (TB d) atv out iv wr) (fun _ _ iv _ => M - (intOf iv).toNat)
      case atStart => exact ⟨0, at0 + 1, _, rfl, by omega, by go_num, by omega, by omega, HO0.out, part_obj, by simp, HB0.out⟩
      case round =>
        clear HO0 HB0
        obtain ⟨i, at1, row, rfl, him, rfl, hat1, hat2, hO, hP, hrl, hBw⟩ := hrel
        obtain ⟨A0, c0, hv0, _⟩ := own_form hO
        obtain ⟨n0, hn0⟩ : ∃ n0, row.length = n0 := ⟨_, rfl⟩
        rw [hn0] at hv0 hrl
        subst hv0
        have HO0 := Lib.hid hO
        have HP := Lib.hid hP
        have HB0 := Lib.hid hBw
        have HN0 := Lib.hid hn0
        have hz0 := HB0.out.size
        clear hO hP hBw hn0
        have hm1 : (i + 1) * TB d = i * TB d + TB d := Nat.succ_mul _ _
        have hm3 : (i + 1) * (3 + TB d) = i * (3 + TB d) + (3 + TB d) := Nat.succ_mul _ _
        by_cases hlt : i < M
        · have hlt' : (i : Int) < (M : Int) := by omega
          have hq1 : i * TB d ≤ 2 * TB d := Nat.mul_le_mul_right _ (by omega)
          have hq3 : i * (3 + TB d) ≤ 2 * (3 + TB d) := Nat.mul_le_mul_right _ (by omega)
          generalize hTBe : TB d = tb at *
          have HTB := Lib.hid hTBe
          clear hTBe
          rcases i with _ | i
          · have hi0 : ¬ (0 : Int) < ((0 : Nat) : Int) := by decide
            go_wp2_with (at_builtin; first
              | (refine wpList_appL rfl (.tmp 63) (.tmp 64) 22 rfl W.heap.size 3 .i64 8 Try.underlying22 info_intg (by omega) (.slice A0 n0 c0) (row) rfl (HO0.out.alloc _) _ _ _ 2 [5, 10] rfl rfl (fun h => by cases h) (Ints.lit _ 3 .i64 [5, 10]) (by rw [HN0.out]; simp; omega) (by rw [World.size_alloc]; omega) ?_; intro v1 w1 hO1 hG1; obtain ⟨A1, c1, hv1, _⟩ := own_form hO1; obtain ⟨n1, hn1⟩ : ∃ n1, ((row) ++ ([5, 10] : List Int)).length = n1 := ⟨_, rfl⟩; rw [hn1] at hv1; subst hv1; have HN1 := Lib.hid hn1; have HNN1 : Hid (n1 = n0 + 2) := Lib.hid (by rw [← hn1, List.length_append, HN0.out]; rfl); clear hn1; have HB1 : Hid (Below W.heap.size W w1) := Lib.hid ((HB0.out.alloc hz0 _).trans (hG1.below (HO0.out.alloc _) (by rw [World.size_alloc]; omega))); have HO1 := Lib.hid hO1; have hz1 := HB1.out.size; clear hO1 hG1 HB0 HO0))
            have HC2 := Lib.hid (HIH.out at1 w1 (by rw [HTB.out]; omega) ((HI.out.below HB1.out (Nat.le_refl _)).more hz1))
            go_wp2_with fail
            with_reducible refine HC2.out.mono ?_
            rintro e w2 ⟨v2, at2, row4, rfl, ho2, hb2, hval, hl4, ha1, ha2⟩
            rw [HTB.out] at hl4 ha2
            obtain ⟨B2, d2, hv2, _⟩ := own_form ho2
            obtain ⟨m2, hm2⟩ : ∃ m2, row4.length = m2 := ⟨_, rfl⟩
            have HII : Hid (Ints w2 w2.heap.size .i64 B2 row4) := Lib.hid (Ints.own (by rw [hv2] at ho2; exact ho2))
            have HNL : Hid (B2 = none → d2 = 0) := Lib.hid (own_nil (by rw [hv2] at ho2; exact ho2))
            rw [hm2] at hv2 hl4
            subst hv2
            have HM2 := Lib.hid hm2
            have HVAL := Lib.hid hval
            have HO2 := Lib.hid (own_below HO1.out hb2 (Nat.le_refl _))
            have HB2 : Hid (Below W.heap.size W w2) := Lib.hid (HB1.out.trans (hb2.mono hz1))
            have hz2 := HB2.out.size
            clear ho2 hb2 hm2 hval HC2 HB1 HO1
            go_wp2_with (at_builtin; refine wpList_appL rfl (.tmp 74) (.tmp 75) 22 rfl W.heap.size 3 .i64 8 Try.underlying22 info_intg (by omega) (.slice A1 n1 c1) (row ++ [5, 10]) rfl HO2.out _ B2 m2 d2 row4 HM2.out rfl HNL.out HII.out (by rw [HN1.out, HM2.out]; have q1 := HNN1.out; omega) (by omega) ?_; intro v3 w3 hO3 hG3; have HO3 := Lib.hid hO3; obtain ⟨A3, c3, hv3, _⟩ := own_form hO3; have HB3 : Hid (Below W.heap.size W w3) := Lib.hid (HB2.out.trans (hG3.below HO2.out (by omega))); have HL3 : Hid (((row ++ [5, 10]) ++ row4).length = n1 + m2) := Lib.hid (by rw [List.length_append, HN1.out, HM2.out]); obtain ⟨n3, hn3⟩ : ∃ n3, ((row ++ [5, 10]) ++ row4).length = n3 := ⟨_, rfl⟩; rw [hn3] at hv3; subst hv3; clear hO3 hG3 HB2 HO2 hn3)
            go_roundw
            case rel => exact ⟨1, at2, _, by go_num, by omega, rfl, by omega, by omega, HO3.out, part_ob0 HP.out HVAL.out, by rw [HL3.out]; have q1 := HNN1.out; omega, HB3.out⟩
            case measure => simp [intOf]; omega
          · have hi0 : (0 : Int) < ((i + 1 : Nat) : Int) := by omega
            go_wp2_with (at_builtin; first
              | (refine wpList_appL rfl (.tmp 59) (.tmp 60) 22 rfl W.heap.size 3 .i64 8 Try.underlying22 info_intg (by omega) (.slice A0 n0 c0) (row) rfl (HO0.out.alloc _) _ _ _ 1 [11] rfl rfl (fun h => by cases h) (Ints.lit _ 3 .i64 [11]) (by rw [HN0.out]; simp; omega) (by rw [World.size_alloc]; omega) ?_; intro v1 w1 hO1 hG1; obtain ⟨A1, c1, hv1, _⟩ := own_form hO1; obtain ⟨n1, hn1⟩ : ∃ n1, ((row) ++ ([11] : List Int)).length = n1 := ⟨_, rfl⟩; rw [hn1] at hv1; subst hv1; have HN1 := Lib.hid hn1; have HNN1 : Hid (n1 = n0 + 1) := Lib.hid (by rw [← hn1, List.length_append, HN0.out]; rfl); clear hn1; have HB1 : Hid (Below W.heap.size W w1) := Lib.hid ((HB0.out.alloc hz0 _).trans (hG1.below (HO0.out.alloc _) (by rw [World.size_alloc]; omega))); have HO1 := Lib.hid hO1; have hz1 := HB1.out.size; clear hO1 hG1 HB0 HO0)
              | (refine wpList_appL rfl (.tmp 63) (.tmp 64) 22 rfl W.heap.size 3 .i64 8 Try.underlying22 info_intg (by omega) (.slice A1 n1 c1) (row ++ [11]) rfl (HO1.out.alloc _) _ _ _ 2 [5, 10] rfl rfl (fun h => by cases h) (Ints.lit _ 3 .i64 [5, 10]) (by rw [HN1.out]; have q1 := HNN1.out; simp; omega) (by rw [World.size_alloc]; omega) ?_; intro v2 w2 hO2 hG2; obtain ⟨A2, c2, hv2, _⟩ := own_form hO2; obtain ⟨n2, hn2⟩ : ∃ n2, ((row ++ [11]) ++ ([5, 10] : List Int)).length = n2 := ⟨_, rfl⟩; rw [hn2] at hv2; subst hv2; have HN2 := Lib.hid hn2; have HNN2 : Hid (n2 = n1 + 2) := Lib.hid (by rw [← hn2, List.length_append, HN1.out]; rfl); clear hn2; have HB2 : Hid (Below W.heap.size W w2) := Lib.hid ((HB1.out.alloc hz1 _).trans (hG2.below (HO1.out.alloc _) (by rw [World.size_alloc]; omega))); have HO2 := Lib.hid hO2; have hz2 := HB2.out.size; clear hO2 hG2 HB1 HO1))
            have HC3 := Lib.hid (HIH.out at1 w2 (by rw [HTB.out]; omega) ((HI.out.below HB2.out (Nat.le_refl _)).more hz2))
            go_wp2_with fail
            with_reducible refine HC3.out.mono ?_
            rintro e w3 ⟨v3, at2, row4, rfl, ho3, hb3, hval, hl4, ha1, ha2⟩
            rw [HTB.out] at hl4 ha2
            obtain ⟨B3, d3, hv3, _⟩ := own_form ho3
            obtain ⟨m3, hm3⟩ : ∃ m3, row4.length = m3 := ⟨_, rfl⟩
            have HII : Hid (Ints w3 w3.heap.size .i64 B3 row4) := Lib.hid (Ints.own (by rw [hv3] at ho3; exact ho3))
            have HNL : Hid (B3 = none → d3 = 0) := Lib.hid (own_nil (by rw [hv3] at ho3; exact ho3))
            rw [hm3] at hv3 hl4
            subst hv3
            have HM3 := Lib.hid hm3
            have HVAL := Lib.hid hval
            have HO3 := Lib.hid (own_below HO2.out hb3 (Nat.le_refl _))
            have HB3 : Hid (Below W.heap.size W w3) := Lib.hid (HB2.out.trans (hb3.mono hz2))
            have hz3 := HB3.out.size
            clear ho3 hb3 hm3 hval HC3 HB2 HO2
            go_wp2_with (at_builtin; refine wpList_appL rfl (.tmp 74) (.tmp 75) 22 rfl W.heap.size 3 .i64 8 Try.underlying22 info_intg (by omega) (.slice A2 n2 c2) (row ++ [11] ++ [5, 10]) rfl HO3.out _ B3 m3 d3 row4 HM3.out rfl HNL.out HII.out (by rw [HN2.out, HM3.out]; have q1 := HNN1.out; have q2 := HNN2.out; omega) (by omega) ?_; intro v4 w4 hO4 hG4; have HO4 := Lib.hid hO4; obtain ⟨A4, c4, hv4, _⟩ := own_form hO4; have HB4 : Hid (Below W.heap.size W w4) := Lib.hid (HB3.out.trans (hG4.below HO3.out (by omega))); have HL4 : Hid (((row ++ [11] ++ [5, 10]) ++ row4).length = n2 + m3) := Lib.hid (by rw [List.length_append, HN2.out, HM3.out]); obtain ⟨n4, hn4⟩ : ∃ n4, ((row ++ [11] ++ [5, 10]) ++ row4).length = n4 := ⟨_, rfl⟩; rw [hn4] at hv4; subst hv4; clear hO4 hG4 HB3 HO3 hn4)
            go_roundw
            case rel => exact ⟨i + 1 + 1, at2, _, by go_num, by omega, rfl, by omega, by omega, HO4.out, part_ob HP.out HVAL.out, by rw [HL4.out]; have q1 := HNN1.out; have q2 := HNN2.out; omega, HB4.out⟩
            case measure => simp [intOf]; omega
        · have hlt' : ¬ (i : Int) < (M : Int) := by omega
          have hq1 : i * TB d ≤ 3 * TB d := Nat.mul_le_mul_right _ (by omega)
          have hq3 : i * (3 + TB d) ≤ 3 * (3 + TB d) := Nat.mul_le_mul_right _ (by omega)
          go_wp2_with (at_builtin; first
            | (refine wpList_appL rfl (.tmp 78) (.tmp 80) 22 rfl W.heap.size 3 .i64 8 Try.underlying22 info_intg (by omega) (.slice A0 n0 c0) (row) rfl (HO0.out.alloc _) _ _ _ 1 [9] rfl rfl (fun h => by cases h) (Ints.lit _ 3 .i64 [9]) (by rw [HN0.out]; simp; omega) (by rw [World.size_alloc]; omega) ?_; intro v1 w1 hO1 hG1; obtain ⟨A1, c1, hv1, _⟩ := own_form hO1; obtain ⟨n1, hn1⟩ : ∃ n1, ((row) ++ ([9] : List Int)).length = n1 := ⟨_, rfl⟩; rw [hn1] at hv1; subst hv1; have HN1 := Lib.hid hn1; have HNN1 : Hid (n1 = n0 + 1) := Lib.hid (by rw [← hn1, List.length_append, HN0.out]; rfl); clear hn1; have HB1 : Hid (Below W.heap.size W w1) := Lib.hid ((HB0.out.alloc hz0 _).trans (hG1.below (HO0.out.alloc _) (by rw [World.size_alloc]; omega))); have HO1 := Lib.hid hO1; have hz1 := HB1.out.size; clear hO1 hG1 HB0 HO0))
          go_ret2
          exact ⟨.slice A1 n1 c1, at1, row ++ [9], rfl, HO1.out, HB1.out, part_close HP.out (by decide), by rw [HN1.out, TBs.out]; have q1 := HNN1.out; omega, by omega, by rw [TBs.out]; omega⟩
    · have b6 : (r == 6) = false := by simpa using h6
      go_enter Try.func20, Try.ntmps20
      go_wp2_with fail
      with_reducible refine (HPL.out _).mono ?_
      rintro e w1 ⟨rfl, rfl⟩
      have HO0 : Hid (Own (W.alloc (.cells #[.int .i64 6] 3)) W.heap.size 3 .i64 (.slice (some ⟨W.heap.size, 0, none⟩) 1 1) [6]) := Lib.hid (own_lit W W.heap.size 3 .i64 [6] (Nat.le_refl _) (by simp [maxLen]))
      have HB0 : Hid (Below W.heap.size W _) := Lib.hid ((Below.refl _ _).alloc (Nat.le_refl _) (.cells #[.int .i64 6] 3))
      go_wp2_with fail
      go_loopw [1, 9, 12] (fun atv out iv wr => KnL W 7 1 M at0 (TB d) atv out iv wr) (fun _ _ iv _ => M - (intOf iv).toNat)
      case atStart => exact ⟨0, at0 + 1, _, rfl, by omega, by go_num, by omega, by omega, HO0.out, part_list, by simp, HB0.out⟩
      case round =>
        clear HO0 HB0
        obtain ⟨i, at1, row, rfl, him, rfl, hat1, hat2, hO, hP, hrl, hBw⟩ := hrel
        obtain ⟨A0, c0, hv0, _⟩ := own_form hO
        obtain ⟨n0, hn0⟩ : ∃ n0, row.length = n0 := ⟨_, rfl⟩
        rw [hn0] at hv0 hrl
        subst hv0
        have HO0 := Lib.hid hO
        have HP := Lib.hid hP
        have HB0 := Lib.hid hBw
        have HN0 := Lib.hid hn0
        have hz0 := HB0.out.size
        clear hO hP hBw hn0
        have hm1 : (i + 1) * TB d = i * TB d + TB d := Nat.succ_mul _ _
        have hm3 : (i + 1) * (3 + TB d) = i * (3 + TB d) + (3 + TB d) := Nat.succ_mul _ _
        by_cases hlt : i < M
        · have hlt' : (i : Int) < (M : Int) := by omega
          have hq1 : i * TB d ≤ 2 * TB d := Nat.mul_le_mul_right _ (by omega)
          have hq3 : i * (3 + TB d) ≤ 2 * (3 + TB d) := Nat.mul_le_mul_right _ (by omega)
          generalize hTBe : TB d = tb at *
          have HTB := Lib.hid hTBe
          clear hTBe
          rcases i with _ | i
          · have hi0 : ¬ (0 : Int) < ((0 : Nat) : Int) := by decide
            have HC1 := Lib.hid (HIH.out at1 wr (by rw [HTB.out]; omega) ((HI.out.below HB0.out (Nat.le_refl _)).more hz0))
            go_wp2_with fail
            with_reducible refine HC1.out.mono ?_
            rintro e w1 ⟨v1, at2, row4, rfl, ho1, hb1, hval, hl4, ha1, ha2⟩
            rw [HTB.out] at hl4 ha2
            obtain ⟨B1, d1, hv1, _⟩ := own_form ho1
            obtain ⟨m1, hm1⟩ : ∃ m1, row4.length = m1 := ⟨_, rfl⟩
            have HII : Hid (Ints w1 w1.heap.size .i64 B1 row4) := Lib.hid (Ints.own (by rw [hv1] at ho1; exact ho1))
            have HNL : Hid (B1 = none → d1 = 0) := Lib.hid (own_nil (by rw [hv1] at ho1; exact ho1))
            rw [hm1] at hv1 hl4
            subst hv1
            have HM1 := Lib.hid hm1
            have HVAL := Lib.hid hval
            have HO1 := Lib.hid (own_below HO0.out hb1 (Nat.le_refl _))
            have HB1 : Hid (Below W.heap.size W w1) := Lib.hid (HB0.out.trans (hb1.mono hz0))
            have hz1 := HB1.out.size
            clear ho1 hb1 hm1 hval HC1 HB0 HO0
            go_wp2_with (at_builtin; refine wpList_appL rfl (.tmp 74) (.tmp 75) 22 rfl W.heap.size 3 .i64 8 Try.underlying22 info_intg (by omega) (.slice A0 n0 c0) (row) rfl HO1.out _ B1 m1 d1 row4 HM1.out rfl HNL.out HII.out (by rw [HN0.out, HM1.out]; omega) (by omega) ?_; intro v2 w2 hO2 hG2; have HO2 := Lib.hid hO2; obtain ⟨A2, c2, hv2, _⟩ := own_form hO2; have HB2 : Hid (Below W.heap.size W w2) := Lib.hid (HB1.out.trans (hG2.below HO1.out (by omega))); have HL2 : Hid (((row) ++ row4).length = n0 + m1) := Lib.hid (by rw [List.length_append, HN0.out, HM1.out]); obtain ⟨n2, hn2⟩ : ∃ n2, ((row) ++ row4).length = n2 := ⟨_, rfl⟩; rw [hn2] at hv2; subst hv2; clear hO2 hG2 HB1 HO1 hn2)
            go_roundw
            case rel => exact ⟨1, at2, _, by go_num, by omega, rfl, by omega, by omega, HO2.out, part_li0 HP.out HVAL.out, by rw [HL2.out]; omega, HB2.out⟩
            case measure => simp [intOf]; omega
          · have hi0 : (0 : Int) < ((i + 1 : Nat) : Int) := by omega
            go_wp2_with (at_builtin; first
              | (refine wpList_appL rfl (.tmp 59) (.tmp 60) 22 rfl W.heap.size 3 .i64 8 Try.underlying22 info_intg (by omega) (.slice A0 n0 c0) (row) rfl (HO0.out.alloc _) _ _ _ 1 [11] rfl rfl (fun h => by cases h) (Ints.lit _ 3 .i64 [11]) (by rw [HN0.out]; simp; omega) (by rw [World.size_alloc]; omega) ?_; intro v1 w1 hO1 hG1; obtain ⟨A1, c1, hv1, _⟩ := own_form hO1; obtain ⟨n1, hn1⟩ : ∃ n1, ((row) ++ ([11] : List Int)).length = n1 := ⟨_, rfl⟩; rw [hn1] at hv1; subst hv1; have HN1 := Lib.hid hn1; have HNN1 : Hid (n1 = n0 + 1) := Lib.hid (by rw [← hn1, List.length_append, HN0.out]; rfl); clear hn1; have HB1 : Hid (Below W.heap.size W w1) := Lib.hid ((HB0.out.alloc hz0 _).trans (hG1.below (HO0.out.alloc _) (by rw [World.size_alloc]; omega))); have HO1 := Lib.hid hO1; have hz1 := HB1.out.size; clear hO1 hG1 HB0 HO0))
            have HC2 := Lib.hid (HIH.out at1 w1 (by rw [HTB.out]; omega) ((HI.out.below HB1.out (Nat.le_refl _)).more hz1))
            go_wp2_with fail
            with_reducible refine HC2.out.mono ?_
            rintro e w2 ⟨v2, at2, row4, rfl, ho2, hb2, hval, hl4, ha1, ha2⟩
            rw [HTB.out] at hl4 ha2
            obtain ⟨B2, d2, hv2, _⟩ := own_form ho2
            obtain ⟨m2, hm2⟩ : ∃ m2, row4.length = m2 := ⟨_, rfl⟩
            have HII : Hid (Ints w2 w2.heap.size .i64 B2 row4) := Lib.hid (Ints.own (by rw [hv2] at ho2; exact ho2))
            have HNL : Hid (B2 = none → d2 = 0) := Lib.hid (own_nil (by rw [hv2] at ho2; exact ho2))
            rw [hm2] at hv2 hl4
            subst hv2
            have HM2 := Lib.hid hm2
            have HVAL := Lib.hid hval
            have HO2 := Lib.hid (own_below HO1.out hb2 (Nat.le_refl _))
            have HB2 : Hid (Below W.heap.size W w2) := Lib.hid (HB1.out.trans (hb2.mono hz1))
            have hz2 := HB2.out.size
            clear ho2 hb2 hm2 hval HC2 HB1 HO1
            go_wp2_with (at_builtin; refine wpList_appL rfl (.tmp 74) (.tmp 75) 22 rfl W.heap.size 3 .i64 8 Try.underlying22 info_intg (by omega) (.slice A1 n1 c1) (row ++ [11]) rfl HO2.out _ B2 m2 d2 row4 HM2.out rfl HNL.out HII.out (by rw [HN1.out, HM2.out]; have q1 := HNN1.out; omega) (by omega) ?_; intro v3 w3 hO3 hG3; have HO3 := Lib.hid hO3; obtain ⟨A3, c3, hv3, _⟩ := own_form hO3; have HB3 : Hid (Below W.heap.size W w3) := Lib.hid (HB2.out.trans (hG3.below HO2.out (by omega))); have HL3 : Hid (((row ++ [11]) ++ row4).length = n1 + m2) := Lib.hid (by rw [List.length_append, HN1.out, HM2.out]); obtain ⟨n3, hn3⟩ : ∃ n3, ((row ++ [11]) ++ row4).length = n3 := ⟨_, rfl⟩; rw [hn3] at hv3; subst hv3; clear hO3 hG3 HB2 HO2 hn3)
            go_roundw
            case rel => exact ⟨i + 1 + 1, at2, _, by go_num, by omega, rfl, by omega, by omega, HO3.out, part_li HP.out HVAL.out, by rw [HL3.out]; have q1 := HNN1.out; omega, HB3.out⟩
            case measure => simp [intOf]; omega
        · have hlt' : ¬ (i : Int) < (M : Int) := by omega
          have hq1 : i * TB d ≤ 3 * TB d := Nat.mul_le_mul_right _ (by omega)
          have hq3 : i * (3 + TB d) ≤ 3 * (3 + TB d) := Nat.mul_le_mul_right _ (by omega)
          go_wp2_with (at_builtin; first
            | (refine wpList_appL rfl (.tmp 78) (.tmp 80) 22 rfl W.heap.size 3 .i64 8 Try.underlying22 info_intg (by omega) (.slice A0 n0 c0) (row) rfl (HO0.out.alloc _) _ _ _ 1 [7] rfl rfl (fun h => by cases h) (Ints.lit _ 3 .i64 [7]) (by rw [HN0.out]; simp; omega) (by rw [World.size_alloc]; omega) ?_; intro v1 w1 hO1 hG1; obtain ⟨A1, c1, hv1, _⟩ := own_form hO1; obtain ⟨n1, hn1⟩ : ∃ n1, ((row) ++ ([7] : List Int)).length = n1 := ⟨_, rfl⟩; rw [hn1] at hv1; subst hv1; have HN1 := Lib.hid hn1; have HNN1 : Hid (n1 = n0 + 1) := Lib.hid (by rw [← hn1, List.length_append, HN0.out]; rfl); clear hn1; have HB1 : Hid (Below W.heap.size W w1) := Lib.hid ((HB0.out.alloc hz0 _).trans (hG1.below (HO0.out.alloc _) (by rw [World.size_alloc]; omega))); have HO1 := Lib.hid hO1; have hz1 := HB1.out.size; clear hO1 hG1 HB0 HO0))
          go_ret2
          exact ⟨.slice A1 n1 c1, at1, row ++ [7], rfl, HO1.out, HB1.out, part_close HP.out (by decide), by rw [HN1.out, TBs.out]; have q1 := HNN1.out; omega, by omega, by rw [TBs.out]; omega⟩
  · have hlt' : ¬ (at0 : Int) < n := by omega
    clear hI hn IH
    go_enter Try.func20, Try.ntmps20
    go_wp2
    go_ret2
    rw [← e1]
    exact kone (s := 0) (by decide) (by decide)
theorem kinds_any (a0 : Option Addr) (n cap : Nat) (z : List Int) (hn : z.length = n) (hm : n ≤ maxLen) : ∀ d, KOk a0 n cap z d := fun d => by
  induction d with
  | zero => exact kinds_step a0 n cap z hn hm 0 (fun k h => by omega)
  | succ d ih => exact kinds_step a0 n cap z hn hm (d + 1) (fun k h => by
      obtain rfl : d = k := by omega
      exact ih)
end Go.Proofs.Ytdkfffncohipbaa
