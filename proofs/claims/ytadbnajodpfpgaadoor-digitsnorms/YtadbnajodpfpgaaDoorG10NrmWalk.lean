/- Printed by gen_g10nrm.py. The walk of DigitsNorms. -/
import Derived.Test.YtadbnajodpfpgaaDoorG10Laws
import Derived.Test.YtadbnajodpfpgaaDoorG10FormM
import Derived.Test.YtadbnajodpfpgaaDoorAnyM
import Derived.Deep.CutRange
namespace Go.Proofs.YtadbnajodpfpgaaDoor
set_option maxRecDepth 100000
open Go.ChangeShapes Go.WideShapes Go.ChangeAt Go.RowKit
set_option linter.unusedVariables false
set_option linter.unusedSimpArgs false

/-- noughts at either end -/
def padD (x : Dc) (f z : Nat) : Dc := ⟨x.n, (zs f ++ x.d) ++ zs z, x.e - z⟩
theorem norm_pad (x : Dc) (f z : Nat) : normF (padD x f z) = normF x := by
  unfold padD
  have h1 : ∀ z : Nat, normF ⟨x.n, (zs f ++ x.d) ++ zs z, x.e - z⟩ = normF ⟨x.n, zs f ++ x.d, x.e⟩ := fun z => by
    induction z with
    | zero =>
      have e1 : (zs f ++ x.d) ++ zs 0 = zs f ++ x.d := List.append_nil _
      have e2 : x.e - ((0 : Nat) : Int) = x.e := by omega
      rw [e1, e2]
    | succ z ih =>
      have e := norm_end x.n ((zs f ++ x.d) ++ zs z) (x.e - z)
      have e1 : (zs f ++ x.d) ++ zs (z + 1) = ((zs f ++ x.d) ++ zs z) ++ [48] := by rw [← zs_snoc, List.append_assoc, List.append_assoc, List.append_assoc]
      have e2 : x.e - ((z + 1 : Nat) : Int) = x.e - z - 1 := by omega
      rw [e1, e2, e, ih]
  have h2 : ∀ f : Nat, normF ⟨x.n, zs f ++ x.d, x.e⟩ = normF x := fun f => by
    induction f with
    | zero => rfl
    | succ f ih => exact (norm_front x.n (zs f ++ x.d) x.e).trans ih
  rw [h1 z, h2 f]
theorem cmp_self {x : Dc} (h : checkF x = true) : cmpF x x = 0 := by
  unfold checkF allB at h
  simp only [Bool.and_eq_true, decide_eq_true_eq, List.all_eq_true] at h
  obtain ⟨K, hK⟩ : ∃ K : Nat, 1000000000 ≤ K := ⟨_, Nat.le_refl _⟩
  rw [cmp_sc (K := K) (fun c hc => h.1 c hc) (fun c hc => h.1 c hc) (by omega) (by omega), Int.sub_self]
  rfl
theorem check_pad {x : Dc} {f z : Nat} (h : checkF x = true) (he : -900000000 ≤ x.e) (hz : z ≤ 100) : checkF (padD x f z) = true := by
  unfold checkF allB at h
  simp only [Bool.and_eq_true, decide_eq_true_eq, List.all_eq_true] at h
  refine check_of (allD_app (allD_app (zs_allD f) (fun c hc => h.1 c hc)) (zs_allD z)) ?_ ?_ <;> (unfold padD; dsimp only; omega)
/-- how what is normed looks -/
def LkD (l : List UInt8) : Prop := ∃ k : Nat, ∃ h : (bs l).size = k + 1, (bs l)[0]'(by omega) ≠ 48 ∧ (bs l)[k]'(by omega) ≠ 48
theorem lk_of {l : List UInt8} (h1 : l ≠ []) (h2 : l.head? ≠ some 48) (h3 : l.getLast? ≠ some 48) : LkD l := by
  have hp := List.length_pos_iff.2 h1
  refine ⟨l.length - 1, by rw [bs_size]; omega, ?_, ?_⟩
  · intro e
    have h4 := L8_at (bs l) 0 (by rw [bs_size]; exact hp)
    rw [e, L8_bs] at h4
    rw [List.head?_eq_getElem?] at h2
    exact h2 h4
  · intro e
    have h4 := L8_at (bs l) (l.length - 1) (by rw [bs_size]; omega)
    rw [e, L8_bs] at h4
    rw [List.getLast?_eq_getElem?] at h3
    exact h3 h4
theorem norm_look (x : Dc) : normF x = zeroD ∨ LkD (normF x).d := by
  rcases norm_cases x with ⟨h, _⟩ | ⟨⟨h1, h2, h3⟩, _⟩
  · exact .inl h
  · exact .inr (lk_of h1 h2 h3)
theorem norm_check {x : Dc} (h : checkF x = true) (he : (normF x).e ≤ 1000000000) : checkF (normF x) = true := by
  unfold checkF allB at h
  simp only [Bool.and_eq_true, decide_eq_true_eq, List.all_eq_true] at h
  have := norm_e x
  exact check_of (norm_allD (fun c hc => h.1 c hc)) (by omega) he
theorem St2.far {w W : World} {ga gb : Nat} {na : Bool} {sa : ByteArray} {ea : Int} {nb : Bool} {sb : ByteArray} {eb : Int} (h : St2 w ga gb na sa ea nb sb eb W) {p : Addr} (h1 : ga ≠ p.block) (h2 : gb ≠ p.block) (h3 : w.heap.size ≤ p.block) (u : Value) : St2 w ga gb na sa ea nb sb eb (W.setCell p u) := ⟨h.a.far h1 u, h.b.far h2 u, h.was.setCell h3 u⟩
abbrev ZB (W : World) (p : Nat) : Prop := DcBlk W p false (bs []) 0
theorem nrm_mk {w W : World} {ga gb p q : Nat} {na : Bool} {sa : ByteArray} {ea : Int} {nb : Bool} {sb : ByteArray} {eb : Int} {ny : Bool} {sy : ByteArray} {ey : Int} (h : St2 w ga gb na sa ea nb sb eb W) (hp : ZB W p) (hq : ZB W q) (hpq : p ≠ q) (h1 : ga ≠ p) (h2 : gb ≠ p) (h3 : ga ≠ q) (h4 : gb ≠ q) (h5 : w.heap.size ≤ p) (h6 : w.heap.size ≤ q) :
    St4 w ga gb p q na sa ea nb sb eb ny sy ey ny sy ey ((((((W.setCell ⟨p, 0, none⟩ (.bool ny)).setCell ⟨p, 1, none⟩ (.string sy)).setCell ⟨p, 2, none⟩ (.int .i64 ey)).setCell ⟨q, 0, none⟩ (.bool ny)).setCell ⟨q, 1, none⟩ (.string sy)).setCell ⟨q, 2, none⟩ (.int .i64 ey)) := by
  have h7 := (((((h.far h1 h2 h5 (p := ⟨p, 0, none⟩) (.bool ny)).far h1 h2 h5 (p := ⟨p, 1, none⟩) (.string sy)).far h1 h2 h5 (p := ⟨p, 2, none⟩) (.int .i64 ey)).far h3 h4 h6 (p := ⟨q, 0, none⟩) (.bool ny)).far h3 h4 h6 (p := ⟨q, 1, none⟩) (.string sy)).far h3 h4 h6 (p := ⟨q, 2, none⟩) (.int .i64 ey)
  refine ⟨h7.a, h7.b, ?_, ?_, h7.was⟩
  · exact (((((hp.set' 0 _ rfl).set' 1 _ rfl).set' 2 _ rfl).far hpq _).far hpq _).far hpq _
  · exact (((((hq.far hpq.symm _).far hpq.symm _).far hpq.symm _).set' 0 _ rfl).set' 1 _ rfl).set' 2 _ rfl
/-- both, normed -/
def NrmRel (w : World) (gx : Nat) (na : Bool) (sa : ByteArray) (ea : Int) (nb : Bool) (sb : ByteArray) (eb : Int) (ny : Bool) (sy : ByteArray) (ey : Int) (v10 v11 : Value) (W : World) : Prop :=
  ∃ p q, v10 = .pointer (some ⟨p, 0, none⟩) ∧ v11 = .pointer (some ⟨q, 0, none⟩) ∧ St4 w w.heap.size gx p q na sa ea nb sb eb ny sy ey ny sy ey W
def PadRel1 (w : World) (gx : Nat) (n : Bool) (s : ByteArray) (e : Int) (l : List UInt8) (F : Nat) (i : Value) (W : World) : Prop :=
  ∃ j : Nat, j ≤ F ∧ i = .int .i64 j ∧ St2 w w.heap.size gx n s e n (bs (zs j ++ l)) e W
def PadRel2 (w : World) (gx : Nat) (n : Bool) (s : ByteArray) (e : Int) (l : List UInt8) (Z : Nat) (i : Value) (W : World) : Prop :=
  ∃ j : Nat, j ≤ Z ∧ i = .int .i64 j ∧ St2 w w.heap.size gx n s e n (bs (l ++ zs j)) (e - j) W

set_option maxHeartbeats 32000000 in
theorem norms_walk (HD : DigitsOk) (x : Dc) (front fin : Int) (w : World) (hx : x.d.length ≤ 9223372036854775807) (hf0 : 0 ≤ front) (hf1 : front ≤ 255) (hz0 : 0 ≤ fin) (hz1 : fin ≤ 255) :
    Calls Tryd.prog 6 #[dcV x, .int .u8 front, .int .u8 fin] w fun e w' => e = .returned (.bool true) ∧ Below w.heap.size w w' := by
  obtain ⟨F, hF⟩ : ∃ F : Nat, front % 20 = F := ⟨(front % 20).toNat, by omega⟩
  obtain ⟨Z, hZ⟩ : ∃ Z : Nat, fin % 20 = Z := ⟨(fin % 20).toNat, by omega⟩
  have hF20 : F < 20 := by omega
  have hZ20 : Z < 20 := by omega
  have HFA := Lib.hid (fun W => fits_any x W hx)
  have HA := Lib.hid (fun W => awake10 HD W)
  have HALL : Hid (fitsF x = true → -900000000 ≤ x.e → ((∀ W, Calls Tryd.prog 18 #[dcV x] W fun e w' => e = .returned (dcV (normF x)) ∧ Below W.heap.size W w') ∧ (∀ W, Calls Tryd.prog 18 #[dcV (padD x F Z)] W fun e w' => e = .returned (dcV (normF x)) ∧ Below W.heap.size W w')
      ∧ (∀ W, Calls Tryd.prog 20 #[dcV x, dcV (padD x F Z)] W fun e w' => e = .returned (.int .i64 0) ∧ Below W.heap.size W w') ∧ (∀ W, Calls Tryd.prog 22 #[dcV x] W fun e w' => e = .returned (.bool (wholeF x)) ∧ Below W.heap.size W w') ∧ (∀ W, Calls Tryd.prog 22 #[dcV (padD x F Z)] W fun e w' => e = .returned (.bool (wholeF x)) ∧ Below W.heap.size W w')
      ∧ ((normF x).e ≤ 1000000000 → ∀ W, Calls Tryd.prog 18 #[dcV (normF x)] W fun e w' => e = .returned (dcV (normF x)) ∧ Below W.heap.size W w') ∧ x.d.length ≤ 400 ∧ x.e ≤ 1000000000)) := Lib.hid fun fa he => by
    obtain ⟨ca, la⟩ := fits_is fa
    have cp := check_pad (f := F) (z := Z) ca he (by omega)
    have lp : (padD x F Z).d.length ≤ 1000 := by
      unfold padD
      dsimp only
      rw [List.length_append, List.length_append, zs_len, zs_len]; omega
    have np := norm_pad x F Z
    refine ⟨fun W => HD.norm x W (by omega) ca, fun W => ?_, fun W => ?_, fun W => HD.whole x W (by omega) ca, fun W => ?_, fun h W => ?_, la, ?_⟩
    · have h := HD.norm _ W lp cp
      rwa [np] at h
    · have h := HD.cmp x _ W (by omega) lp ca cp
      have e : cmpF x (padD x F Z) = 0 := by
        rw [← cmp_self ca]
        unfold cmpF
        rw [np]
      rwa [e] at h
    · have h := HD.whole _ W lp cp
      have e : wholeF (padD x F Z) = wholeF x := by unfold wholeF; rw [np]
      rwa [e] at h
    · have h := HD.norm (normF x) W (by have := norm_len x; omega) (norm_check ca h)
      rwa [norm_twice] at h
    · unfold checkF at ca
      simp only [Bool.and_eq_true, decide_eq_true_eq] at ca
      omega
  have HLK := Lib.hid (norm_look x)
  have hyl := norm_len x
  have HXP : Hid (padD x F Z = ⟨x.n, (zs F ++ x.d) ++ zs Z, x.e - Z⟩) := Lib.hid rfl
  clear HD hx
  generalize padD x F Z = xp at *
  generalize normF x = y at *
  generalize fitsF x = fa at *
  generalize wholeF x = wb at *
  obtain ⟨n, d, e⟩ := x
  obtain ⟨np, dp, ep⟩ := xp
  obtain ⟨ny, dy, ey⟩ := y
  unfold dcV at *
  dsimp only at *
  obtain ⟨hnp, hdp, hep⟩ : np = n ∧ dp = (zs F ++ d) ++ zs Z ∧ ep = e - Z := by
    have h := HXP.out
    injection h with h1 h2 h3
    exact ⟨h1, h2, h3⟩
  have HSP : Hid (bs dp = bs ((zs F ++ d) ++ zs Z)) := Lib.hid (by rw [hdp])
  have HEP : Hid (ep = e - Z) := Lib.hid hep
  subst hnp
  clear hdp hep HXP
  have HLD : Hid (L8 (bs d) = d) := Lib.hid (L8_bs d)
  have hls : (bs d).size = d.length := bs_size d
  have hly : Hid (bs dy = bs []) → Hid (dy = []) := fun h => Lib.hid (by have := congrArg L8 h.out; rwa [L8_bs, L8_bs] at this)
  generalize bs dp = sp at *
  go_enter Tryd.func6, Tryd.ntmps6
  go_wp2_with fail
  have HX0 : Hid (DcBlk (w.alloc (.cells #[.bool np, .string (bs d), .int .i64 e] 23)) w.heap.size np (bs d) e) := Lib.hid (Blk.new w 23 _)
  have HB0 : Hid (Below w.heap.size w (w.alloc (.cells #[.bool np, .string (bs d), .int .i64 e] 23))) := Lib.hid ((Below.refl _ _).alloc (Nat.le_refl _) _)
  generalize w.alloc (.cells #[.bool np, .string (bs d), .int .i64 e] 23) = w0 at *
  with_reducible refine (HFA.out _).mono ?_
  rintro e1 w1 ⟨rfl, hb⟩
  have HX1 := Lib.hid (HX0.out.below hb HX0.out.lt)
  have HB1 := Lib.hid (HB0.out.trans (hb.mono HB0.out.size))
  have kd0 : w1.cell? ⟨w.heap.size, 0, none⟩ = some (.bool np) := HX1.out.cell 0
  have kd1 : w1.cell? ⟨w.heap.size, 1, none⟩ = some (.string (bs d)) := HX1.out.cell 1
  have kd2 : w1.cell? ⟨w.heap.size, 2, none⟩ = some (.int .i64 e) := HX1.out.cell 2
  clear hb HB0 HX0 HFA hls
  cases fa with
  | false =>
    clear HALL
    go_wp2_with fail
    with_reducible refine (HA.out _).mono ?_
    rintro e1 w9 ⟨rfl, hb⟩
    have HB9 := Lib.hid (HB1.out.trans (hb.mono HB1.out.size))
    go_wp2
    go_ret
    exact ⟨rfl, HB9.out⟩
  | true =>
    by_cases he : e < -900000000
    · have he' : decide (e < -900000000) = true := decide_eq_true he
      clear HALL
      go_wp2_with fail
      with_reducible refine (HA.out _).mono ?_
      rintro e1 w9 ⟨rfl, hb⟩
      have HB9 := Lib.hid (HB1.out.trans (hb.mono HB1.out.size))
      go_wp2
      go_ret
      exact ⟨rfl, HB9.out⟩
    · have he' : decide (e < -900000000) = false := decide_eq_false he
      obtain ⟨hN1, hN2, hC, hW1, hW2, hN3, hlen, hhi⟩ := HALL.out (by first | rfl | trivial) (by omega)
      have HN1 := Lib.hid hN1
      have HN2 := Lib.hid hN2
      have HC := Lib.hid hC
      have HW1 := Lib.hid hW1
      have HW2 := Lib.hid hW2
      have HN3 := Lib.hid hN3
      clear hN1 hN2 hC hW1 hW2 hN3 HALL
      go_upto_region 4 with fail
      have HS2 : Hid (St2 w w.heap.size w1.heap.size np (bs d) e np (bs d) e (w1.alloc (.cells #[.bool np, .string (bs d), .int .i64 e] 23))) := Lib.hid (by
        have hb := (Below.refl w1.heap.size w1).alloc (Nat.le_refl _) (.cells #[.bool np, .string (bs d), .int .i64 e] 23)
        exact ⟨HX1.out.below hb HX1.out.lt, Blk.new w1 23 _, HB1.out.trans (hb.mono HB1.out.size)⟩)
      have hgx : w.heap.size < w1.heap.size := HX1.out.lt
      clear HX1 HB1 kd0 kd1 kd2
      generalize w1.alloc (.cells #[.bool np, .string (bs d), .int .i64 e] 23) = w2 at *
      generalize w1.heap.size = gx at *
      have hne : w.heap.size ≠ gx := by omega
      have c1 : (⟨#[48]⟩ : ByteArray).size = 1 := rfl
      go_wp2_with fail
      go_loopw [8] (PadRel1 w gx np (bs d) e d F) (fun i _ => F - (intOf i).toNat)
      case atStart => exact ⟨0, Nat.zero_le _, rfl, HS2.out⟩
      case round =>
        obtain ⟨j, hj, rfl, hs⟩ := hrel
        have HS := Lib.hid hs
        clear hs
        by_cases hlt : j < F
        · have hlt' : (j : Int) < F := by omega
          have hXs : (bs (zs j ++ d)).size ≤ 500 := by rw [bs_size, List.length_append, zs_len]; omega
          have HE : Hid (⟨#[48]⟩ ++ bs (zs j ++ d) = bs (zs (j + 1) ++ d)) := Lib.hid (L8_inj (by rw [L8_app, L8_bs, L8_bs]; rfl))
          have hkb1 := HS.out.b1
          have hfb1 : wr.frozen? ⟨gx, 1, none⟩ = false := HS.out.b.frozen 1
          have hltb : gx < wr.heap.size := HS.out.b.lt
          generalize bs (zs j ++ d) = X at *
          go_wp2
          go_roundw
          case rel => exact ⟨j + 1, by omega, by go_num, by rw [← HE.out]; exact ⟨HS.out.a.far (by simpa using hne) _, HS.out.b.set' 1 _ rfl, HS.out.was.setCell (by simp; omega) _⟩⟩
          case measure => simp [intOf]; omega
        · have hlt' : ¬ (j : Int) < F := by omega
          obtain rfl : j = F := by omega
          clear hlt hj
          generalize wr = w3 at *
          go_wp2_with fail
          go_loopw [9] (PadRel2 w gx np (bs d) e (zs j ++ d) Z) (fun i _ => Z - (intOf i).toNat)
          case atStart => exact ⟨0, Nat.zero_le _, rfl, by
            have e1 : (zs j ++ d) ++ zs 0 = zs j ++ d := List.append_nil _
            have e2 : e - ((0 : Nat) : Int) = e := by omega
            rw [e1, e2]; exact HS.out⟩
          case round =>
            obtain ⟨i, hi, rfl, hs⟩ := hrel
            have HT := Lib.hid hs
            clear hs
            by_cases hlz : i < Z
            · have hlz' : (i : Int) < Z := by omega
              have hXs : (bs ((zs j ++ d) ++ zs i)).size ≤ 500 := by rw [bs_size, List.length_append, List.length_append, zs_len, zs_len]; omega
              have HE : Hid (bs ((zs j ++ d) ++ zs i) ++ ⟨#[48]⟩ = bs ((zs j ++ d) ++ zs (i + 1))) := Lib.hid (L8_inj (by rw [L8_app, L8_bs, L8_bs, ← zs_snoc, ← List.append_assoc]; rfl))
              have HEE : Hid (e - (i : Int) - 1 = e - ((i + 1 : Nat) : Int)) := Lib.hid (by omega)
              have hkb1 := HT.out.b1
              have hkb2 := HT.out.b2
              have hfb1 : wr.frozen? ⟨gx, 1, none⟩ = false := HT.out.b.frozen 1
              have hfb2 : wr.frozen? ⟨gx, 2, none⟩ = false := HT.out.b.frozen 2
              have hltb : gx < wr.heap.size := HT.out.b.lt
              have hw1 : IntKind.i64.wrap (e - (i : Int) - 1) = e - (i : Int) - 1 := IntWalk.i64_in _ (by omega)
              generalize bs ((zs j ++ d) ++ zs i) = X at *
              obtain ⟨ei, hei⟩ : ∃ ei, e - (i : Int) = ei := ⟨_, rfl⟩
              rw [hei] at hkb2 hw1 HT HEE
              have hei1 : -2000000000 ≤ ei := by omega
              have hei2 : ei ≤ 2000000000 := by omega
              clear hei
              go_wp2
              go_roundw
              case rel => exact ⟨i + 1, by omega, by go_num, by rw [← HE.out, ← HEE.out]; exact ⟨(HT.out.a.far (by simpa using hne) _).far (by simpa using hne) _, (HT.out.b.set' 1 _ rfl).set' 2 _ rfl, (HT.out.was.setCell (by simp; omega) _).setCell (by simp; omega) _⟩⟩
              case measure => simp [intOf]; omega
            · have hlz' : ¬ (i : Int) < Z := by omega
              obtain rfl : i = Z := by omega
              have HU : Hid (St2 w w.heap.size gx np (bs d) e np sp ep wr) := Lib.hid (by rw [HSP.out, HEP.out]; exact HT.out)
              clear HT HS hlz hi HSP HEP
              generalize wr = w4 at *
              generalize bs d = sd at *
              go_wp2_with fail
              go_cut [10, 11] from 48 to 51 (fun v10 v11 W => NrmRel w gx np sd e np sp ep ny (bs dy) ey v10 v11 W)
              case first =>
                refine wp_region_H (fun V => St2 w w.heap.size gx np sd e np sp ep V) (by kernel_rfl) ?_
                have hg1 := Grow.drew w4
                have HS1 := Lib.hid (HU.out.go hg1)
                clear HU
                generalize w4.drew = w5 at *
                clear hg1
                refine wpH_take 0 48 (v := ?v0) rfl rfl (by kernel_rfl) (by kernel_rfl) (by kernel_rfl) (fun _ _ _ h => h) HS1.out (Or.inl ⟨by rfl, ?y0⟩) ?r0
                case y0 => (intro W hW; have k0 := hW.a0; have k1 := hW.a1; have k2 := hW.a2; (go_simp; try with_reducible rfl))
                simp only [Act.put, List.setIfInBounds_toArray, List.set_cons_zero, List.set_cons_succ]
                refine wpH_take 2 50 (v := ?v2) rfl rfl (by kernel_rfl) (by kernel_rfl) (by kernel_rfl) (fun _ _ _ h => h) HS1.out (Or.inl ⟨by rfl, ?y2⟩) ?r2
                case y2 => (intro W hW; have k0 := hW.b0; have k1 := hW.b1; have k2 := hW.b2; (go_simp; try with_reducible rfl))
                simp only [Act.put, List.setIfInBounds_toArray, List.set_cons_zero, List.set_cons_succ]
                refine wpH_three 1 4 5 (by kernel_rfl) rfl rfl rfl (fun K hK => ?_) (fun K hK => ?_) (fun K hK => ?_)
                · go_simp
                  refine (HN1.out _).mono ?_
                  rintro e1 u1 ⟨rfl, hb⟩
                  have HS_u1 := Lib.hid (HS1.out.go hb)
                  refine hK.out _ _ HS_u1.out ?_
                  clear hK K hb
                  try simp only [Act.put, List.getElem_toArray, List.getElem_cons_succ, List.getElem_cons_zero, List.setIfInBounds_toArray, List.set_cons_zero, List.set_cons_succ]
                  refine wpH_three 3 4 5 (by kernel_rfl) rfl rfl rfl (fun K hK => ?_) (fun K hK => ?_) (fun K hK => ?_)
                  · go_simp
                    refine (HN2.out _).mono ?_
                    rintro e1 u2 ⟨rfl, hb⟩
                    have HS_u2 := Lib.hid (HS_u1.out.go hb)
                    refine hK.out _ _ HS_u2.out ?_
                    clear hK K hb
                    try simp only [Act.put, List.getElem_toArray, List.getElem_cons_succ, List.getElem_cons_zero, List.setIfInBounds_toArray, List.set_cons_zero, List.set_cons_succ]
                    refine wpH_two 4 5 (by kernel_rfl) rfl rfl (fun K hK => ?_) (fun K hK => ?_)
                    · go_simp
                      have hbs : (⟨#[]⟩ : ByteArray) = bs [] := rfl
                      rw [hbs]
                      clear hbs
                      have hb : Below u2.heap.size u2 (u2.alloc (.cells #[.bool false, .string (bs []), .int .i64 0] 23)) := (Below.refl _ _).alloc (Nat.le_refl _) _
                      have HZ4_u3 : Hid (ZB (u2.alloc (.cells #[.bool false, .string (bs []), .int .i64 0] 23)) u2.heap.size) := Lib.hid (Blk.new u2 23 _)
                      have hga4 : w.heap.size < u2.heap.size := HS_u2.out.a.lt
                      have hgb4 : gx < u2.heap.size := HS_u2.out.b.lt
                      have HS_u3 := Lib.hid (HS_u2.out.go hb)
                      refine hK.out _ _ HS_u3.out ?_
                      clear hK K hb
                      generalize u2.alloc (.cells #[.bool false, .string (bs []), .int .i64 0] 23) = u3 at *
                      generalize u2.heap.size = p4 at *
                      try simp only [Act.put, List.getElem_toArray, List.getElem_cons_succ, List.getElem_cons_zero, List.setIfInBounds_toArray, List.set_cons_zero, List.set_cons_succ]
                      refine wpH_one 5 (by kernel_rfl) rfl (fun K hK => ?_)
                      go_simp
                      have hbs : (⟨#[]⟩ : ByteArray) = bs [] := rfl
                      rw [hbs]
                      clear hbs
                      have hb : Below u3.heap.size u3 (u3.alloc (.cells #[.bool false, .string (bs []), .int .i64 0] 23)) := (Below.refl _ _).alloc (Nat.le_refl _) _
                      have HZ5_u4 : Hid (ZB (u3.alloc (.cells #[.bool false, .string (bs []), .int .i64 0] 23)) u3.heap.size) := Lib.hid (Blk.new u3 23 _)
                      have HZ4_u4 : Hid (ZB (u3.alloc (.cells #[.bool false, .string (bs []), .int .i64 0] 23)) p4) := Lib.hid (HZ4_u3.out.alloc _)
                      have hne5 : p4 ≠ u3.heap.size := Nat.ne_of_lt HZ4_u3.out.lt
                      have hga5 : w.heap.size < u3.heap.size := HS_u3.out.a.lt
                      have hgb5 : gx < u3.heap.size := HS_u3.out.b.lt
                      have HS_u4 := Lib.hid (HS_u3.out.go hb)
                      refine hK.out _ _ HS_u4.out ?_
                      clear hK K hb
                      generalize u3.alloc (.cells #[.bool false, .string (bs []), .int .i64 0] 23) = u4 at *
                      generalize u3.heap.size = p5 at *
                      try simp only [Act.put, List.getElem_toArray, List.getElem_cons_succ, List.getElem_cons_zero, List.setIfInBounds_toArray, List.set_cons_zero, List.set_cons_succ]
                      have z40 : u4.frozen? ⟨p4, 0, none⟩ = false := HZ4_u4.out.frozen 0
                      have c40 : u4.cell? ⟨p4, 0, none⟩ = some (.bool false) := HZ4_u4.out.cell 0
                      have z41 : u4.frozen? ⟨p4, 1, none⟩ = false := HZ4_u4.out.frozen 1
                      have c41 : u4.cell? ⟨p4, 1, none⟩ = some (.string (bs [])) := HZ4_u4.out.cell 1
                      have z42 : u4.frozen? ⟨p4, 2, none⟩ = false := HZ4_u4.out.frozen 2
                      have c42 : u4.cell? ⟨p4, 2, none⟩ = some (.int .i64 0) := HZ4_u4.out.cell 2
                      have z50 : u4.frozen? ⟨p5, 0, none⟩ = false := HZ5_u4.out.frozen 0
                      have c50 : u4.cell? ⟨p5, 0, none⟩ = some (.bool false) := HZ5_u4.out.cell 0
                      have z51 : u4.frozen? ⟨p5, 1, none⟩ = false := HZ5_u4.out.frozen 1
                      have c51 : u4.cell? ⟨p5, 1, none⟩ = some (.string (bs [])) := HZ5_u4.out.cell 1
                      have z52 : u4.frozen? ⟨p5, 2, none⟩ = false := HZ5_u4.out.frozen 2
                      have c52 : u4.cell? ⟨p5, 2, none⟩ = some (.int .i64 0) := HZ5_u4.out.cell 2
                      have hq1 : p4 ≠ p5 := by omega
                      have hq2 : p5 ≠ p4 := by omega
                      have g41 : w.heap.size ≠ p4 := by omega
                      have g42 : gx ≠ p4 := by omega
                      have g51 : w.heap.size ≠ p5 := by omega
                      have g52 : gx ≠ p5 := by omega
                      have g4 : w.heap.size ≤ p4 := by omega
                      have g5 : w.heap.size ≤ p5 := by omega
                      refine wpH_one 6 (by kernel_rfl) rfl (fun K hK => ?_)
                      go_simp
                      refine hK.out _ _ (((HS_u4.out.far g41 g42 g4 _).far g41 g42 g4 _).far g41 g42 g4 _) ?_
                      clear hK K
                      try simp only [Act.put, List.getElem_toArray, List.getElem_cons_succ, List.getElem_cons_zero, List.setIfInBounds_toArray, List.set_cons_zero, List.set_cons_succ]
                      refine wpH_one 7 (by kernel_rfl) rfl (fun K hK => ?_)
                      go_simp
                      refine hK.out _ _ ((((((HS_u4.out.far g41 g42 g4 _).far g41 g42 g4 _).far g41 g42 g4 _).far g51 g52 g5 _).far g51 g52 g5 _).far g51 g52 g5 _) ?_
                      clear hK K
                      try simp only [Act.put, List.getElem_toArray, List.getElem_cons_succ, List.getElem_cons_zero, List.setIfInBounds_toArray, List.set_cons_zero, List.set_cons_succ]
                      refine wpH_done (by kernel_rfl) ?_ _
                      go_wp2_with fail
                      go_meet
                      case rel => exact ⟨p4, p5, rfl, rfl, nrm_mk HS_u4.out HZ4_u4.out HZ5_u4.out hq1 g41 g42 g51 g52 g4 g5⟩
                    · go_simp
                      have hbs : (⟨#[]⟩ : ByteArray) = bs [] := rfl
                      rw [hbs]
                      clear hbs
                      have hb : Below u2.heap.size u2 (u2.alloc (.cells #[.bool false, .string (bs []), .int .i64 0] 23)) := (Below.refl _ _).alloc (Nat.le_refl _) _
                      have HZ5_u5 : Hid (ZB (u2.alloc (.cells #[.bool false, .string (bs []), .int .i64 0] 23)) u2.heap.size) := Lib.hid (Blk.new u2 23 _)
                      have hga5 : w.heap.size < u2.heap.size := HS_u2.out.a.lt
                      have hgb5 : gx < u2.heap.size := HS_u2.out.b.lt
                      have HS_u5 := Lib.hid (HS_u2.out.go hb)
                      refine hK.out _ _ HS_u5.out ?_
                      clear hK K hb
                      generalize u2.alloc (.cells #[.bool false, .string (bs []), .int .i64 0] 23) = u5 at *
                      generalize u2.heap.size = p5 at *
                      try simp only [Act.put, List.getElem_toArray, List.getElem_cons_succ, List.getElem_cons_zero, List.setIfInBounds_toArray, List.set_cons_zero, List.set_cons_succ]
                      refine wpH_one 4 (by kernel_rfl) rfl (fun K hK => ?_)
                      go_simp
                      have hbs : (⟨#[]⟩ : ByteArray) = bs [] := rfl
                      rw [hbs]
                      clear hbs
                      have hb : Below u5.heap.size u5 (u5.alloc (.cells #[.bool false, .string (bs []), .int .i64 0] 23)) := (Below.refl _ _).alloc (Nat.le_refl _) _
                      have HZ4_u6 : Hid (ZB (u5.alloc (.cells #[.bool false, .string (bs []), .int .i64 0] 23)) u5.heap.size) := Lib.hid (Blk.new u5 23 _)
                      have HZ5_u6 : Hid (ZB (u5.alloc (.cells #[.bool false, .string (bs []), .int .i64 0] 23)) p5) := Lib.hid (HZ5_u5.out.alloc _)
                      have hne4 : p5 ≠ u5.heap.size := Nat.ne_of_lt HZ5_u5.out.lt
                      have hga4 : w.heap.size < u5.heap.size := HS_u5.out.a.lt
                      have hgb4 : gx < u5.heap.size := HS_u5.out.b.lt
                      have HS_u6 := Lib.hid (HS_u5.out.go hb)
                      refine hK.out _ _ HS_u6.out ?_
                      clear hK K hb
                      generalize u5.alloc (.cells #[.bool false, .string (bs []), .int .i64 0] 23) = u6 at *
                      generalize u5.heap.size = p4 at *
                      try simp only [Act.put, List.getElem_toArray, List.getElem_cons_succ, List.getElem_cons_zero, List.setIfInBounds_toArray, List.set_cons_zero, List.set_cons_succ]
                      have z40 : u6.frozen? ⟨p4, 0, none⟩ = false := HZ4_u6.out.frozen 0
                      have c40 : u6.cell? ⟨p4, 0, none⟩ = some (.bool false) := HZ4_u6.out.cell 0
                      have z41 : u6.frozen? ⟨p4, 1, none⟩ = false := HZ4_u6.out.frozen 1
                      have c41 : u6.cell? ⟨p4, 1, none⟩ = some (.string (bs [])) := HZ4_u6.out.cell 1
                      have z42 : u6.frozen? ⟨p4, 2, none⟩ = false := HZ4_u6.out.frozen 2
                      have c42 : u6.cell? ⟨p4, 2, none⟩ = some (.int .i64 0) := HZ4_u6.out.cell 2
                      have z50 : u6.frozen? ⟨p5, 0, none⟩ = false := HZ5_u6.out.frozen 0
                      have c50 : u6.cell? ⟨p5, 0, none⟩ = some (.bool false) := HZ5_u6.out.cell 0
                      have z51 : u6.frozen? ⟨p5, 1, none⟩ = false := HZ5_u6.out.frozen 1
                      have c51 : u6.cell? ⟨p5, 1, none⟩ = some (.string (bs [])) := HZ5_u6.out.cell 1
                      have z52 : u6.frozen? ⟨p5, 2, none⟩ = false := HZ5_u6.out.frozen 2
                      have c52 : u6.cell? ⟨p5, 2, none⟩ = some (.int .i64 0) := HZ5_u6.out.cell 2
                      have hq1 : p4 ≠ p5 := by omega
                      have hq2 : p5 ≠ p4 := by omega
                      have g41 : w.heap.size ≠ p4 := by omega
                      have g42 : gx ≠ p4 := by omega
                      have g51 : w.heap.size ≠ p5 := by omega
                      have g52 : gx ≠ p5 := by omega
                      have g4 : w.heap.size ≤ p4 := by omega
                      have g5 : w.heap.size ≤ p5 := by omega
                      refine wpH_one 6 (by kernel_rfl) rfl (fun K hK => ?_)
                      go_simp
                      refine hK.out _ _ (((HS_u6.out.far g41 g42 g4 _).far g41 g42 g4 _).far g41 g42 g4 _) ?_
                      clear hK K
                      try simp only [Act.put, List.getElem_toArray, List.getElem_cons_succ, List.getElem_cons_zero, List.setIfInBounds_toArray, List.set_cons_zero, List.set_cons_succ]
                      refine wpH_one 7 (by kernel_rfl) rfl (fun K hK => ?_)
                      go_simp
                      refine hK.out _ _ ((((((HS_u6.out.far g41 g42 g4 _).far g41 g42 g4 _).far g41 g42 g4 _).far g51 g52 g5 _).far g51 g52 g5 _).far g51 g52 g5 _) ?_
                      clear hK K
                      try simp only [Act.put, List.getElem_toArray, List.getElem_cons_succ, List.getElem_cons_zero, List.setIfInBounds_toArray, List.set_cons_zero, List.set_cons_succ]
                      refine wpH_done (by kernel_rfl) ?_ _
                      go_wp2_with fail
                      go_meet
                      case rel => exact ⟨p4, p5, rfl, rfl, nrm_mk HS_u6.out HZ4_u6.out HZ5_u6.out hq1 g41 g42 g51 g52 g4 g5⟩
                  · go_simp
                    have hbs : (⟨#[]⟩ : ByteArray) = bs [] := rfl
                    rw [hbs]
                    clear hbs
                    have hb : Below u1.heap.size u1 (u1.alloc (.cells #[.bool false, .string (bs []), .int .i64 0] 23)) := (Below.refl _ _).alloc (Nat.le_refl _) _
                    have HZ4_u7 : Hid (ZB (u1.alloc (.cells #[.bool false, .string (bs []), .int .i64 0] 23)) u1.heap.size) := Lib.hid (Blk.new u1 23 _)
                    have hga4 : w.heap.size < u1.heap.size := HS_u1.out.a.lt
                    have hgb4 : gx < u1.heap.size := HS_u1.out.b.lt
                    have HS_u7 := Lib.hid (HS_u1.out.go hb)
                    refine hK.out _ _ HS_u7.out ?_
                    clear hK K hb
                    generalize u1.alloc (.cells #[.bool false, .string (bs []), .int .i64 0] 23) = u7 at *
                    generalize u1.heap.size = p4 at *
                    try simp only [Act.put, List.getElem_toArray, List.getElem_cons_succ, List.getElem_cons_zero, List.setIfInBounds_toArray, List.set_cons_zero, List.set_cons_succ]
                    refine wpH_two 3 5 (by kernel_rfl) rfl rfl (fun K hK => ?_) (fun K hK => ?_)
                    · go_simp
                      refine (HN2.out _).mono ?_
                      rintro e1 u8 ⟨rfl, hb⟩
                      have HZ4_u8 : Hid (ZB u8 p4) := Lib.hid (HZ4_u7.out.below hb HZ4_u7.out.lt)
                      have HS_u8 := Lib.hid (HS_u7.out.go hb)
                      refine hK.out _ _ HS_u8.out ?_
                      clear hK K hb
                      try simp only [Act.put, List.getElem_toArray, List.getElem_cons_succ, List.getElem_cons_zero, List.setIfInBounds_toArray, List.set_cons_zero, List.set_cons_succ]
                      refine wpH_one 5 (by kernel_rfl) rfl (fun K hK => ?_)
                      go_simp
                      have hbs : (⟨#[]⟩ : ByteArray) = bs [] := rfl
                      rw [hbs]
                      clear hbs
                      have hb : Below u8.heap.size u8 (u8.alloc (.cells #[.bool false, .string (bs []), .int .i64 0] 23)) := (Below.refl _ _).alloc (Nat.le_refl _) _
                      have HZ5_u9 : Hid (ZB (u8.alloc (.cells #[.bool false, .string (bs []), .int .i64 0] 23)) u8.heap.size) := Lib.hid (Blk.new u8 23 _)
                      have HZ4_u9 : Hid (ZB (u8.alloc (.cells #[.bool false, .string (bs []), .int .i64 0] 23)) p4) := Lib.hid (HZ4_u8.out.alloc _)
                      have hne5 : p4 ≠ u8.heap.size := Nat.ne_of_lt HZ4_u8.out.lt
                      have hga5 : w.heap.size < u8.heap.size := HS_u8.out.a.lt
                      have hgb5 : gx < u8.heap.size := HS_u8.out.b.lt
                      have HS_u9 := Lib.hid (HS_u8.out.go hb)
                      refine hK.out _ _ HS_u9.out ?_
                      clear hK K hb
                      generalize u8.alloc (.cells #[.bool false, .string (bs []), .int .i64 0] 23) = u9 at *
                      generalize u8.heap.size = p5 at *
                      try simp only [Act.put, List.getElem_toArray, List.getElem_cons_succ, List.getElem_cons_zero, List.setIfInBounds_toArray, List.set_cons_zero, List.set_cons_succ]
                      have z40 : u9.frozen? ⟨p4, 0, none⟩ = false := HZ4_u9.out.frozen 0
                      have c40 : u9.cell? ⟨p4, 0, none⟩ = some (.bool false) := HZ4_u9.out.cell 0
                      have z41 : u9.frozen? ⟨p4, 1, none⟩ = false := HZ4_u9.out.frozen 1
                      have c41 : u9.cell? ⟨p4, 1, none⟩ = some (.string (bs [])) := HZ4_u9.out.cell 1
                      have z42 : u9.frozen? ⟨p4, 2, none⟩ = false := HZ4_u9.out.frozen 2
                      have c42 : u9.cell? ⟨p4, 2, none⟩ = some (.int .i64 0) := HZ4_u9.out.cell 2
                      have z50 : u9.frozen? ⟨p5, 0, none⟩ = false := HZ5_u9.out.frozen 0
                      have c50 : u9.cell? ⟨p5, 0, none⟩ = some (.bool false) := HZ5_u9.out.cell 0
                      have z51 : u9.frozen? ⟨p5, 1, none⟩ = false := HZ5_u9.out.frozen 1
                      have c51 : u9.cell? ⟨p5, 1, none⟩ = some (.string (bs [])) := HZ5_u9.out.cell 1
                      have z52 : u9.frozen? ⟨p5, 2, none⟩ = false := HZ5_u9.out.frozen 2
                      have c52 : u9.cell? ⟨p5, 2, none⟩ = some (.int .i64 0) := HZ5_u9.out.cell 2
                      have hq1 : p4 ≠ p5 := by omega
                      have hq2 : p5 ≠ p4 := by omega
                      have g41 : w.heap.size ≠ p4 := by omega
                      have g42 : gx ≠ p4 := by omega
                      have g51 : w.heap.size ≠ p5 := by omega
                      have g52 : gx ≠ p5 := by omega
                      have g4 : w.heap.size ≤ p4 := by omega
                      have g5 : w.heap.size ≤ p5 := by omega
                      refine wpH_one 6 (by kernel_rfl) rfl (fun K hK => ?_)
                      go_simp
                      refine hK.out _ _ (((HS_u9.out.far g41 g42 g4 _).far g41 g42 g4 _).far g41 g42 g4 _) ?_
                      clear hK K
                      try simp only [Act.put, List.getElem_toArray, List.getElem_cons_succ, List.getElem_cons_zero, List.setIfInBounds_toArray, List.set_cons_zero, List.set_cons_succ]
                      refine wpH_one 7 (by kernel_rfl) rfl (fun K hK => ?_)
                      go_simp
                      refine hK.out _ _ ((((((HS_u9.out.far g41 g42 g4 _).far g41 g42 g4 _).far g41 g42 g4 _).far g51 g52 g5 _).far g51 g52 g5 _).far g51 g52 g5 _) ?_
                      clear hK K
                      try simp only [Act.put, List.getElem_toArray, List.getElem_cons_succ, List.getElem_cons_zero, List.setIfInBounds_toArray, List.set_cons_zero, List.set_cons_succ]
                      refine wpH_done (by kernel_rfl) ?_ _
                      go_wp2_with fail
                      go_meet
                      case rel => exact ⟨p4, p5, rfl, rfl, nrm_mk HS_u9.out HZ4_u9.out HZ5_u9.out hq1 g41 g42 g51 g52 g4 g5⟩
                    · go_simp
                      have hbs : (⟨#[]⟩ : ByteArray) = bs [] := rfl
                      rw [hbs]
                      clear hbs
                      have hb : Below u7.heap.size u7 (u7.alloc (.cells #[.bool false, .string (bs []), .int .i64 0] 23)) := (Below.refl _ _).alloc (Nat.le_refl _) _
                      have HZ5_u10 : Hid (ZB (u7.alloc (.cells #[.bool false, .string (bs []), .int .i64 0] 23)) u7.heap.size) := Lib.hid (Blk.new u7 23 _)
                      have HZ4_u10 : Hid (ZB (u7.alloc (.cells #[.bool false, .string (bs []), .int .i64 0] 23)) p4) := Lib.hid (HZ4_u7.out.alloc _)
                      have hne5 : p4 ≠ u7.heap.size := Nat.ne_of_lt HZ4_u7.out.lt
                      have hga5 : w.heap.size < u7.heap.size := HS_u7.out.a.lt
                      have hgb5 : gx < u7.heap.size := HS_u7.out.b.lt
                      have HS_u10 := Lib.hid (HS_u7.out.go hb)
                      refine hK.out _ _ HS_u10.out ?_
                      clear hK K hb
                      generalize u7.alloc (.cells #[.bool false, .string (bs []), .int .i64 0] 23) = u10 at *
                      generalize u7.heap.size = p5 at *
                      try simp only [Act.put, List.getElem_toArray, List.getElem_cons_succ, List.getElem_cons_zero, List.setIfInBounds_toArray, List.set_cons_zero, List.set_cons_succ]
                      refine wpH_one 3 (by kernel_rfl) rfl (fun K hK => ?_)
                      go_simp
                      refine (HN2.out _).mono ?_
                      rintro e1 u11 ⟨rfl, hb⟩
                      have HZ4_u11 : Hid (ZB u11 p4) := Lib.hid (HZ4_u10.out.below hb HZ4_u10.out.lt)
                      have HZ5_u11 : Hid (ZB u11 p5) := Lib.hid (HZ5_u10.out.below hb HZ5_u10.out.lt)
                      have HS_u11 := Lib.hid (HS_u10.out.go hb)
                      refine hK.out _ _ HS_u11.out ?_
                      clear hK K hb
                      try simp only [Act.put, List.getElem_toArray, List.getElem_cons_succ, List.getElem_cons_zero, List.setIfInBounds_toArray, List.set_cons_zero, List.set_cons_succ]
                      have z40 : u11.frozen? ⟨p4, 0, none⟩ = false := HZ4_u11.out.frozen 0
                      have c40 : u11.cell? ⟨p4, 0, none⟩ = some (.bool false) := HZ4_u11.out.cell 0
                      have z41 : u11.frozen? ⟨p4, 1, none⟩ = false := HZ4_u11.out.frozen 1
                      have c41 : u11.cell? ⟨p4, 1, none⟩ = some (.string (bs [])) := HZ4_u11.out.cell 1
                      have z42 : u11.frozen? ⟨p4, 2, none⟩ = false := HZ4_u11.out.frozen 2
                      have c42 : u11.cell? ⟨p4, 2, none⟩ = some (.int .i64 0) := HZ4_u11.out.cell 2
                      have z50 : u11.frozen? ⟨p5, 0, none⟩ = false := HZ5_u11.out.frozen 0
                      have c50 : u11.cell? ⟨p5, 0, none⟩ = some (.bool false) := HZ5_u11.out.cell 0
                      have z51 : u11.frozen? ⟨p5, 1, none⟩ = false := HZ5_u11.out.frozen 1
                      have c51 : u11.cell? ⟨p5, 1, none⟩ = some (.string (bs [])) := HZ5_u11.out.cell 1
                      have z52 : u11.frozen? ⟨p5, 2, none⟩ = false := HZ5_u11.out.frozen 2
                      have c52 : u11.cell? ⟨p5, 2, none⟩ = some (.int .i64 0) := HZ5_u11.out.cell 2
                      have hq1 : p4 ≠ p5 := by omega
                      have hq2 : p5 ≠ p4 := by omega
                      have g41 : w.heap.size ≠ p4 := by omega
                      have g42 : gx ≠ p4 := by omega
                      have g51 : w.heap.size ≠ p5 := by omega
                      have g52 : gx ≠ p5 := by omega
                      have g4 : w.heap.size ≤ p4 := by omega
                      have g5 : w.heap.size ≤ p5 := by omega
                      refine wpH_one 6 (by kernel_rfl) rfl (fun K hK => ?_)
                      go_simp
                      refine hK.out _ _ (((HS_u11.out.far g41 g42 g4 _).far g41 g42 g4 _).far g41 g42 g4 _) ?_
                      clear hK K
                      try simp only [Act.put, List.getElem_toArray, List.getElem_cons_succ, List.getElem_cons_zero, List.setIfInBounds_toArray, List.set_cons_zero, List.set_cons_succ]
                      refine wpH_one 7 (by kernel_rfl) rfl (fun K hK => ?_)
                      go_simp
                      refine hK.out _ _ ((((((HS_u11.out.far g41 g42 g4 _).far g41 g42 g4 _).far g41 g42 g4 _).far g51 g52 g5 _).far g51 g52 g5 _).far g51 g52 g5 _) ?_
                      clear hK K
                      try simp only [Act.put, List.getElem_toArray, List.getElem_cons_succ, List.getElem_cons_zero, List.setIfInBounds_toArray, List.set_cons_zero, List.set_cons_succ]
                      refine wpH_done (by kernel_rfl) ?_ _
                      go_wp2_with fail
                      go_meet
                      case rel => exact ⟨p4, p5, rfl, rfl, nrm_mk HS_u11.out HZ4_u11.out HZ5_u11.out hq1 g41 g42 g51 g52 g4 g5⟩
                  · go_simp
                    have hbs : (⟨#[]⟩ : ByteArray) = bs [] := rfl
                    rw [hbs]
                    clear hbs
                    have hb : Below u1.heap.size u1 (u1.alloc (.cells #[.bool false, .string (bs []), .int .i64 0] 23)) := (Below.refl _ _).alloc (Nat.le_refl _) _
                    have HZ5_u12 : Hid (ZB (u1.alloc (.cells #[.bool false, .string (bs []), .int .i64 0] 23)) u1.heap.size) := Lib.hid (Blk.new u1 23 _)
                    have hga5 : w.heap.size < u1.heap.size := HS_u1.out.a.lt
                    have hgb5 : gx < u1.heap.size := HS_u1.out.b.lt
                    have HS_u12 := Lib.hid (HS_u1.out.go hb)
                    refine hK.out _ _ HS_u12.out ?_
                    clear hK K hb
                    generalize u1.alloc (.cells #[.bool false, .string (bs []), .int .i64 0] 23) = u12 at *
                    generalize u1.heap.size = p5 at *
                    try simp only [Act.put, List.getElem_toArray, List.getElem_cons_succ, List.getElem_cons_zero, List.setIfInBounds_toArray, List.set_cons_zero, List.set_cons_succ]
                    refine wpH_two 3 4 (by kernel_rfl) rfl rfl (fun K hK => ?_) (fun K hK => ?_)
                    · go_simp
                      refine (HN2.out _).mono ?_
                      rintro e1 u13 ⟨rfl, hb⟩
                      have HZ5_u13 : Hid (ZB u13 p5) := Lib.hid (HZ5_u12.out.below hb HZ5_u12.out.lt)
                      have HS_u13 := Lib.hid (HS_u12.out.go hb)
                      refine hK.out _ _ HS_u13.out ?_
                      clear hK K hb
                      try simp only [Act.put, List.getElem_toArray, List.getElem_cons_succ, List.getElem_cons_zero, List.setIfInBounds_toArray, List.set_cons_zero, List.set_cons_succ]
                      refine wpH_one 4 (by kernel_rfl) rfl (fun K hK => ?_)
                      go_simp
                      have hbs : (⟨#[]⟩ : ByteArray) = bs [] := rfl
                      rw [hbs]
                      clear hbs
                      have hb : Below u13.heap.size u13 (u13.alloc (.cells #[.bool false, .string (bs []), .int .i64 0] 23)) := (Below.refl _ _).alloc (Nat.le_refl _) _
                      have HZ4_u14 : Hid (ZB (u13.alloc (.cells #[.bool false, .string (bs []), .int .i64 0] 23)) u13.heap.size) := Lib.hid (Blk.new u13 23 _)
                      have HZ5_u14 : Hid (ZB (u13.alloc (.cells #[.bool false, .string (bs []), .int .i64 0] 23)) p5) := Lib.hid (HZ5_u13.out.alloc _)
                      have hne4 : p5 ≠ u13.heap.size := Nat.ne_of_lt HZ5_u13.out.lt
                      have hga4 : w.heap.size < u13.heap.size := HS_u13.out.a.lt
                      have hgb4 : gx < u13.heap.size := HS_u13.out.b.lt
                      have HS_u14 := Lib.hid (HS_u13.out.go hb)
                      refine hK.out _ _ HS_u14.out ?_
                      clear hK K hb
                      generalize u13.alloc (.cells #[.bool false, .string (bs []), .int .i64 0] 23) = u14 at *
                      generalize u13.heap.size = p4 at *
                      try simp only [Act.put, List.getElem_toArray, List.getElem_cons_succ, List.getElem_cons_zero, List.setIfInBounds_toArray, List.set_cons_zero, List.set_cons_succ]
                      have z40 : u14.frozen? ⟨p4, 0, none⟩ = false := HZ4_u14.out.frozen 0
                      have c40 : u14.cell? ⟨p4, 0, none⟩ = some (.bool false) := HZ4_u14.out.cell 0
                      have z41 : u14.frozen? ⟨p4, 1, none⟩ = false := HZ4_u14.out.frozen 1
                      have c41 : u14.cell? ⟨p4, 1, none⟩ = some (.string (bs [])) := HZ4_u14.out.cell 1
                      have z42 : u14.frozen? ⟨p4, 2, none⟩ = false := HZ4_u14.out.frozen 2
                      have c42 : u14.cell? ⟨p4, 2, none⟩ = some (.int .i64 0) := HZ4_u14.out.cell 2
                      have z50 : u14.frozen? ⟨p5, 0, none⟩ = false := HZ5_u14.out.frozen 0
                      have c50 : u14.cell? ⟨p5, 0, none⟩ = some (.bool false) := HZ5_u14.out.cell 0
                      have z51 : u14.frozen? ⟨p5, 1, none⟩ = false := HZ5_u14.out.frozen 1
                      have c51 : u14.cell? ⟨p5, 1, none⟩ = some (.string (bs [])) := HZ5_u14.out.cell 1
                      have z52 : u14.frozen? ⟨p5, 2, none⟩ = false := HZ5_u14.out.frozen 2
                      have c52 : u14.cell? ⟨p5, 2, none⟩ = some (.int .i64 0) := HZ5_u14.out.cell 2
                      have hq1 : p4 ≠ p5 := by omega
                      have hq2 : p5 ≠ p4 := by omega
                      have g41 : w.heap.size ≠ p4 := by omega
                      have g42 : gx ≠ p4 := by omega
                      have g51 : w.heap.size ≠ p5 := by omega
                      have g52 : gx ≠ p5 := by omega
                      have g4 : w.heap.size ≤ p4 := by omega
                      have g5 : w.heap.size ≤ p5 := by omega
                      refine wpH_one 6 (by kernel_rfl) rfl (fun K hK => ?_)
                      go_simp
                      refine hK.out _ _ (((HS_u14.out.far g41 g42 g4 _).far g41 g42 g4 _).far g41 g42 g4 _) ?_
                      clear hK K
                      try simp only [Act.put, List.getElem_toArray, List.getElem_cons_succ, List.getElem_cons_zero, List.setIfInBounds_toArray, List.set_cons_zero, List.set_cons_succ]
                      refine wpH_one 7 (by kernel_rfl) rfl (fun K hK => ?_)
                      go_simp
                      refine hK.out _ _ ((((((HS_u14.out.far g41 g42 g4 _).far g41 g42 g4 _).far g41 g42 g4 _).far g51 g52 g5 _).far g51 g52 g5 _).far g51 g52 g5 _) ?_
                      clear hK K
                      try simp only [Act.put, List.getElem_toArray, List.getElem_cons_succ, List.getElem_cons_zero, List.setIfInBounds_toArray, List.set_cons_zero, List.set_cons_succ]
                      refine wpH_done (by kernel_rfl) ?_ _
                      go_wp2_with fail
                      go_meet
                      case rel => exact ⟨p4, p5, rfl, rfl, nrm_mk HS_u14.out HZ4_u14.out HZ5_u14.out hq1 g41 g42 g51 g52 g4 g5⟩
                    · go_simp
                      have hbs : (⟨#[]⟩ : ByteArray) = bs [] := rfl
                      rw [hbs]
                      clear hbs
                      have hb : Below u12.heap.size u12 (u12.alloc (.cells #[.bool false, .string (bs []), .int .i64 0] 23)) := (Below.refl _ _).alloc (Nat.le_refl _) _
                      have HZ4_u15 : Hid (ZB (u12.alloc (.cells #[.bool false, .string (bs []), .int .i64 0] 23)) u12.heap.size) := Lib.hid (Blk.new u12 23 _)
                      have HZ5_u15 : Hid (ZB (u12.alloc (.cells #[.bool false, .string (bs []), .int .i64 0] 23)) p5) := Lib.hid (HZ5_u12.out.alloc _)
                      have hne4 : p5 ≠ u12.heap.size := Nat.ne_of_lt HZ5_u12.out.lt
                      have hga4 : w.heap.size < u12.heap.size := HS_u12.out.a.lt
                      have hgb4 : gx < u12.heap.size := HS_u12.out.b.lt
                      have HS_u15 := Lib.hid (HS_u12.out.go hb)
                      refine hK.out _ _ HS_u15.out ?_
                      clear hK K hb
                      generalize u12.alloc (.cells #[.bool false, .string (bs []), .int .i64 0] 23) = u15 at *
                      generalize u12.heap.size = p4 at *
                      try simp only [Act.put, List.getElem_toArray, List.getElem_cons_succ, List.getElem_cons_zero, List.setIfInBounds_toArray, List.set_cons_zero, List.set_cons_succ]
                      refine wpH_one 3 (by kernel_rfl) rfl (fun K hK => ?_)
                      go_simp
                      refine (HN2.out _).mono ?_
                      rintro e1 u16 ⟨rfl, hb⟩
                      have HZ5_u16 : Hid (ZB u16 p5) := Lib.hid (HZ5_u15.out.below hb HZ5_u15.out.lt)
                      have HZ4_u16 : Hid (ZB u16 p4) := Lib.hid (HZ4_u15.out.below hb HZ4_u15.out.lt)
                      have HS_u16 := Lib.hid (HS_u15.out.go hb)
                      refine hK.out _ _ HS_u16.out ?_
                      clear hK K hb
                      try simp only [Act.put, List.getElem_toArray, List.getElem_cons_succ, List.getElem_cons_zero, List.setIfInBounds_toArray, List.set_cons_zero, List.set_cons_succ]
                      have z40 : u16.frozen? ⟨p4, 0, none⟩ = false := HZ4_u16.out.frozen 0
                      have c40 : u16.cell? ⟨p4, 0, none⟩ = some (.bool false) := HZ4_u16.out.cell 0
                      have z41 : u16.frozen? ⟨p4, 1, none⟩ = false := HZ4_u16.out.frozen 1
                      have c41 : u16.cell? ⟨p4, 1, none⟩ = some (.string (bs [])) := HZ4_u16.out.cell 1
                      have z42 : u16.frozen? ⟨p4, 2, none⟩ = false := HZ4_u16.out.frozen 2
                      have c42 : u16.cell? ⟨p4, 2, none⟩ = some (.int .i64 0) := HZ4_u16.out.cell 2
                      have z50 : u16.frozen? ⟨p5, 0, none⟩ = false := HZ5_u16.out.frozen 0
                      have c50 : u16.cell? ⟨p5, 0, none⟩ = some (.bool false) := HZ5_u16.out.cell 0
                      have z51 : u16.frozen? ⟨p5, 1, none⟩ = false := HZ5_u16.out.frozen 1
                      have c51 : u16.cell? ⟨p5, 1, none⟩ = some (.string (bs [])) := HZ5_u16.out.cell 1
                      have z52 : u16.frozen? ⟨p5, 2, none⟩ = false := HZ5_u16.out.frozen 2
                      have c52 : u16.cell? ⟨p5, 2, none⟩ = some (.int .i64 0) := HZ5_u16.out.cell 2
                      have hq1 : p4 ≠ p5 := by omega
                      have hq2 : p5 ≠ p4 := by omega
                      have g41 : w.heap.size ≠ p4 := by omega
                      have g42 : gx ≠ p4 := by omega
                      have g51 : w.heap.size ≠ p5 := by omega
                      have g52 : gx ≠ p5 := by omega
                      have g4 : w.heap.size ≤ p4 := by omega
                      have g5 : w.heap.size ≤ p5 := by omega
                      refine wpH_one 6 (by kernel_rfl) rfl (fun K hK => ?_)
                      go_simp
                      refine hK.out _ _ (((HS_u16.out.far g41 g42 g4 _).far g41 g42 g4 _).far g41 g42 g4 _) ?_
                      clear hK K
                      try simp only [Act.put, List.getElem_toArray, List.getElem_cons_succ, List.getElem_cons_zero, List.setIfInBounds_toArray, List.set_cons_zero, List.set_cons_succ]
                      refine wpH_one 7 (by kernel_rfl) rfl (fun K hK => ?_)
                      go_simp
                      refine hK.out _ _ ((((((HS_u16.out.far g41 g42 g4 _).far g41 g42 g4 _).far g41 g42 g4 _).far g51 g52 g5 _).far g51 g52 g5 _).far g51 g52 g5 _) ?_
                      clear hK K
                      try simp only [Act.put, List.getElem_toArray, List.getElem_cons_succ, List.getElem_cons_zero, List.setIfInBounds_toArray, List.set_cons_zero, List.set_cons_succ]
                      refine wpH_done (by kernel_rfl) ?_ _
                      go_wp2_with fail
                      go_meet
                      case rel => exact ⟨p4, p5, rfl, rfl, nrm_mk HS_u16.out HZ4_u16.out HZ5_u16.out hq1 g41 g42 g51 g52 g4 g5⟩
                · go_simp
                  have hbs : (⟨#[]⟩ : ByteArray) = bs [] := rfl
                  rw [hbs]
                  clear hbs
                  have hb : Below w5.heap.size w5 (w5.alloc (.cells #[.bool false, .string (bs []), .int .i64 0] 23)) := (Below.refl _ _).alloc (Nat.le_refl _) _
                  have HZ4_u17 : Hid (ZB (w5.alloc (.cells #[.bool false, .string (bs []), .int .i64 0] 23)) w5.heap.size) := Lib.hid (Blk.new w5 23 _)
                  have hga4 : w.heap.size < w5.heap.size := HS1.out.a.lt
                  have hgb4 : gx < w5.heap.size := HS1.out.b.lt
                  have HS_u17 := Lib.hid (HS1.out.go hb)
                  refine hK.out _ _ HS_u17.out ?_
                  clear hK K hb
                  generalize w5.alloc (.cells #[.bool false, .string (bs []), .int .i64 0] 23) = u17 at *
                  generalize w5.heap.size = p4 at *
                  try simp only [Act.put, List.getElem_toArray, List.getElem_cons_succ, List.getElem_cons_zero, List.setIfInBounds_toArray, List.set_cons_zero, List.set_cons_succ]
                  refine wpH_two 1 5 (by kernel_rfl) rfl rfl (fun K hK => ?_) (fun K hK => ?_)
                  · go_simp
                    refine (HN1.out _).mono ?_
                    rintro e1 u18 ⟨rfl, hb⟩
                    have HZ4_u18 : Hid (ZB u18 p4) := Lib.hid (HZ4_u17.out.below hb HZ4_u17.out.lt)
                    have HS_u18 := Lib.hid (HS_u17.out.go hb)
                    refine hK.out _ _ HS_u18.out ?_
                    clear hK K hb
                    try simp only [Act.put, List.getElem_toArray, List.getElem_cons_succ, List.getElem_cons_zero, List.setIfInBounds_toArray, List.set_cons_zero, List.set_cons_succ]
                    refine wpH_two 3 5 (by kernel_rfl) rfl rfl (fun K hK => ?_) (fun K hK => ?_)
                    · go_simp
                      refine (HN2.out _).mono ?_
                      rintro e1 u19 ⟨rfl, hb⟩
                      have HZ4_u19 : Hid (ZB u19 p4) := Lib.hid (HZ4_u18.out.below hb HZ4_u18.out.lt)
                      have HS_u19 := Lib.hid (HS_u18.out.go hb)
                      refine hK.out _ _ HS_u19.out ?_
                      clear hK K hb
                      try simp only [Act.put, List.getElem_toArray, List.getElem_cons_succ, List.getElem_cons_zero, List.setIfInBounds_toArray, List.set_cons_zero, List.set_cons_succ]
                      refine wpH_one 5 (by kernel_rfl) rfl (fun K hK => ?_)
                      go_simp
                      have hbs : (⟨#[]⟩ : ByteArray) = bs [] := rfl
                      rw [hbs]
                      clear hbs
                      have hb : Below u19.heap.size u19 (u19.alloc (.cells #[.bool false, .string (bs []), .int .i64 0] 23)) := (Below.refl _ _).alloc (Nat.le_refl _) _
                      have HZ5_u20 : Hid (ZB (u19.alloc (.cells #[.bool false, .string (bs []), .int .i64 0] 23)) u19.heap.size) := Lib.hid (Blk.new u19 23 _)
                      have HZ4_u20 : Hid (ZB (u19.alloc (.cells #[.bool false, .string (bs []), .int .i64 0] 23)) p4) := Lib.hid (HZ4_u19.out.alloc _)
                      have hne5 : p4 ≠ u19.heap.size := Nat.ne_of_lt HZ4_u19.out.lt
                      have hga5 : w.heap.size < u19.heap.size := HS_u19.out.a.lt
                      have hgb5 : gx < u19.heap.size := HS_u19.out.b.lt
                      have HS_u20 := Lib.hid (HS_u19.out.go hb)
                      refine hK.out _ _ HS_u20.out ?_
                      clear hK K hb
                      generalize u19.alloc (.cells #[.bool false, .string (bs []), .int .i64 0] 23) = u20 at *
                      generalize u19.heap.size = p5 at *
                      try simp only [Act.put, List.getElem_toArray, List.getElem_cons_succ, List.getElem_cons_zero, List.setIfInBounds_toArray, List.set_cons_zero, List.set_cons_succ]
                      have z40 : u20.frozen? ⟨p4, 0, none⟩ = false := HZ4_u20.out.frozen 0
                      have c40 : u20.cell? ⟨p4, 0, none⟩ = some (.bool false) := HZ4_u20.out.cell 0
                      have z41 : u20.frozen? ⟨p4, 1, none⟩ = false := HZ4_u20.out.frozen 1
                      have c41 : u20.cell? ⟨p4, 1, none⟩ = some (.string (bs [])) := HZ4_u20.out.cell 1
                      have z42 : u20.frozen? ⟨p4, 2, none⟩ = false := HZ4_u20.out.frozen 2
                      have c42 : u20.cell? ⟨p4, 2, none⟩ = some (.int .i64 0) := HZ4_u20.out.cell 2
                      have z50 : u20.frozen? ⟨p5, 0, none⟩ = false := HZ5_u20.out.frozen 0
                      have c50 : u20.cell? ⟨p5, 0, none⟩ = some (.bool false) := HZ5_u20.out.cell 0
                      have z51 : u20.frozen? ⟨p5, 1, none⟩ = false := HZ5_u20.out.frozen 1
                      have c51 : u20.cell? ⟨p5, 1, none⟩ = some (.string (bs [])) := HZ5_u20.out.cell 1
                      have z52 : u20.frozen? ⟨p5, 2, none⟩ = false := HZ5_u20.out.frozen 2
                      have c52 : u20.cell? ⟨p5, 2, none⟩ = some (.int .i64 0) := HZ5_u20.out.cell 2
                      have hq1 : p4 ≠ p5 := by omega
                      have hq2 : p5 ≠ p4 := by omega
                      have g41 : w.heap.size ≠ p4 := by omega
                      have g42 : gx ≠ p4 := by omega
                      have g51 : w.heap.size ≠ p5 := by omega
                      have g52 : gx ≠ p5 := by omega
                      have g4 : w.heap.size ≤ p4 := by omega
                      have g5 : w.heap.size ≤ p5 := by omega
                      refine wpH_one 6 (by kernel_rfl) rfl (fun K hK => ?_)
                      go_simp
                      refine hK.out _ _ (((HS_u20.out.far g41 g42 g4 _).far g41 g42 g4 _).far g41 g42 g4 _) ?_
                      clear hK K
                      try simp only [Act.put, List.getElem_toArray, List.getElem_cons_succ, List.getElem_cons_zero, List.setIfInBounds_toArray, List.set_cons_zero, List.set_cons_succ]
                      refine wpH_one 7 (by kernel_rfl) rfl (fun K hK => ?_)
                      go_simp
                      refine hK.out _ _ ((((((HS_u20.out.far g41 g42 g4 _).far g41 g42 g4 _).far g41 g42 g4 _).far g51 g52 g5 _).far g51 g52 g5 _).far g51 g52 g5 _) ?_
                      clear hK K
                      try simp only [Act.put, List.getElem_toArray, List.getElem_cons_succ, List.getElem_cons_zero, List.setIfInBounds_toArray, List.set_cons_zero, List.set_cons_succ]
                      refine wpH_done (by kernel_rfl) ?_ _
                      go_wp2_with fail
                      go_meet
                      case rel => exact ⟨p4, p5, rfl, rfl, nrm_mk HS_u20.out HZ4_u20.out HZ5_u20.out hq1 g41 g42 g51 g52 g4 g5⟩
                    · go_simp
                      have hbs : (⟨#[]⟩ : ByteArray) = bs [] := rfl
                      rw [hbs]
                      clear hbs
                      have hb : Below u18.heap.size u18 (u18.alloc (.cells #[.bool false, .string (bs []), .int .i64 0] 23)) := (Below.refl _ _).alloc (Nat.le_refl _) _
                      have HZ5_u21 : Hid (ZB (u18.alloc (.cells #[.bool false, .string (bs []), .int .i64 0] 23)) u18.heap.size) := Lib.hid (Blk.new u18 23 _)
                      have HZ4_u21 : Hid (ZB (u18.alloc (.cells #[.bool false, .string (bs []), .int .i64 0] 23)) p4) := Lib.hid (HZ4_u18.out.alloc _)
                      have hne5 : p4 ≠ u18.heap.size := Nat.ne_of_lt HZ4_u18.out.lt
                      have hga5 : w.heap.size < u18.heap.size := HS_u18.out.a.lt
                      have hgb5 : gx < u18.heap.size := HS_u18.out.b.lt
                      have HS_u21 := Lib.hid (HS_u18.out.go hb)
                      refine hK.out _ _ HS_u21.out ?_
                      clear hK K hb
                      generalize u18.alloc (.cells #[.bool false, .string (bs []), .int .i64 0] 23) = u21 at *
                      generalize u18.heap.size = p5 at *
                      try simp only [Act.put, List.getElem_toArray, List.getElem_cons_succ, List.getElem_cons_zero, List.setIfInBounds_toArray, List.set_cons_zero, List.set_cons_succ]
                      refine wpH_one 3 (by kernel_rfl) rfl (fun K hK => ?_)
                      go_simp
                      refine (HN2.out _).mono ?_
                      rintro e1 u22 ⟨rfl, hb⟩
                      have HZ4_u22 : Hid (ZB u22 p4) := Lib.hid (HZ4_u21.out.below hb HZ4_u21.out.lt)
                      have HZ5_u22 : Hid (ZB u22 p5) := Lib.hid (HZ5_u21.out.below hb HZ5_u21.out.lt)
                      have HS_u22 := Lib.hid (HS_u21.out.go hb)
                      refine hK.out _ _ HS_u22.out ?_
                      clear hK K hb
                      try simp only [Act.put, List.getElem_toArray, List.getElem_cons_succ, List.getElem_cons_zero, List.setIfInBounds_toArray, List.set_cons_zero, List.set_cons_succ]
                      have z40 : u22.frozen? ⟨p4, 0, none⟩ = false := HZ4_u22.out.frozen 0
                      have c40 : u22.cell? ⟨p4, 0, none⟩ = some (.bool false) := HZ4_u22.out.cell 0
                      have z41 : u22.frozen? ⟨p4, 1, none⟩ = false := HZ4_u22.out.frozen 1
                      have c41 : u22.cell? ⟨p4, 1, none⟩ = some (.string (bs [])) := HZ4_u22.out.cell 1
                      have z42 : u22.frozen? ⟨p4, 2, none⟩ = false := HZ4_u22.out.frozen 2
                      have c42 : u22.cell? ⟨p4, 2, none⟩ = some (.int .i64 0) := HZ4_u22.out.cell 2
                      have z50 : u22.frozen? ⟨p5, 0, none⟩ = false := HZ5_u22.out.frozen 0
                      have c50 : u22.cell? ⟨p5, 0, none⟩ = some (.bool false) := HZ5_u22.out.cell 0
                      have z51 : u22.frozen? ⟨p5, 1, none⟩ = false := HZ5_u22.out.frozen 1
                      have c51 : u22.cell? ⟨p5, 1, none⟩ = some (.string (bs [])) := HZ5_u22.out.cell 1
                      have z52 : u22.frozen? ⟨p5, 2, none⟩ = false := HZ5_u22.out.frozen 2
                      have c52 : u22.cell? ⟨p5, 2, none⟩ = some (.int .i64 0) := HZ5_u22.out.cell 2
                      have hq1 : p4 ≠ p5 := by omega
                      have hq2 : p5 ≠ p4 := by omega
                      have g41 : w.heap.size ≠ p4 := by omega
                      have g42 : gx ≠ p4 := by omega
                      have g51 : w.heap.size ≠ p5 := by omega
                      have g52 : gx ≠ p5 := by omega
                      have g4 : w.heap.size ≤ p4 := by omega
                      have g5 : w.heap.size ≤ p5 := by omega
                      refine wpH_one 6 (by kernel_rfl) rfl (fun K hK => ?_)
                      go_simp
                      refine hK.out _ _ (((HS_u22.out.far g41 g42 g4 _).far g41 g42 g4 _).far g41 g42 g4 _) ?_
                      clear hK K
                      try simp only [Act.put, List.getElem_toArray, List.getElem_cons_succ, List.getElem_cons_zero, List.setIfInBounds_toArray, List.set_cons_zero, List.set_cons_succ]
                      refine wpH_one 7 (by kernel_rfl) rfl (fun K hK => ?_)
                      go_simp
                      refine hK.out _ _ ((((((HS_u22.out.far g41 g42 g4 _).far g41 g42 g4 _).far g41 g42 g4 _).far g51 g52 g5 _).far g51 g52 g5 _).far g51 g52 g5 _) ?_
                      clear hK K
                      try simp only [Act.put, List.getElem_toArray, List.getElem_cons_succ, List.getElem_cons_zero, List.setIfInBounds_toArray, List.set_cons_zero, List.set_cons_succ]
                      refine wpH_done (by kernel_rfl) ?_ _
                      go_wp2_with fail
                      go_meet
                      case rel => exact ⟨p4, p5, rfl, rfl, nrm_mk HS_u22.out HZ4_u22.out HZ5_u22.out hq1 g41 g42 g51 g52 g4 g5⟩
                  · go_simp
                    have hbs : (⟨#[]⟩ : ByteArray) = bs [] := rfl
                    rw [hbs]
                    clear hbs
                    have hb : Below u17.heap.size u17 (u17.alloc (.cells #[.bool false, .string (bs []), .int .i64 0] 23)) := (Below.refl _ _).alloc (Nat.le_refl _) _
                    have HZ5_u23 : Hid (ZB (u17.alloc (.cells #[.bool false, .string (bs []), .int .i64 0] 23)) u17.heap.size) := Lib.hid (Blk.new u17 23 _)
                    have HZ4_u23 : Hid (ZB (u17.alloc (.cells #[.bool false, .string (bs []), .int .i64 0] 23)) p4) := Lib.hid (HZ4_u17.out.alloc _)
                    have hne5 : p4 ≠ u17.heap.size := Nat.ne_of_lt HZ4_u17.out.lt
                    have hga5 : w.heap.size < u17.heap.size := HS_u17.out.a.lt
                    have hgb5 : gx < u17.heap.size := HS_u17.out.b.lt
                    have HS_u23 := Lib.hid (HS_u17.out.go hb)
                    refine hK.out _ _ HS_u23.out ?_
                    clear hK K hb
                    generalize u17.alloc (.cells #[.bool false, .string (bs []), .int .i64 0] 23) = u23 at *
                    generalize u17.heap.size = p5 at *
                    try simp only [Act.put, List.getElem_toArray, List.getElem_cons_succ, List.getElem_cons_zero, List.setIfInBounds_toArray, List.set_cons_zero, List.set_cons_succ]
                    refine wpH_one 1 (by kernel_rfl) rfl (fun K hK => ?_)
                    go_simp
                    refine (HN1.out _).mono ?_
                    rintro e1 u24 ⟨rfl, hb⟩
                    have HZ4_u24 : Hid (ZB u24 p4) := Lib.hid (HZ4_u23.out.below hb HZ4_u23.out.lt)
                    have HZ5_u24 : Hid (ZB u24 p5) := Lib.hid (HZ5_u23.out.below hb HZ5_u23.out.lt)
                    have HS_u24 := Lib.hid (HS_u23.out.go hb)
                    refine hK.out _ _ HS_u24.out ?_
                    clear hK K hb
                    try simp only [Act.put, List.getElem_toArray, List.getElem_cons_succ, List.getElem_cons_zero, List.setIfInBounds_toArray, List.set_cons_zero, List.set_cons_succ]
                    refine wpH_one 3 (by kernel_rfl) rfl (fun K hK => ?_)
                    go_simp
                    refine (HN2.out _).mono ?_
                    rintro e1 u25 ⟨rfl, hb⟩
                    have HZ4_u25 : Hid (ZB u25 p4) := Lib.hid (HZ4_u24.out.below hb HZ4_u24.out.lt)
                    have HZ5_u25 : Hid (ZB u25 p5) := Lib.hid (HZ5_u24.out.below hb HZ5_u24.out.lt)
                    have HS_u25 := Lib.hid (HS_u24.out.go hb)
                    refine hK.out _ _ HS_u25.out ?_
                    clear hK K hb
                    try simp only [Act.put, List.getElem_toArray, List.getElem_cons_succ, List.getElem_cons_zero, List.setIfInBounds_toArray, List.set_cons_zero, List.set_cons_succ]
                    have z40 : u25.frozen? ⟨p4, 0, none⟩ = false := HZ4_u25.out.frozen 0
                    have c40 : u25.cell? ⟨p4, 0, none⟩ = some (.bool false) := HZ4_u25.out.cell 0
                    have z41 : u25.frozen? ⟨p4, 1, none⟩ = false := HZ4_u25.out.frozen 1
                    have c41 : u25.cell? ⟨p4, 1, none⟩ = some (.string (bs [])) := HZ4_u25.out.cell 1
                    have z42 : u25.frozen? ⟨p4, 2, none⟩ = false := HZ4_u25.out.frozen 2
                    have c42 : u25.cell? ⟨p4, 2, none⟩ = some (.int .i64 0) := HZ4_u25.out.cell 2
                    have z50 : u25.frozen? ⟨p5, 0, none⟩ = false := HZ5_u25.out.frozen 0
                    have c50 : u25.cell? ⟨p5, 0, none⟩ = some (.bool false) := HZ5_u25.out.cell 0
                    have z51 : u25.frozen? ⟨p5, 1, none⟩ = false := HZ5_u25.out.frozen 1
                    have c51 : u25.cell? ⟨p5, 1, none⟩ = some (.string (bs [])) := HZ5_u25.out.cell 1
                    have z52 : u25.frozen? ⟨p5, 2, none⟩ = false := HZ5_u25.out.frozen 2
                    have c52 : u25.cell? ⟨p5, 2, none⟩ = some (.int .i64 0) := HZ5_u25.out.cell 2
                    have hq1 : p4 ≠ p5 := by omega
                    have hq2 : p5 ≠ p4 := by omega
                    have g41 : w.heap.size ≠ p4 := by omega
                    have g42 : gx ≠ p4 := by omega
                    have g51 : w.heap.size ≠ p5 := by omega
                    have g52 : gx ≠ p5 := by omega
                    have g4 : w.heap.size ≤ p4 := by omega
                    have g5 : w.heap.size ≤ p5 := by omega
                    refine wpH_one 6 (by kernel_rfl) rfl (fun K hK => ?_)
                    go_simp
                    refine hK.out _ _ (((HS_u25.out.far g41 g42 g4 _).far g41 g42 g4 _).far g41 g42 g4 _) ?_
                    clear hK K
                    try simp only [Act.put, List.getElem_toArray, List.getElem_cons_succ, List.getElem_cons_zero, List.setIfInBounds_toArray, List.set_cons_zero, List.set_cons_succ]
                    refine wpH_one 7 (by kernel_rfl) rfl (fun K hK => ?_)
                    go_simp
                    refine hK.out _ _ ((((((HS_u25.out.far g41 g42 g4 _).far g41 g42 g4 _).far g41 g42 g4 _).far g51 g52 g5 _).far g51 g52 g5 _).far g51 g52 g5 _) ?_
                    clear hK K
                    try simp only [Act.put, List.getElem_toArray, List.getElem_cons_succ, List.getElem_cons_zero, List.setIfInBounds_toArray, List.set_cons_zero, List.set_cons_succ]
                    refine wpH_done (by kernel_rfl) ?_ _
                    go_wp2_with fail
                    go_meet
                    case rel => exact ⟨p4, p5, rfl, rfl, nrm_mk HS_u25.out HZ4_u25.out HZ5_u25.out hq1 g41 g42 g51 g52 g4 g5⟩
                · go_simp
                  have hbs : (⟨#[]⟩ : ByteArray) = bs [] := rfl
                  rw [hbs]
                  clear hbs
                  have hb : Below w5.heap.size w5 (w5.alloc (.cells #[.bool false, .string (bs []), .int .i64 0] 23)) := (Below.refl _ _).alloc (Nat.le_refl _) _
                  have HZ5_u26 : Hid (ZB (w5.alloc (.cells #[.bool false, .string (bs []), .int .i64 0] 23)) w5.heap.size) := Lib.hid (Blk.new w5 23 _)
                  have hga5 : w.heap.size < w5.heap.size := HS1.out.a.lt
                  have hgb5 : gx < w5.heap.size := HS1.out.b.lt
                  have HS_u26 := Lib.hid (HS1.out.go hb)
                  refine hK.out _ _ HS_u26.out ?_
                  clear hK K hb
                  generalize w5.alloc (.cells #[.bool false, .string (bs []), .int .i64 0] 23) = u26 at *
                  generalize w5.heap.size = p5 at *
                  try simp only [Act.put, List.getElem_toArray, List.getElem_cons_succ, List.getElem_cons_zero, List.setIfInBounds_toArray, List.set_cons_zero, List.set_cons_succ]
                  refine wpH_two 1 4 (by kernel_rfl) rfl rfl (fun K hK => ?_) (fun K hK => ?_)
                  · go_simp
                    refine (HN1.out _).mono ?_
                    rintro e1 u27 ⟨rfl, hb⟩
                    have HZ5_u27 : Hid (ZB u27 p5) := Lib.hid (HZ5_u26.out.below hb HZ5_u26.out.lt)
                    have HS_u27 := Lib.hid (HS_u26.out.go hb)
                    refine hK.out _ _ HS_u27.out ?_
                    clear hK K hb
                    try simp only [Act.put, List.getElem_toArray, List.getElem_cons_succ, List.getElem_cons_zero, List.setIfInBounds_toArray, List.set_cons_zero, List.set_cons_succ]
                    refine wpH_two 3 4 (by kernel_rfl) rfl rfl (fun K hK => ?_) (fun K hK => ?_)
                    · go_simp
                      refine (HN2.out _).mono ?_
                      rintro e1 u28 ⟨rfl, hb⟩
                      have HZ5_u28 : Hid (ZB u28 p5) := Lib.hid (HZ5_u27.out.below hb HZ5_u27.out.lt)
                      have HS_u28 := Lib.hid (HS_u27.out.go hb)
                      refine hK.out _ _ HS_u28.out ?_
                      clear hK K hb
                      try simp only [Act.put, List.getElem_toArray, List.getElem_cons_succ, List.getElem_cons_zero, List.setIfInBounds_toArray, List.set_cons_zero, List.set_cons_succ]
                      refine wpH_one 4 (by kernel_rfl) rfl (fun K hK => ?_)
                      go_simp
                      have hbs : (⟨#[]⟩ : ByteArray) = bs [] := rfl
                      rw [hbs]
                      clear hbs
                      have hb : Below u28.heap.size u28 (u28.alloc (.cells #[.bool false, .string (bs []), .int .i64 0] 23)) := (Below.refl _ _).alloc (Nat.le_refl _) _
                      have HZ4_u29 : Hid (ZB (u28.alloc (.cells #[.bool false, .string (bs []), .int .i64 0] 23)) u28.heap.size) := Lib.hid (Blk.new u28 23 _)
                      have HZ5_u29 : Hid (ZB (u28.alloc (.cells #[.bool false, .string (bs []), .int .i64 0] 23)) p5) := Lib.hid (HZ5_u28.out.alloc _)
                      have hne4 : p5 ≠ u28.heap.size := Nat.ne_of_lt HZ5_u28.out.lt
                      have hga4 : w.heap.size < u28.heap.size := HS_u28.out.a.lt
                      have hgb4 : gx < u28.heap.size := HS_u28.out.b.lt
                      have HS_u29 := Lib.hid (HS_u28.out.go hb)
                      refine hK.out _ _ HS_u29.out ?_
                      clear hK K hb
                      generalize u28.alloc (.cells #[.bool false, .string (bs []), .int .i64 0] 23) = u29 at *
                      generalize u28.heap.size = p4 at *
                      try simp only [Act.put, List.getElem_toArray, List.getElem_cons_succ, List.getElem_cons_zero, List.setIfInBounds_toArray, List.set_cons_zero, List.set_cons_succ]
                      have z40 : u29.frozen? ⟨p4, 0, none⟩ = false := HZ4_u29.out.frozen 0
                      have c40 : u29.cell? ⟨p4, 0, none⟩ = some (.bool false) := HZ4_u29.out.cell 0
                      have z41 : u29.frozen? ⟨p4, 1, none⟩ = false := HZ4_u29.out.frozen 1
                      have c41 : u29.cell? ⟨p4, 1, none⟩ = some (.string (bs [])) := HZ4_u29.out.cell 1
                      have z42 : u29.frozen? ⟨p4, 2, none⟩ = false := HZ4_u29.out.frozen 2
                      have c42 : u29.cell? ⟨p4, 2, none⟩ = some (.int .i64 0) := HZ4_u29.out.cell 2
                      have z50 : u29.frozen? ⟨p5, 0, none⟩ = false := HZ5_u29.out.frozen 0
                      have c50 : u29.cell? ⟨p5, 0, none⟩ = some (.bool false) := HZ5_u29.out.cell 0
                      have z51 : u29.frozen? ⟨p5, 1, none⟩ = false := HZ5_u29.out.frozen 1
                      have c51 : u29.cell? ⟨p5, 1, none⟩ = some (.string (bs [])) := HZ5_u29.out.cell 1
                      have z52 : u29.frozen? ⟨p5, 2, none⟩ = false := HZ5_u29.out.frozen 2
                      have c52 : u29.cell? ⟨p5, 2, none⟩ = some (.int .i64 0) := HZ5_u29.out.cell 2
                      have hq1 : p4 ≠ p5 := by omega
                      have hq2 : p5 ≠ p4 := by omega
                      have g41 : w.heap.size ≠ p4 := by omega
                      have g42 : gx ≠ p4 := by omega
                      have g51 : w.heap.size ≠ p5 := by omega
                      have g52 : gx ≠ p5 := by omega
                      have g4 : w.heap.size ≤ p4 := by omega
                      have g5 : w.heap.size ≤ p5 := by omega
                      refine wpH_one 6 (by kernel_rfl) rfl (fun K hK => ?_)
                      go_simp
                      refine hK.out _ _ (((HS_u29.out.far g41 g42 g4 _).far g41 g42 g4 _).far g41 g42 g4 _) ?_
                      clear hK K
                      try simp only [Act.put, List.getElem_toArray, List.getElem_cons_succ, List.getElem_cons_zero, List.setIfInBounds_toArray, List.set_cons_zero, List.set_cons_succ]
                      refine wpH_one 7 (by kernel_rfl) rfl (fun K hK => ?_)
                      go_simp
                      refine hK.out _ _ ((((((HS_u29.out.far g41 g42 g4 _).far g41 g42 g4 _).far g41 g42 g4 _).far g51 g52 g5 _).far g51 g52 g5 _).far g51 g52 g5 _) ?_
                      clear hK K
                      try simp only [Act.put, List.getElem_toArray, List.getElem_cons_succ, List.getElem_cons_zero, List.setIfInBounds_toArray, List.set_cons_zero, List.set_cons_succ]
                      refine wpH_done (by kernel_rfl) ?_ _
                      go_wp2_with fail
                      go_meet
                      case rel => exact ⟨p4, p5, rfl, rfl, nrm_mk HS_u29.out HZ4_u29.out HZ5_u29.out hq1 g41 g42 g51 g52 g4 g5⟩
                    · go_simp
                      have hbs : (⟨#[]⟩ : ByteArray) = bs [] := rfl
                      rw [hbs]
                      clear hbs
                      have hb : Below u27.heap.size u27 (u27.alloc (.cells #[.bool false, .string (bs []), .int .i64 0] 23)) := (Below.refl _ _).alloc (Nat.le_refl _) _
                      have HZ4_u30 : Hid (ZB (u27.alloc (.cells #[.bool false, .string (bs []), .int .i64 0] 23)) u27.heap.size) := Lib.hid (Blk.new u27 23 _)
                      have HZ5_u30 : Hid (ZB (u27.alloc (.cells #[.bool false, .string (bs []), .int .i64 0] 23)) p5) := Lib.hid (HZ5_u27.out.alloc _)
                      have hne4 : p5 ≠ u27.heap.size := Nat.ne_of_lt HZ5_u27.out.lt
                      have hga4 : w.heap.size < u27.heap.size := HS_u27.out.a.lt
                      have hgb4 : gx < u27.heap.size := HS_u27.out.b.lt
                      have HS_u30 := Lib.hid (HS_u27.out.go hb)
                      refine hK.out _ _ HS_u30.out ?_
                      clear hK K hb
                      generalize u27.alloc (.cells #[.bool false, .string (bs []), .int .i64 0] 23) = u30 at *
                      generalize u27.heap.size = p4 at *
                      try simp only [Act.put, List.getElem_toArray, List.getElem_cons_succ, List.getElem_cons_zero, List.setIfInBounds_toArray, List.set_cons_zero, List.set_cons_succ]
                      refine wpH_one 3 (by kernel_rfl) rfl (fun K hK => ?_)
                      go_simp
                      refine (HN2.out _).mono ?_
                      rintro e1 u31 ⟨rfl, hb⟩
                      have HZ5_u31 : Hid (ZB u31 p5) := Lib.hid (HZ5_u30.out.below hb HZ5_u30.out.lt)
                      have HZ4_u31 : Hid (ZB u31 p4) := Lib.hid (HZ4_u30.out.below hb HZ4_u30.out.lt)
                      have HS_u31 := Lib.hid (HS_u30.out.go hb)
                      refine hK.out _ _ HS_u31.out ?_
                      clear hK K hb
                      try simp only [Act.put, List.getElem_toArray, List.getElem_cons_succ, List.getElem_cons_zero, List.setIfInBounds_toArray, List.set_cons_zero, List.set_cons_succ]
                      have z40 : u31.frozen? ⟨p4, 0, none⟩ = false := HZ4_u31.out.frozen 0
                      have c40 : u31.cell? ⟨p4, 0, none⟩ = some (.bool false) := HZ4_u31.out.cell 0
                      have z41 : u31.frozen? ⟨p4, 1, none⟩ = false := HZ4_u31.out.frozen 1
                      have c41 : u31.cell? ⟨p4, 1, none⟩ = some (.string (bs [])) := HZ4_u31.out.cell 1
                      have z42 : u31.frozen? ⟨p4, 2, none⟩ = false := HZ4_u31.out.frozen 2
                      have c42 : u31.cell? ⟨p4, 2, none⟩ = some (.int .i64 0) := HZ4_u31.out.cell 2
                      have z50 : u31.frozen? ⟨p5, 0, none⟩ = false := HZ5_u31.out.frozen 0
                      have c50 : u31.cell? ⟨p5, 0, none⟩ = some (.bool false) := HZ5_u31.out.cell 0
                      have z51 : u31.frozen? ⟨p5, 1, none⟩ = false := HZ5_u31.out.frozen 1
                      have c51 : u31.cell? ⟨p5, 1, none⟩ = some (.string (bs [])) := HZ5_u31.out.cell 1
                      have z52 : u31.frozen? ⟨p5, 2, none⟩ = false := HZ5_u31.out.frozen 2
                      have c52 : u31.cell? ⟨p5, 2, none⟩ = some (.int .i64 0) := HZ5_u31.out.cell 2
                      have hq1 : p4 ≠ p5 := by omega
                      have hq2 : p5 ≠ p4 := by omega
                      have g41 : w.heap.size ≠ p4 := by omega
                      have g42 : gx ≠ p4 := by omega
                      have g51 : w.heap.size ≠ p5 := by omega
                      have g52 : gx ≠ p5 := by omega
                      have g4 : w.heap.size ≤ p4 := by omega
                      have g5 : w.heap.size ≤ p5 := by omega
                      refine wpH_one 6 (by kernel_rfl) rfl (fun K hK => ?_)
                      go_simp
                      refine hK.out _ _ (((HS_u31.out.far g41 g42 g4 _).far g41 g42 g4 _).far g41 g42 g4 _) ?_
                      clear hK K
                      try simp only [Act.put, List.getElem_toArray, List.getElem_cons_succ, List.getElem_cons_zero, List.setIfInBounds_toArray, List.set_cons_zero, List.set_cons_succ]
                      refine wpH_one 7 (by kernel_rfl) rfl (fun K hK => ?_)
                      go_simp
                      refine hK.out _ _ ((((((HS_u31.out.far g41 g42 g4 _).far g41 g42 g4 _).far g41 g42 g4 _).far g51 g52 g5 _).far g51 g52 g5 _).far g51 g52 g5 _) ?_
                      clear hK K
                      try simp only [Act.put, List.getElem_toArray, List.getElem_cons_succ, List.getElem_cons_zero, List.setIfInBounds_toArray, List.set_cons_zero, List.set_cons_succ]
                      refine wpH_done (by kernel_rfl) ?_ _
                      go_wp2_with fail
                      go_meet
                      case rel => exact ⟨p4, p5, rfl, rfl, nrm_mk HS_u31.out HZ4_u31.out HZ5_u31.out hq1 g41 g42 g51 g52 g4 g5⟩
                  · go_simp
                    have hbs : (⟨#[]⟩ : ByteArray) = bs [] := rfl
                    rw [hbs]
                    clear hbs
                    have hb : Below u26.heap.size u26 (u26.alloc (.cells #[.bool false, .string (bs []), .int .i64 0] 23)) := (Below.refl _ _).alloc (Nat.le_refl _) _
                    have HZ4_u32 : Hid (ZB (u26.alloc (.cells #[.bool false, .string (bs []), .int .i64 0] 23)) u26.heap.size) := Lib.hid (Blk.new u26 23 _)
                    have HZ5_u32 : Hid (ZB (u26.alloc (.cells #[.bool false, .string (bs []), .int .i64 0] 23)) p5) := Lib.hid (HZ5_u26.out.alloc _)
                    have hne4 : p5 ≠ u26.heap.size := Nat.ne_of_lt HZ5_u26.out.lt
                    have hga4 : w.heap.size < u26.heap.size := HS_u26.out.a.lt
                    have hgb4 : gx < u26.heap.size := HS_u26.out.b.lt
                    have HS_u32 := Lib.hid (HS_u26.out.go hb)
                    refine hK.out _ _ HS_u32.out ?_
                    clear hK K hb
                    generalize u26.alloc (.cells #[.bool false, .string (bs []), .int .i64 0] 23) = u32 at *
                    generalize u26.heap.size = p4 at *
                    try simp only [Act.put, List.getElem_toArray, List.getElem_cons_succ, List.getElem_cons_zero, List.setIfInBounds_toArray, List.set_cons_zero, List.set_cons_succ]
                    refine wpH_one 1 (by kernel_rfl) rfl (fun K hK => ?_)
                    go_simp
                    refine (HN1.out _).mono ?_
                    rintro e1 u33 ⟨rfl, hb⟩
                    have HZ5_u33 : Hid (ZB u33 p5) := Lib.hid (HZ5_u32.out.below hb HZ5_u32.out.lt)
                    have HZ4_u33 : Hid (ZB u33 p4) := Lib.hid (HZ4_u32.out.below hb HZ4_u32.out.lt)
                    have HS_u33 := Lib.hid (HS_u32.out.go hb)
                    refine hK.out _ _ HS_u33.out ?_
                    clear hK K hb
                    try simp only [Act.put, List.getElem_toArray, List.getElem_cons_succ, List.getElem_cons_zero, List.setIfInBounds_toArray, List.set_cons_zero, List.set_cons_succ]
                    refine wpH_one 3 (by kernel_rfl) rfl (fun K hK => ?_)
                    go_simp
                    refine (HN2.out _).mono ?_
                    rintro e1 u34 ⟨rfl, hb⟩
                    have HZ5_u34 : Hid (ZB u34 p5) := Lib.hid (HZ5_u33.out.below hb HZ5_u33.out.lt)
                    have HZ4_u34 : Hid (ZB u34 p4) := Lib.hid (HZ4_u33.out.below hb HZ4_u33.out.lt)
                    have HS_u34 := Lib.hid (HS_u33.out.go hb)
                    refine hK.out _ _ HS_u34.out ?_
                    clear hK K hb
                    try simp only [Act.put, List.getElem_toArray, List.getElem_cons_succ, List.getElem_cons_zero, List.setIfInBounds_toArray, List.set_cons_zero, List.set_cons_succ]
                    have z40 : u34.frozen? ⟨p4, 0, none⟩ = false := HZ4_u34.out.frozen 0
                    have c40 : u34.cell? ⟨p4, 0, none⟩ = some (.bool false) := HZ4_u34.out.cell 0
                    have z41 : u34.frozen? ⟨p4, 1, none⟩ = false := HZ4_u34.out.frozen 1
                    have c41 : u34.cell? ⟨p4, 1, none⟩ = some (.string (bs [])) := HZ4_u34.out.cell 1
                    have z42 : u34.frozen? ⟨p4, 2, none⟩ = false := HZ4_u34.out.frozen 2
                    have c42 : u34.cell? ⟨p4, 2, none⟩ = some (.int .i64 0) := HZ4_u34.out.cell 2
                    have z50 : u34.frozen? ⟨p5, 0, none⟩ = false := HZ5_u34.out.frozen 0
                    have c50 : u34.cell? ⟨p5, 0, none⟩ = some (.bool false) := HZ5_u34.out.cell 0
                    have z51 : u34.frozen? ⟨p5, 1, none⟩ = false := HZ5_u34.out.frozen 1
                    have c51 : u34.cell? ⟨p5, 1, none⟩ = some (.string (bs [])) := HZ5_u34.out.cell 1
                    have z52 : u34.frozen? ⟨p5, 2, none⟩ = false := HZ5_u34.out.frozen 2
                    have c52 : u34.cell? ⟨p5, 2, none⟩ = some (.int .i64 0) := HZ5_u34.out.cell 2
                    have hq1 : p4 ≠ p5 := by omega
                    have hq2 : p5 ≠ p4 := by omega
                    have g41 : w.heap.size ≠ p4 := by omega
                    have g42 : gx ≠ p4 := by omega
                    have g51 : w.heap.size ≠ p5 := by omega
                    have g52 : gx ≠ p5 := by omega
                    have g4 : w.heap.size ≤ p4 := by omega
                    have g5 : w.heap.size ≤ p5 := by omega
                    refine wpH_one 6 (by kernel_rfl) rfl (fun K hK => ?_)
                    go_simp
                    refine hK.out _ _ (((HS_u34.out.far g41 g42 g4 _).far g41 g42 g4 _).far g41 g42 g4 _) ?_
                    clear hK K
                    try simp only [Act.put, List.getElem_toArray, List.getElem_cons_succ, List.getElem_cons_zero, List.setIfInBounds_toArray, List.set_cons_zero, List.set_cons_succ]
                    refine wpH_one 7 (by kernel_rfl) rfl (fun K hK => ?_)
                    go_simp
                    refine hK.out _ _ ((((((HS_u34.out.far g41 g42 g4 _).far g41 g42 g4 _).far g41 g42 g4 _).far g51 g52 g5 _).far g51 g52 g5 _).far g51 g52 g5 _) ?_
                    clear hK K
                    try simp only [Act.put, List.getElem_toArray, List.getElem_cons_succ, List.getElem_cons_zero, List.setIfInBounds_toArray, List.set_cons_zero, List.set_cons_succ]
                    refine wpH_done (by kernel_rfl) ?_ _
                    go_wp2_with fail
                    go_meet
                    case rel => exact ⟨p4, p5, rfl, rfl, nrm_mk HS_u34.out HZ4_u34.out HZ5_u34.out hq1 g41 g42 g51 g52 g4 g5⟩
              case rest =>
              obtain ⟨p, q, h10, h11, hs6⟩ := hcut
              subst h10 h11
              have HS6 := Lib.hid hs6
              clear hs6 HU HN1 HN2
              go_upto_region 13 with fail
              go_cut [82] from 52 to 82 (fun v W => v = .bool false ∧ W = wc)
              case first =>
                have kc0 := HS6.out.c0
                have kc1 := HS6.out.c1
                have kc2 := HS6.out.c2
                rcases HLK.out with hzd | ⟨kk, hsz, hh0, hhk⟩
                · obtain ⟨rfl, rfl, rfl⟩ : ny = false ∧ dy = [] ∧ ey = 0 := by
                    unfold zeroD at hzd
                    injection hzd with h1 h2 h3
                    exact ⟨h1, h2, h3⟩
                  have q0 : ∀ W, (binOp .neq 23 (.agg #[.bool false, .string ⟨#[]⟩, .int .i64 0]) (.agg #[.bool false, .string ⟨#[]⟩, .int .i64 0])).run Tryd.prog W = .ok (.bool false) W := fun W => by
                    rw [neq_dc, dc_self]; rfl
                  have hbs : bs [] = (⟨#[]⟩ : ByteArray) := rfl
                  rw [hbs] at kc1
                  have hs0 : (⟨#[]⟩ : ByteArray).size = 0 := rfl
                  clear hzd HLK hly hbs
                  go_wp2_with fail
                  go_meet
                  case rel => exact ⟨rfl, rfl⟩
                · have hkb : kk ≤ 500 := by rw [bs_size] at hsz; omega
                  have h0lt : 0 < (bs dy).size := by omega
                  have hklt : kk < (bs dy).size := by omega
                  have hb0 : (((bs dy)[0].toNat : Int) == 48) = false := by
                    rcases byte_is (bs dy)[0] 48 48 rfl with ⟨h, _⟩ | ⟨_, h⟩
                    · exact absurd h hh0
                    · exact h
                  have hbk : (((bs dy)[kk].toNat : Int) == 48) = false := by
                    rcases byte_is (bs dy)[kk] 48 48 rfl with ⟨h, _⟩ | ⟨_, h⟩
                    · exact absurd h hhk
                    · exact h
                  clear hh0 hhk HLK hly
                  generalize bs dy = sy at *
                  have hnz : ((kk : Int) + 1 == 0) = false := by rw [beq_eq_false_iff_ne]; omega
                  go_wp2_with fail
                  go_meet
                  case rel => exact ⟨rfl, rfl⟩
              case rest =>
              obtain ⟨rfl, hwc⟩ := hcut
              subst hwc
              clear HLK hly
              generalize bs dy = sy at *
              have qe : ∀ W, (binOp .eql 23 (.agg #[.bool ny, .string sy, .int .i64 ey]) (.agg #[.bool ny, .string sy, .int .i64 ey])).run Tryd.prog W = .ok (.bool true) W := fun W => by rw [eq_dc, dc_self]
              have hwb : (wb == wb) = true := by simp
              by_cases hey : 1000000000 < ey
              · have hey' : decide ((1000000000 : Int) < ey) = true := decide_eq_true hey
                clear HN3 hey
                go_wp2_with fail
                refine wp_region_G (by kernel_rfl) ?_
                have hg1 := Grow.drew wc
                have HS := Lib.hid (HS6.out.go hg1)
                generalize wc.drew = w7 at *
                clear hg1 HS6
                refine wpG_take 0 83 (v := ?va0) rfl rfl (by kernel_rfl) (by kernel_rfl) (by kernel_rfl) (fun _ _ _ h => h) (Or.inl ⟨by rfl, ?ya0⟩) ?ra0
                case ya0 => (intro W hW; have hD := HS.out.go hW; have kc0 := hD.c0; have kc1 := hD.c1; have kc2 := hD.c2; (go_simp; try with_reducible rfl))
                simp only [Act.put, List.setIfInBounds_toArray, List.set_cons_zero, List.set_cons_succ]
                refine wpG_take 1 84 (v := ?va1) rfl rfl (by kernel_rfl) (by kernel_rfl) (by kernel_rfl) (fun _ _ _ h => h) (Or.inl ⟨by rfl, ?ya1⟩) ?ra1
                case ya1 => (intro W hW; have hD := HS.out.go hW; have kd0 := hD.d0; have kd1 := hD.d1; have kd2 := hD.d2; (go_simp; try with_reducible rfl))
                simp only [Act.put, List.setIfInBounds_toArray, List.set_cons_zero, List.set_cons_succ]
                refine wpG_take 2 85 (v := ?va2) rfl rfl (by kernel_rfl) (by kernel_rfl) (by kernel_rfl) (fun _ _ _ h => h) (Or.inl ⟨by rfl, ?ya2⟩) ?ra2
                case ya2 => (intro W hW; have hq := qe W; (go_simp; try with_reducible rfl))
                simp only [Act.put, List.setIfInBounds_toArray, List.set_cons_zero, List.set_cons_succ]
                refine wpG_take 3 86 (v := ?va3) rfl rfl (by kernel_rfl) (by kernel_rfl) (by kernel_rfl) (fun _ _ _ h => h) (Or.inl ⟨by rfl, ?ya3⟩) ?ra3
                case ya3 => (intro W hW; (go_simp; try with_reducible rfl))
                simp only [Act.put, List.setIfInBounds_toArray, List.set_cons_zero, List.set_cons_succ]
                refine wpG_take 4 87 (v := ?va4) rfl rfl (by kernel_rfl) (by kernel_rfl) (by kernel_rfl) (fun _ _ _ h => h) (Or.inl ⟨by rfl, ?ya4⟩) ?ra4
                case ya4 => (intro W hW; have hD := HS.out.go hW; have ka0 := hD.a0; have ka1 := hD.a1; have ka2 := hD.a2; (go_simp; try with_reducible rfl))
                simp only [Act.put, List.setIfInBounds_toArray, List.set_cons_zero, List.set_cons_succ]
                refine wpG_take 5 88 (v := ?va5) rfl rfl (by kernel_rfl) (by kernel_rfl) (by kernel_rfl) (fun _ _ _ h => h) (Or.inl ⟨by rfl, ?ya5⟩) ?ra5
                case ya5 => (intro W hW; have hD := HS.out.go hW; have kb0 := hD.b0; have kb1 := hD.b1; have kb2 := hD.b2; (go_simp; try with_reducible rfl))
                simp only [Act.put, List.setIfInBounds_toArray, List.set_cons_zero, List.set_cons_succ]
                refine wpG_call 6 (by kernel_rfl) rfl (fun K hK => ?_)
                go_simp
                refine (HC.out _).mono ?_
                rintro e1 v1 ⟨rfl, hb⟩
                replace HS := Lib.hid (HS.out.go hb)
                refine hK.out _ _ ?_ ?_
                · exact hb
                clear hK K
                refine wpG_take 7 90 (v := ?va7) rfl rfl (by kernel_rfl) (by kernel_rfl) (by kernel_rfl) (fun _ _ _ h => h) (Or.inl ⟨by rfl, ?ya7⟩) ?ra7
                case ya7 => (intro W hW; (go_simp; try with_reducible rfl))
                simp only [Act.put, List.setIfInBounds_toArray, List.set_cons_zero, List.set_cons_succ]
                refine wpG_take 8 91 (v := ?va8) rfl rfl (by kernel_rfl) (by kernel_rfl) (by kernel_rfl) (fun _ _ _ h => h) (Or.inl ⟨by rfl, ?ya8⟩) ?ra8
                case ya8 => (intro W hW; (go_simp; try with_reducible rfl))
                simp only [Act.put, List.setIfInBounds_toArray, List.set_cons_zero, List.set_cons_succ]
                refine wpG_take 9 92 (v := ?va9) rfl rfl (by kernel_rfl) (by kernel_rfl) (by kernel_rfl) (fun _ _ _ h => h) (Or.inl ⟨by rfl, ?ya9⟩) ?ra9
                case ya9 => (intro W hW; (go_simp; try with_reducible rfl))
                simp only [Act.put, List.setIfInBounds_toArray, List.set_cons_zero, List.set_cons_succ]
                refine wpG_take 10 93 (v := ?va10) rfl rfl (by kernel_rfl) (by kernel_rfl) (by kernel_rfl) (fun _ _ _ h => h) (Or.inl ⟨by rfl, ?ya10⟩) ?ra10
                case ya10 => (intro W hW; have hD := HS.out.go hW; have ka0 := hD.a0; have ka1 := hD.a1; have ka2 := hD.a2; (go_simp; try with_reducible rfl))
                simp only [Act.put, List.setIfInBounds_toArray, List.set_cons_zero, List.set_cons_succ]
                refine wpG_take 12 95 (v := ?va12) rfl rfl (by kernel_rfl) (by kernel_rfl) (by kernel_rfl) (fun _ _ _ h => h) (Or.inl ⟨by rfl, ?ya12⟩) ?ra12
                case ya12 => (intro W hW; have hD := HS.out.go hW; have kb0 := hD.b0; have kb1 := hD.b1; have kb2 := hD.b2; (go_simp; try with_reducible rfl))
                simp only [Act.put, List.setIfInBounds_toArray, List.set_cons_zero, List.set_cons_succ]
                refine wpG_call 11 (by kernel_rfl) rfl (fun K hK => ?_)
                go_simp
                refine (HW1.out _).mono ?_
                rintro e1 v2 ⟨rfl, hb⟩
                replace HS := Lib.hid (HS.out.go hb)
                refine hK.out _ _ ?_ ?_
                · exact hb
                clear hK K
                refine wpG_call 13 (by kernel_rfl) rfl (fun K hK => ?_)
                go_simp
                refine (HW2.out _).mono ?_
                rintro e1 v3 ⟨rfl, hb⟩
                replace HS := Lib.hid (HS.out.go hb)
                refine hK.out _ _ ?_ ?_
                · exact hb
                clear hK K
                refine wpG_take 14 97 (v := ?va14) rfl rfl (by kernel_rfl) (by kernel_rfl) (by kernel_rfl) (fun _ _ _ h => h) (Or.inl ⟨by rfl, ?ya14⟩) ?ra14
                case ya14 => (intro W hW; (go_simp; try with_reducible rfl))
                simp only [Act.put, List.setIfInBounds_toArray, List.set_cons_zero, List.set_cons_succ]
                refine wpG_take 15 98 (v := ?va15) rfl rfl (by kernel_rfl) (by kernel_rfl) (by kernel_rfl) (fun _ _ _ h => h) (Or.inl ⟨by rfl, ?ya15⟩) ?ra15
                case ya15 => (intro W hW; (go_simp; try with_reducible rfl))
                simp only [Act.put, List.setIfInBounds_toArray, List.set_cons_zero, List.set_cons_succ]
                refine wpG_take 16 99 (v := ?va16) rfl rfl (by kernel_rfl) (by kernel_rfl) (by kernel_rfl) (fun _ _ _ h => h) (Or.inl ⟨by rfl, ?ya16⟩) ?ra16
                case ya16 => (intro W hW; (go_simp; try with_reducible rfl))
                simp only [Act.put, List.setIfInBounds_toArray, List.set_cons_zero, List.set_cons_succ]
                refine wpG_take 17 100 (v := ?va17) rfl rfl (by kernel_rfl) (by kernel_rfl) (by kernel_rfl) (fun _ _ _ h => h) (Or.inl ⟨by rfl, ?ya17⟩) ?ra17
                case ya17 => (intro W hW; (go_simp; try with_reducible rfl))
                simp only [Act.put, List.setIfInBounds_toArray, List.set_cons_zero, List.set_cons_succ]
                refine wpG_take 18 101 (v := ?va18) rfl rfl (by kernel_rfl) (by kernel_rfl) (by kernel_rfl) (fun _ _ _ h => h) (Or.inl ⟨by rfl, ?ya18⟩) ?ra18
                case ya18 => (intro W hW; have hD := HS.out.go hW; have kc0 := hD.c0; have kc1 := hD.c1; have kc2 := hD.c2; (go_simp; try with_reducible rfl))
                simp only [Act.put, List.setIfInBounds_toArray, List.set_cons_zero, List.set_cons_succ]
                refine wpG_take 19 102 (v := ?va19) rfl rfl (by kernel_rfl) (by kernel_rfl) (by kernel_rfl) (fun _ _ _ h => h) (Or.inl ⟨by rfl, ?ya19⟩) ?ra19
                case ya19 => (intro W hW; (go_simp; try with_reducible rfl))
                simp only [Act.put, List.setIfInBounds_toArray, List.set_cons_zero, List.set_cons_succ]
                refine wpG_take 20 103 (v := ?va20) rfl rfl (by kernel_rfl) (by kernel_rfl) (by kernel_rfl) (fun _ _ _ h => h) (Or.inl ⟨by rfl, ?ya20⟩) ?ra20
                case ya20 => (intro W hW; (go_simp; try with_reducible rfl))
                simp only [Act.put, List.setIfInBounds_toArray, List.set_cons_zero, List.set_cons_succ]
                refine wpG_take 21 104 rfl rfl (by kernel_rfl) (by kernel_rfl) (by kernel_rfl) (fun _ _ _ h => h) (Or.inr ⟨by rfl, rfl⟩) ?_
                simp only [Act.put, List.setIfInBounds_toArray, List.set_cons_zero, List.set_cons_succ]
                refine wpG_take 23 106 rfl rfl (by kernel_rfl) (by kernel_rfl) (by kernel_rfl) (fun _ _ _ h => h) (Or.inr ⟨by rfl, rfl⟩) ?_
                simp only [Act.put, List.setIfInBounds_toArray, List.set_cons_zero, List.set_cons_succ]
                refine wpG_call 22 (by kernel_rfl) rfl (fun K hK => ?_)
                go_simp
                refine hK.out _ _ ?_ ?_
                · exact Grow.refl _
                clear hK K
                refine wpG_take 24 107 rfl rfl (by kernel_rfl) (by kernel_rfl) (by kernel_rfl) (fun _ _ _ h => h) (Or.inr ⟨by rfl, rfl⟩) ?_
                simp only [Act.put, List.setIfInBounds_toArray, List.set_cons_zero, List.set_cons_succ]
                refine wpG_take 25 108 (v := ?va25) rfl rfl (by kernel_rfl) (by kernel_rfl) (by kernel_rfl) (fun _ _ _ h => h) (Or.inl ⟨by rfl, ?ya25⟩) ?ra25
                case ya25 => (intro W hW; (go_simp; try with_reducible rfl))
                simp only [Act.put, List.setIfInBounds_toArray, List.set_cons_zero, List.set_cons_succ]
                refine wpG_take 26 109 (v := ?va26) rfl rfl (by kernel_rfl) (by kernel_rfl) (by kernel_rfl) (fun _ _ _ h => h) (Or.inl ⟨by rfl, ?ya26⟩) ?ra26
                case ya26 => (intro W hW; (go_simp; try with_reducible rfl))
                simp only [Act.put, List.setIfInBounds_toArray, List.set_cons_zero, List.set_cons_succ]
                refine wpG_take 27 110 (v := ?va27) rfl rfl (by kernel_rfl) (by kernel_rfl) (by kernel_rfl) (fun _ _ _ h => h) (Or.inl ⟨by rfl, ?ya27⟩) ?ra27
                case ya27 => (intro W hW; (go_simp; try with_reducible rfl))
                simp only [Act.put, List.setIfInBounds_toArray, List.set_cons_zero, List.set_cons_succ]
                refine wpG_call 28 (by kernel_rfl) rfl (fun K hK => ?_)
                go_simp
                refine (HA.out _).mono ?_
                rintro e1 v5 ⟨rfl, hb⟩
                replace HS := Lib.hid (HS.out.go hb)
                refine hK.out _ _ ?_ ?_
                · exact hb
                clear hK K
                refine wpG_take 29 112 (v := ?va29) rfl rfl (by kernel_rfl) (by kernel_rfl) (by kernel_rfl) (fun _ _ _ h => h) (Or.inl ⟨by rfl, ?ya29⟩) ?ra29
                case ya29 => (intro W hW; (go_simp; try with_reducible rfl))
                simp only [Act.put, List.setIfInBounds_toArray, List.set_cons_zero, List.set_cons_succ]
                refine wpG_take 30 6 (v := ?va30) rfl rfl (by kernel_rfl) (by kernel_rfl) (by kernel_rfl) (fun _ _ _ h => h) (Or.inl ⟨by rfl, ?ya30⟩) ?ra30
                case ya30 => (intro W hW; (go_simp; try with_reducible rfl))
                simp only [Act.put, List.setIfInBounds_toArray, List.set_cons_zero, List.set_cons_succ]
                refine wpG_done (by kernel_rfl) ?_ _
                go_wp2
                go_ret
                exact ⟨rfl, HS.out.was⟩
              · have hey' : decide ((1000000000 : Int) < ey) = false := decide_eq_false hey
                have HNY := Lib.hid (HN3.out (by omega))
                clear HN3 hey
                go_wp2_with fail
                refine wp_region_G (by kernel_rfl) ?_
                have hg1 := Grow.drew wc
                have HS := Lib.hid (HS6.out.go hg1)
                generalize wc.drew = w7 at *
                clear hg1 HS6
                refine wpG_take 0 83 (v := ?vb0) rfl rfl (by kernel_rfl) (by kernel_rfl) (by kernel_rfl) (fun _ _ _ h => h) (Or.inl ⟨by rfl, ?yb0⟩) ?rb0
                case yb0 => (intro W hW; have hD := HS.out.go hW; have kc0 := hD.c0; have kc1 := hD.c1; have kc2 := hD.c2; (go_simp; try with_reducible rfl))
                simp only [Act.put, List.setIfInBounds_toArray, List.set_cons_zero, List.set_cons_succ]
                refine wpG_take 1 84 (v := ?vb1) rfl rfl (by kernel_rfl) (by kernel_rfl) (by kernel_rfl) (fun _ _ _ h => h) (Or.inl ⟨by rfl, ?yb1⟩) ?rb1
                case yb1 => (intro W hW; have hD := HS.out.go hW; have kd0 := hD.d0; have kd1 := hD.d1; have kd2 := hD.d2; (go_simp; try with_reducible rfl))
                simp only [Act.put, List.setIfInBounds_toArray, List.set_cons_zero, List.set_cons_succ]
                refine wpG_take 2 85 (v := ?vb2) rfl rfl (by kernel_rfl) (by kernel_rfl) (by kernel_rfl) (fun _ _ _ h => h) (Or.inl ⟨by rfl, ?yb2⟩) ?rb2
                case yb2 => (intro W hW; have hq := qe W; (go_simp; try with_reducible rfl))
                simp only [Act.put, List.setIfInBounds_toArray, List.set_cons_zero, List.set_cons_succ]
                refine wpG_take 3 86 (v := ?vb3) rfl rfl (by kernel_rfl) (by kernel_rfl) (by kernel_rfl) (fun _ _ _ h => h) (Or.inl ⟨by rfl, ?yb3⟩) ?rb3
                case yb3 => (intro W hW; (go_simp; try with_reducible rfl))
                simp only [Act.put, List.setIfInBounds_toArray, List.set_cons_zero, List.set_cons_succ]
                refine wpG_take 4 87 (v := ?vb4) rfl rfl (by kernel_rfl) (by kernel_rfl) (by kernel_rfl) (fun _ _ _ h => h) (Or.inl ⟨by rfl, ?yb4⟩) ?rb4
                case yb4 => (intro W hW; have hD := HS.out.go hW; have ka0 := hD.a0; have ka1 := hD.a1; have ka2 := hD.a2; (go_simp; try with_reducible rfl))
                simp only [Act.put, List.setIfInBounds_toArray, List.set_cons_zero, List.set_cons_succ]
                refine wpG_take 5 88 (v := ?vb5) rfl rfl (by kernel_rfl) (by kernel_rfl) (by kernel_rfl) (fun _ _ _ h => h) (Or.inl ⟨by rfl, ?yb5⟩) ?rb5
                case yb5 => (intro W hW; have hD := HS.out.go hW; have kb0 := hD.b0; have kb1 := hD.b1; have kb2 := hD.b2; (go_simp; try with_reducible rfl))
                simp only [Act.put, List.setIfInBounds_toArray, List.set_cons_zero, List.set_cons_succ]
                refine wpG_call 6 (by kernel_rfl) rfl (fun K hK => ?_)
                go_simp
                refine (HC.out _).mono ?_
                rintro e1 v1 ⟨rfl, hb⟩
                replace HS := Lib.hid (HS.out.go hb)
                refine hK.out _ _ ?_ ?_
                · exact hb
                clear hK K
                refine wpG_take 7 90 (v := ?vb7) rfl rfl (by kernel_rfl) (by kernel_rfl) (by kernel_rfl) (fun _ _ _ h => h) (Or.inl ⟨by rfl, ?yb7⟩) ?rb7
                case yb7 => (intro W hW; (go_simp; try with_reducible rfl))
                simp only [Act.put, List.setIfInBounds_toArray, List.set_cons_zero, List.set_cons_succ]
                refine wpG_take 8 91 (v := ?vb8) rfl rfl (by kernel_rfl) (by kernel_rfl) (by kernel_rfl) (fun _ _ _ h => h) (Or.inl ⟨by rfl, ?yb8⟩) ?rb8
                case yb8 => (intro W hW; (go_simp; try with_reducible rfl))
                simp only [Act.put, List.setIfInBounds_toArray, List.set_cons_zero, List.set_cons_succ]
                refine wpG_take 9 92 (v := ?vb9) rfl rfl (by kernel_rfl) (by kernel_rfl) (by kernel_rfl) (fun _ _ _ h => h) (Or.inl ⟨by rfl, ?yb9⟩) ?rb9
                case yb9 => (intro W hW; (go_simp; try with_reducible rfl))
                simp only [Act.put, List.setIfInBounds_toArray, List.set_cons_zero, List.set_cons_succ]
                refine wpG_take 10 93 (v := ?vb10) rfl rfl (by kernel_rfl) (by kernel_rfl) (by kernel_rfl) (fun _ _ _ h => h) (Or.inl ⟨by rfl, ?yb10⟩) ?rb10
                case yb10 => (intro W hW; have hD := HS.out.go hW; have ka0 := hD.a0; have ka1 := hD.a1; have ka2 := hD.a2; (go_simp; try with_reducible rfl))
                simp only [Act.put, List.setIfInBounds_toArray, List.set_cons_zero, List.set_cons_succ]
                refine wpG_take 12 95 (v := ?vb12) rfl rfl (by kernel_rfl) (by kernel_rfl) (by kernel_rfl) (fun _ _ _ h => h) (Or.inl ⟨by rfl, ?yb12⟩) ?rb12
                case yb12 => (intro W hW; have hD := HS.out.go hW; have kb0 := hD.b0; have kb1 := hD.b1; have kb2 := hD.b2; (go_simp; try with_reducible rfl))
                simp only [Act.put, List.setIfInBounds_toArray, List.set_cons_zero, List.set_cons_succ]
                refine wpG_call 11 (by kernel_rfl) rfl (fun K hK => ?_)
                go_simp
                refine (HW1.out _).mono ?_
                rintro e1 v2 ⟨rfl, hb⟩
                replace HS := Lib.hid (HS.out.go hb)
                refine hK.out _ _ ?_ ?_
                · exact hb
                clear hK K
                refine wpG_call 13 (by kernel_rfl) rfl (fun K hK => ?_)
                go_simp
                refine (HW2.out _).mono ?_
                rintro e1 v3 ⟨rfl, hb⟩
                replace HS := Lib.hid (HS.out.go hb)
                refine hK.out _ _ ?_ ?_
                · exact hb
                clear hK K
                refine wpG_take 14 97 (v := ?vb14) rfl rfl (by kernel_rfl) (by kernel_rfl) (by kernel_rfl) (fun _ _ _ h => h) (Or.inl ⟨by rfl, ?yb14⟩) ?rb14
                case yb14 => (intro W hW; (go_simp; try with_reducible rfl))
                simp only [Act.put, List.setIfInBounds_toArray, List.set_cons_zero, List.set_cons_succ]
                refine wpG_take 15 98 (v := ?vb15) rfl rfl (by kernel_rfl) (by kernel_rfl) (by kernel_rfl) (fun _ _ _ h => h) (Or.inl ⟨by rfl, ?yb15⟩) ?rb15
                case yb15 => (intro W hW; (go_simp; try with_reducible rfl))
                simp only [Act.put, List.setIfInBounds_toArray, List.set_cons_zero, List.set_cons_succ]
                refine wpG_take 16 99 (v := ?vb16) rfl rfl (by kernel_rfl) (by kernel_rfl) (by kernel_rfl) (fun _ _ _ h => h) (Or.inl ⟨by rfl, ?yb16⟩) ?rb16
                case yb16 => (intro W hW; (go_simp; try with_reducible rfl))
                simp only [Act.put, List.setIfInBounds_toArray, List.set_cons_zero, List.set_cons_succ]
                refine wpG_take 17 100 (v := ?vb17) rfl rfl (by kernel_rfl) (by kernel_rfl) (by kernel_rfl) (fun _ _ _ h => h) (Or.inl ⟨by rfl, ?yb17⟩) ?rb17
                case yb17 => (intro W hW; (go_simp; try with_reducible rfl))
                simp only [Act.put, List.setIfInBounds_toArray, List.set_cons_zero, List.set_cons_succ]
                refine wpG_take 18 101 (v := ?vb18) rfl rfl (by kernel_rfl) (by kernel_rfl) (by kernel_rfl) (fun _ _ _ h => h) (Or.inl ⟨by rfl, ?yb18⟩) ?rb18
                case yb18 => (intro W hW; have hD := HS.out.go hW; have kc0 := hD.c0; have kc1 := hD.c1; have kc2 := hD.c2; (go_simp; try with_reducible rfl))
                simp only [Act.put, List.setIfInBounds_toArray, List.set_cons_zero, List.set_cons_succ]
                refine wpG_take 19 102 (v := ?vb19) rfl rfl (by kernel_rfl) (by kernel_rfl) (by kernel_rfl) (fun _ _ _ h => h) (Or.inl ⟨by rfl, ?yb19⟩) ?rb19
                case yb19 => (intro W hW; (go_simp; try with_reducible rfl))
                simp only [Act.put, List.setIfInBounds_toArray, List.set_cons_zero, List.set_cons_succ]
                refine wpG_take 20 103 (v := ?vb20) rfl rfl (by kernel_rfl) (by kernel_rfl) (by kernel_rfl) (fun _ _ _ h => h) (Or.inl ⟨by rfl, ?yb20⟩) ?rb20
                case yb20 => (intro W hW; (go_simp; try with_reducible rfl))
                simp only [Act.put, List.setIfInBounds_toArray, List.set_cons_zero, List.set_cons_succ]
                refine wpG_take 21 104 (v := ?vb21) rfl rfl (by kernel_rfl) (by kernel_rfl) (by kernel_rfl) (fun _ _ _ h => h) (Or.inl ⟨by rfl, ?yb21⟩) ?rb21
                case yb21 => (intro W hW; have hD := HS.out.go hW; have kc0 := hD.c0; have kc1 := hD.c1; have kc2 := hD.c2; (go_simp; try with_reducible rfl))
                simp only [Act.put, List.setIfInBounds_toArray, List.set_cons_zero, List.set_cons_succ]
                refine wpG_take 23 106 (v := ?vb23) rfl rfl (by kernel_rfl) (by kernel_rfl) (by kernel_rfl) (fun _ _ _ h => h) (Or.inl ⟨by rfl, ?yb23⟩) ?rb23
                case yb23 => (intro W hW; have hD := HS.out.go hW; have kc0 := hD.c0; have kc1 := hD.c1; have kc2 := hD.c2; (go_simp; try with_reducible rfl))
                simp only [Act.put, List.setIfInBounds_toArray, List.set_cons_zero, List.set_cons_succ]
                refine wpG_call 22 (by kernel_rfl) rfl (fun K hK => ?_)
                go_simp
                refine (HNY.out _).mono ?_
                rintro e1 v4 ⟨rfl, hb⟩
                replace HS := Lib.hid (HS.out.go hb)
                refine hK.out _ _ ?_ ?_
                · exact hb
                clear hK K
                refine wpG_take 24 107 (v := ?vb24) rfl rfl (by kernel_rfl) (by kernel_rfl) (by kernel_rfl) (fun _ _ _ h => h) (Or.inl ⟨by rfl, ?yb24⟩) ?rb24
                case yb24 => (intro W hW; have hq := qe W; (go_simp; try with_reducible rfl))
                simp only [Act.put, List.setIfInBounds_toArray, List.set_cons_zero, List.set_cons_succ]
                refine wpG_take 25 108 (v := ?vb25) rfl rfl (by kernel_rfl) (by kernel_rfl) (by kernel_rfl) (fun _ _ _ h => h) (Or.inl ⟨by rfl, ?yb25⟩) ?rb25
                case yb25 => (intro W hW; (go_simp; try with_reducible rfl))
                simp only [Act.put, List.setIfInBounds_toArray, List.set_cons_zero, List.set_cons_succ]
                refine wpG_take 26 109 (v := ?vb26) rfl rfl (by kernel_rfl) (by kernel_rfl) (by kernel_rfl) (fun _ _ _ h => h) (Or.inl ⟨by rfl, ?yb26⟩) ?rb26
                case yb26 => (intro W hW; (go_simp; try with_reducible rfl))
                simp only [Act.put, List.setIfInBounds_toArray, List.set_cons_zero, List.set_cons_succ]
                refine wpG_take 27 110 (v := ?vb27) rfl rfl (by kernel_rfl) (by kernel_rfl) (by kernel_rfl) (fun _ _ _ h => h) (Or.inl ⟨by rfl, ?yb27⟩) ?rb27
                case yb27 => (intro W hW; (go_simp; try with_reducible rfl))
                simp only [Act.put, List.setIfInBounds_toArray, List.set_cons_zero, List.set_cons_succ]
                refine wpG_call 28 (by kernel_rfl) rfl (fun K hK => ?_)
                go_simp
                refine (HA.out _).mono ?_
                rintro e1 v5 ⟨rfl, hb⟩
                replace HS := Lib.hid (HS.out.go hb)
                refine hK.out _ _ ?_ ?_
                · exact hb
                clear hK K
                refine wpG_take 29 112 (v := ?vb29) rfl rfl (by kernel_rfl) (by kernel_rfl) (by kernel_rfl) (fun _ _ _ h => h) (Or.inl ⟨by rfl, ?yb29⟩) ?rb29
                case yb29 => (intro W hW; (go_simp; try with_reducible rfl))
                simp only [Act.put, List.setIfInBounds_toArray, List.set_cons_zero, List.set_cons_succ]
                refine wpG_take 30 6 (v := ?vb30) rfl rfl (by kernel_rfl) (by kernel_rfl) (by kernel_rfl) (fun _ _ _ h => h) (Or.inl ⟨by rfl, ?yb30⟩) ?rb30
                case yb30 => (intro W hW; (go_simp; try with_reducible rfl))
                simp only [Act.put, List.setIfInBounds_toArray, List.set_cons_zero, List.set_cons_succ]
                refine wpG_done (by kernel_rfl) ?_ _
                go_wp2
                go_ret
                exact ⟨rfl, HS.out.was⟩
end Go.Proofs.YtadbnajodpfpgaaDoor
