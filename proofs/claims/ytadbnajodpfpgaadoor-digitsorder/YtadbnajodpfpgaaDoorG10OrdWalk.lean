/- Printed by gen_g10ord.py. The walk of DigitsOrder. -/
import Derived.Test.YtadbnajodpfpgaaDoorG10Laws
import Derived.Test.YtadbnajodpfpgaaDoorG10BackM
import Derived.Deep.CutRange
import Derived.Test.YtadbnajodpfpgaaDoorAnyV
namespace Go.Proofs.YtadbnajodpfpgaaDoor
set_option maxRecDepth 100000
open Go.ChangeShapes Go.WideShapes Go.ChangeAt Go.RowKit
set_option linter.unusedVariables false
set_option linter.unusedSimpArgs false

/-- the other sign -/
def turnD (x : Dc) : Dc := ⟨!x.n, x.d, x.e⟩
theorem sc_turn (K : Nat) (x : Dc) : sc K (turnD x) = -sc K x := by
  unfold sc turnD
  dsimp only
  cases x.n <;> simp
theorem check_turn (x : Dc) : checkF (turnD x) = checkF x := rfl
theorem checked {x : Dc} (h : checkF x = true) : allD x.d ∧ -1000000000 ≤ x.e ∧ x.e ≤ 1000000000 := by
  unfold checkF allB at h
  simp only [Bool.and_eq_true, decide_eq_true_eq, List.all_eq_true] at h
  exact ⟨fun c hc => h.1 c hc, by omega, by omega⟩
theorem cmp_of {a b : Dc} (ha : checkF a = true) (hb : checkF b = true) : ∃ K : Nat, 1000000000 ≤ K ∧ cmpF a b = sgnZ (sc K a - sc K b) := by
  obtain ⟨h1, h2, _⟩ := checked ha
  obtain ⟨h3, h4, _⟩ := checked hb
  obtain ⟨K, hK⟩ : ∃ K : Nat, 1000000000 ≤ K := ⟨_, Nat.le_refl _⟩
  exact ⟨K, hK, cmp_sc h1 h3 (by omega) (by omega)⟩
theorem cmp_all {a b c : Dc} (ha : checkF a = true) (hb : checkF b = true) (hc : checkF c = true) :
    cmpF b a = -cmpF a b ∧ cmpF (turnD b) (turnD a) = cmpF a b ∧ (cmpF a b ≤ 0 → cmpF b c ≤ 0 → cmpF a c ≤ 0) ∧ (-1 ≤ cmpF a b ∧ cmpF a b ≤ 1) ∧ (-1 ≤ cmpF b c ∧ cmpF b c ≤ 1) ∧ (-1 ≤ cmpF a c ∧ cmpF a c ≤ 1) := by
  obtain ⟨h1, h2, _⟩ := checked ha
  obtain ⟨h3, h4, _⟩ := checked hb
  obtain ⟨h5, h6, _⟩ := checked hc
  obtain ⟨K, hK⟩ : ∃ K : Nat, 1000000000 ≤ K := ⟨_, Nat.le_refl _⟩
  rw [cmp_sc (a := b) (b := a) (K := K) h3 h1 (by omega) (by omega), cmp_sc (a := a) (b := b) (K := K) h1 h3 (by omega) (by omega), cmp_sc (a := b) (b := c) (K := K) h3 h5 (by omega) (by omega), cmp_sc (a := a) (b := c) (K := K) h1 h5 (by omega) (by omega), cmp_sc (a := turnD b) (b := turnD a) (K := K) h3 h1 (by unfold turnD; dsimp only; omega) (by unfold turnD; dsimp only; omega), sc_turn, sc_turn]
  generalize sc K a = x
  generalize sc K b = y
  generalize sc K c = z
  have e1 : y - x = -(x - y) := by omega
  have e2 : -y - -x = x - y := by omega
  rw [e1, e2, sgn_neg]
  refine ⟨rfl, rfl, ?_, ?_, ?_, ?_⟩ <;> unfold sgnZ <;> (repeat' split) <;> omega
def wantI (n m : Int) : Int := if n < m then -1 else if m < n then 1 else 0
theorem cmp_back (n m : Int) : cmpF (backD n) (backD m) = wantI n m := by
  obtain ⟨h1, h2, _, _, h3⟩ := back_facts n
  obtain ⟨h4, h5, _, _, h6⟩ := back_facts m
  rw [cmp_sc (K := 0) h1 h4 (by omega) (by omega), h3, h6]
  unfold sgnZ wantI
  simp only [Int.pow_zero, Int.mul_one]
  (repeat' split) <;> omega

set_option maxHeartbeats 16000000 in
theorem order_walk (HD : DigitsOk) (a b c : Dc) (n m : Int) (w : World) (hn : I64 n) (hm : I64 m) (ha : a.d.length ≤ 9223372036854775807) (hb : b.d.length ≤ 9223372036854775807) (hc : c.d.length ≤ 9223372036854775807) :
    Calls Tryd.prog 7 #[dcV a, dcV b, dcV c, .int .i64 n, .int .i64 m] w fun e w' => e = .returned (.bool true) ∧ Below w.heap.size w w' := by
  have HFA := Lib.hid (fun W => fits_any a W ha)
  have HFB := Lib.hid (fun W => fits_any b W hb)
  have HFC := Lib.hid (fun W => fits_any c W hc)
  have HA := Lib.hid (fun W => awake10 HD W)
  have HALL : Hid (fitsF a = true → fitsF b = true → fitsF c = true → ((∀ W, Calls Tryd.prog 20 #[dcV a, dcV b] W fun e w' => e = .returned (.int .i64 (cmpF a b)) ∧ Below W.heap.size W w') ∧ (∀ W, Calls Tryd.prog 20 #[dcV b, dcV c] W fun e w' => e = .returned (.int .i64 (cmpF b c)) ∧ Below W.heap.size W w') ∧ (∀ W, Calls Tryd.prog 20 #[dcV a, dcV c] W fun e w' => e = .returned (.int .i64 (cmpF a c)) ∧ Below W.heap.size W w')
      ∧ (∀ W, Calls Tryd.prog 20 #[dcV b, dcV a] W fun e w' => e = .returned (.int .i64 (-cmpF a b)) ∧ Below W.heap.size W w') ∧ (∀ W, Calls Tryd.prog 20 #[dcV (turnD b), dcV (turnD a)] W fun e w' => e = .returned (.int .i64 (cmpF a b)) ∧ Below W.heap.size W w')
      ∧ (cmpF a b ≤ 0 → cmpF b c ≤ 0 → cmpF a c ≤ 0) ∧ (-1 ≤ cmpF a b ∧ cmpF a b ≤ 1) ∧ (-1 ≤ cmpF b c ∧ cmpF b c ≤ 1) ∧ (-1 ≤ cmpF a c ∧ cmpF a c ≤ 1))) := Lib.hid fun fa fb fc => by
    obtain ⟨ca, la⟩ := fits_is fa
    obtain ⟨cb, lb⟩ := fits_is fb
    obtain ⟨cc, lc⟩ := fits_is fc
    obtain ⟨h1, h2, h3, h4, h5, h6⟩ := cmp_all ca cb cc
    refine ⟨fun W => HD.cmp a b W (by omega) (by omega) ca cb, fun W => HD.cmp b c W (by omega) (by omega) cb cc, fun W => HD.cmp a c W (by omega) (by omega) ca cc, fun W => ?_, fun W => ?_, h3, h4, h5, h6⟩
    · rw [← h1]; exact HD.cmp b a W (by omega) (by omega) cb ca
    · rw [← h2]; exact HD.cmp (turnD b) (turnD a) W (by unfold turnD; dsimp only; omega) (by unfold turnD; dsimp only; omega) cb ca
  have HP1 := Lib.hid (fun W => rprint_any n hn.1 hn.2 W)
  have HP2 := Lib.hid (fun W => rprint_any m hm.1 hm.2 W)
  have HR1 : Hid (∀ W, Calls Tryd.prog 12 #[.string (bs (printF n))] W fun e w' => e = .returned (.tuple #[dcV (backD n), .bool true]) ∧ Below W.heap.size W w') := Lib.hid fun W => by
    have h := rread_any (bs (printF n)) W (by have := print_len hn.1 hn.2; omega)
    rw [L8_bs, read_print] at h
    exact h
  have HR2 : Hid (∀ W, Calls Tryd.prog 12 #[.string (bs (printF m))] W fun e w' => e = .returned (.tuple #[dcV (backD m), .bool true]) ∧ Below W.heap.size W w') := Lib.hid fun W => by
    have h := rread_any (bs (printF m)) W (by have := print_len hm.1 hm.2; omega)
    rw [L8_bs, read_print] at h
    exact h
  have HCB : Hid (∀ W, Calls Tryd.prog 20 #[dcV (backD n), dcV (backD m)] W fun e w' => e = .returned (.int .i64 (wantI n m)) ∧ Below W.heap.size W w') := Lib.hid fun W => by
    obtain ⟨c1, l1⟩ := check_back hn
    obtain ⟨c2, l2⟩ := check_back hm
    rw [← cmp_back]
    exact HD.cmp _ _ W l1 l2 c1 c2
  have HW : Hid (wantI n m = _) := Lib.hid (wantI.eq_1 n m)
  clear HD hn hm ha hb hc
  generalize bs (printF n) = sn at *
  generalize bs (printF m) = sm at *
  generalize backD n = xd at *
  generalize backD m = yd at *
  generalize wantI n m = wi at *
  generalize cmpF a b = pp at *
  generalize cmpF b c = qq at *
  generalize cmpF a c = rr at *
  generalize fitsF a = fa at *
  generalize fitsF b = fb at *
  generalize fitsF c = fc at *
  obtain ⟨na, da, ea⟩ := a
  obtain ⟨nb, db, eb⟩ := b
  obtain ⟨nc, dc, ec⟩ := c
  obtain ⟨nx, dx, ex⟩ := xd
  obtain ⟨ny, dy, ey⟩ := yd
  unfold turnD at HALL
  unfold dcV at *
  dsimp only at *
  generalize bs da = sa at *
  generalize bs db = sb at *
  generalize bs dc = sc at *
  generalize bs dx = sx at *
  generalize bs dy = sy at *
  go_enter Tryd.func7, Tryd.ntmps7
  go_upto_region 1 with fail
  have HS0 : Hid (St3 w w.heap.size (w.heap.size + 1) (w.heap.size + 2) na sa ea nb sb eb nc sc ec (((w.alloc (.cells #[.bool na, .string sa, .int .i64 ea] 23)).alloc (.cells #[.bool nb, .string sb, .int .i64 eb] 23)).alloc (.cells #[.bool nc, .string sc, .int .i64 ec] 23))) := Lib.hid ⟨((Blk.new w 23 _).alloc _).alloc _, by have h := Blk.new (w.alloc (.cells #[.bool na, .string sa, .int .i64 ea] 23)) 23 #[.bool nb, .string sb, .int .i64 eb]; rw [World.size_alloc] at h; exact h.alloc _, by have h := Blk.new ((w.alloc (.cells #[.bool na, .string sa, .int .i64 ea] 23)).alloc (.cells #[.bool nb, .string sb, .int .i64 eb] 23)) 23 #[.bool nc, .string sc, .int .i64 ec]; rwa [World.size_alloc, World.size_alloc] at h, (((Below.refl _ _).alloc (Nat.le_refl _) _).alloc (by rw [World.size_alloc]; omega) _).alloc (by rw [World.size_alloc, World.size_alloc]; omega) _⟩
  generalize ((w.alloc (.cells #[.bool na, .string sa, .int .i64 ea] 23)).alloc (.cells #[.bool nb, .string sb, .int .i64 eb] 23)).alloc (.cells #[.bool nc, .string sc, .int .i64 ec] 23) = w0 at *
  have ka0 := HS0.out.a0
  have ka1 := HS0.out.a1
  have ka2 := HS0.out.a2
  go_wp2_with fail
  with_reducible refine (HFA.out _).mono ?_
  rintro e1 w1 ⟨rfl, hb⟩
  have HS_1 := Lib.hid (HS0.out.go hb)
  clear hb HS0
  clear ka0 ka1 ka2
  cases fa with
  | false =>
    go_wp2_with fail
    with_reducible refine (HA.out _).mono ?_
    rintro e1 w2 ⟨rfl, hb⟩
    have HB9 := Lib.hid (HS_1.out.was.trans (hb.mono HS_1.out.was.size))
    go_wp2
    go_ret
    exact ⟨rfl, HB9.out⟩
  | true =>
    have kb0 := HS_1.out.b0
    have kb1 := HS_1.out.b1
    have kb2 := HS_1.out.b2
    go_wp2_with fail
    with_reducible refine (HFB.out _).mono ?_
    rintro e1 w2 ⟨rfl, hb⟩
    have HS_2 := Lib.hid (HS_1.out.go hb)
    clear hb HS_1
    clear kb0 kb1 kb2
    cases fb with
    | false =>
      go_wp2_with fail
      with_reducible refine (HA.out _).mono ?_
      rintro e1 w3 ⟨rfl, hb⟩
      have HB9 := Lib.hid (HS_2.out.was.trans (hb.mono HS_2.out.was.size))
      go_wp2
      go_ret
      exact ⟨rfl, HB9.out⟩
    | true =>
      have kc0 := HS_2.out.c0
      have kc1 := HS_2.out.c1
      have kc2 := HS_2.out.c2
      go_wp2_with fail
      with_reducible refine (HFC.out _).mono ?_
      rintro e1 w3 ⟨rfl, hb⟩
      have HS_3 := Lib.hid (HS_2.out.go hb)
      clear hb HS_2
      clear kc0 kc1 kc2
      cases fc with
      | false =>
        go_wp2_with fail
        with_reducible refine (HA.out _).mono ?_
        rintro e1 w4 ⟨rfl, hb⟩
        have HB9 := Lib.hid (HS_3.out.was.trans (hb.mono HS_3.out.was.size))
        go_wp2
        go_ret
        exact ⟨rfl, HB9.out⟩
      | true =>
        obtain ⟨hC1, hC2, hC3, hC4, hC5, hord, ⟨hp1, hp2⟩, ⟨hq1, hq2⟩, hr1, hr2⟩ := HALL.out (by first | rfl | trivial) (by first | rfl | trivial) (by first | rfl | trivial)
        have HC1 := Lib.hid hC1
        have HC2 := Lib.hid hC2
        have HC3 := Lib.hid hC3
        have HC4 := Lib.hid hC4
        have HC5 := Lib.hid hC5
        have HORD := Lib.hid hord
        clear hC1 hC2 hC3 hC4 hC5 hord HALL HFA HFB HFC
        go_wp2_with fail
        refine wp_region_G (by kernel_rfl) ?_
        have hg1 := Grow.drew w3
        have HS := Lib.hid (HS_3.out.go hg1)
        generalize w3.drew = w4 at *
        clear hg1 HS_3
        refine wpG_take 0 33 (v := ?v0) rfl rfl (by kernel_rfl) (by kernel_rfl) (by kernel_rfl) (fun _ _ _ h => h) (Or.inl ⟨by rfl, ?y0⟩) ?r0
        case y0 => (intro W hW; have hD := HS.out.go hW; have ka0 := hD.a0; have ka1 := hD.a1; have ka2 := hD.a2; (go_simp; try with_reducible rfl))
        simp only [Act.put, List.setIfInBounds_toArray, List.set_cons_zero, List.set_cons_succ]
        refine wpG_take 1 34 (v := ?v1) rfl rfl (by kernel_rfl) (by kernel_rfl) (by kernel_rfl) (fun _ _ _ h => h) (Or.inl ⟨by rfl, ?y1⟩) ?r1
        case y1 => (intro W hW; have hD := HS.out.go hW; have kb0 := hD.b0; have kb1 := hD.b1; have kb2 := hD.b2; (go_simp; try with_reducible rfl))
        simp only [Act.put, List.setIfInBounds_toArray, List.set_cons_zero, List.set_cons_succ]
        refine wpG_take 3 36 (v := ?v3) rfl rfl (by kernel_rfl) (by kernel_rfl) (by kernel_rfl) (fun _ _ _ h => h) (Or.inl ⟨by rfl, ?y3⟩) ?r3
        case y3 => (intro W hW; have hD := HS.out.go hW; have kb0 := hD.b0; have kb1 := hD.b1; have kb2 := hD.b2; (go_simp; try with_reducible rfl))
        simp only [Act.put, List.setIfInBounds_toArray, List.set_cons_zero, List.set_cons_succ]
        refine wpG_take 4 37 (v := ?v4) rfl rfl (by kernel_rfl) (by kernel_rfl) (by kernel_rfl) (fun _ _ _ h => h) (Or.inl ⟨by rfl, ?y4⟩) ?r4
        case y4 => (intro W hW; have hD := HS.out.go hW; have kc0 := hD.c0; have kc1 := hD.c1; have kc2 := hD.c2; (go_simp; try with_reducible rfl))
        simp only [Act.put, List.setIfInBounds_toArray, List.set_cons_zero, List.set_cons_succ]
        refine wpG_take 6 39 (v := ?v6) rfl rfl (by kernel_rfl) (by kernel_rfl) (by kernel_rfl) (fun _ _ _ h => h) (Or.inl ⟨by rfl, ?y6⟩) ?r6
        case y6 => (intro W hW; have hD := HS.out.go hW; have ka0 := hD.a0; have ka1 := hD.a1; have ka2 := hD.a2; (go_simp; try with_reducible rfl))
        simp only [Act.put, List.setIfInBounds_toArray, List.set_cons_zero, List.set_cons_succ]
        refine wpG_take 7 40 (v := ?v7) rfl rfl (by kernel_rfl) (by kernel_rfl) (by kernel_rfl) (fun _ _ _ h => h) (Or.inl ⟨by rfl, ?y7⟩) ?r7
        case y7 => (intro W hW; have hD := HS.out.go hW; have kc0 := hD.c0; have kc1 := hD.c1; have kc2 := hD.c2; (go_simp; try with_reducible rfl))
        simp only [Act.put, List.setIfInBounds_toArray, List.set_cons_zero, List.set_cons_succ]
        refine wpG_call 2 (by kernel_rfl) rfl (fun K hK => ?_)
        go_simp
        refine (HC1.out _).mono ?_
        rintro e1 u1 ⟨rfl, hb⟩
        replace HS := Lib.hid (HS.out.go hb)
        refine hK.out _ _ ?_ ?_
        · exact hb
        clear hK K
        refine wpG_call 5 (by kernel_rfl) rfl (fun K hK => ?_)
        go_simp
        refine (HC2.out _).mono ?_
        rintro e1 u2 ⟨rfl, hb⟩
        replace HS := Lib.hid (HS.out.go hb)
        refine hK.out _ _ ?_ ?_
        · exact hb
        clear hK K
        refine wpG_call 8 (by kernel_rfl) rfl (fun K hK => ?_)
        go_simp
        refine (HC3.out _).mono ?_
        rintro e1 u3 ⟨rfl, hb⟩
        replace HS := Lib.hid (HS.out.go hb)
        refine hK.out _ _ ?_ ?_
        · exact hb
        clear hK K
        refine wpG_take 9 11 (v := ?v9) rfl rfl (by kernel_rfl) (by kernel_rfl) (by kernel_rfl) (fun _ _ _ h => h) (Or.inl ⟨by rfl, ?y9⟩) ?r9
        case y9 => (intro W hW; (go_simp; try with_reducible rfl))
        simp only [Act.put, List.setIfInBounds_toArray, List.set_cons_zero, List.set_cons_succ]
        refine wpG_take 10 12 (v := ?v10) rfl rfl (by kernel_rfl) (by kernel_rfl) (by kernel_rfl) (fun _ _ _ h => h) (Or.inl ⟨by rfl, ?y10⟩) ?r10
        case y10 => (intro W hW; (go_simp; try with_reducible rfl))
        simp only [Act.put, List.setIfInBounds_toArray, List.set_cons_zero, List.set_cons_succ]
        refine wpG_take 11 13 (v := ?v11) rfl rfl (by kernel_rfl) (by kernel_rfl) (by kernel_rfl) (fun _ _ _ h => h) (Or.inl ⟨by rfl, ?y11⟩) ?r11
        case y11 => (intro W hW; (go_simp; try with_reducible rfl))
        simp only [Act.put, List.setIfInBounds_toArray, List.set_cons_zero, List.set_cons_succ]
        refine wpG_done (by kernel_rfl) ?_ _

        have hpp : (pp != pp) = false := by simp
        have hpw : IntKind.i64.wrap pp = pp := IntWalk.i64_in _ (by omega)
        clear HC1 HC2 HC3
        go_upto_region 4 with fail
        go_cut [59] from 42 to 59 (fun v W => v = .bool false ∧ St3 w w.heap.size (w.heap.size + 1) (w.heap.size + 2) na sa ea nb sb eb nc sc ec W)
        case first =>
          have ka0 := HS.out.a0
          have ka1 := HS.out.a1
          have ka2 := HS.out.a2
          have kb0 := HS.out.b0
          have kb1 := HS.out.b1
          have kb2 := HS.out.b2
          by_cases h1 : pp ≤ 0
          · have h1' : decide (pp ≤ 0) = true := decide_eq_true h1
            by_cases h2 : qq ≤ 0
            · have h2' : decide (qq ≤ 0) = true := decide_eq_true h2
              have h3 := HORD.out h1 h2
              have h3' : decide (0 < rr) = false := decide_eq_false (by omega)
              go_wp2_with fail
              with_reducible refine (HC4.out _).mono ?_
              rintro e1 u4 ⟨rfl, hb⟩
              replace HS := Lib.hid (HS.out.go hb)
              clear hb
              go_wp2_with fail
              go_meet
              case rel => exact ⟨rfl, HS.out⟩
            · have h2' : decide (qq ≤ 0) = false := decide_eq_false h2
              go_wp2_with fail
              with_reducible refine (HC4.out _).mono ?_
              rintro e1 u4 ⟨rfl, hb⟩
              replace HS := Lib.hid (HS.out.go hb)
              clear hb
              go_wp2_with fail
              go_meet
              case rel => exact ⟨rfl, HS.out⟩
          · have h1' : decide (pp ≤ 0) = false := decide_eq_false h1
            go_wp2_with fail
            with_reducible refine (HC4.out _).mono ?_
            rintro e1 u4 ⟨rfl, hb⟩
            replace HS := Lib.hid (HS.out.go hb)
            clear hb
            go_wp2_with fail
            go_meet
            case rel => exact ⟨rfl, HS.out⟩
        case rest =>
        obtain ⟨rfl, hs⟩ := hcut
        have HS5 := Lib.hid hs
        clear hs HS HC4 HORD hpw
        go_wp2_with fail
        with_reducible refine (HP1.out _).mono ?_
        rintro e1 w6 ⟨rfl, hst⟩
        have HS6 := Lib.hid (HS5.out.go (hst.lower _))
        clear hst HS5
        go_wp2_with fail
        with_reducible refine (HR1.out _).mono ?_
        rintro e1 w7 ⟨rfl, hb⟩
        have HS7 := Lib.hid (HS6.out.go hb)
        clear hb HS6
        have HX8 : Hid (DcBlk (w7.alloc (.cells #[.bool nx, .string sx, .int .i64 ex] 23)) w7.heap.size nx sx ex) := Lib.hid (Blk.new w7 23 _)
        have HS8 := Lib.hid (HS7.out.go ((Below.refl w7.heap.size w7).alloc (Nat.le_refl _) (.cells #[.bool nx, .string sx, .int .i64 ex] 23)))
        have hgx : w.heap.size + 1 < w7.heap.size := HS7.out.b.lt
        clear HS7
        go_wp2_with fail
        generalize w7.alloc (.cells #[.bool nx, .string sx, .int .i64 ex] 23) = w8 at *
        generalize w7.heap.size = gx at *
        with_reducible refine (HP2.out _).mono ?_
        rintro e1 w9 ⟨rfl, hst⟩
        have HS9 := Lib.hid (HS8.out.go (hst.lower _))
        have HX9 := Lib.hid (HX8.out.below (hst.lower w8.heap.size) HX8.out.lt)
        clear hst HS8 HX8
        go_wp2_with fail
        with_reducible refine (HR2.out _).mono ?_
        rintro e1 w10 ⟨rfl, hb⟩
        have HS10 := Lib.hid (HS9.out.go hb)
        have HX10 := Lib.hid (HX9.out.below hb HX9.out.lt)
        clear hb HS9 HX9
        have HT11 : Hid (St4 w w.heap.size (w.heap.size + 1) gx w10.heap.size na sa ea nb sb eb nx sx ex ny sy ey (w10.alloc (.cells #[.bool ny, .string sy, .int .i64 ey] 23))) := Lib.hid (by
          have hb := (Below.refl w10.heap.size w10).alloc (Nat.le_refl _) (.cells #[.bool ny, .string sy, .int .i64 ey] 23)
          have h := HS10.out.go hb
          exact ⟨h.a, h.b, HX10.out.below hb HX10.out.lt, Blk.new w10 23 _, h.was⟩)
        have hgy : gx < w10.heap.size := HX10.out.lt
        clear HS10 HX10
        go_upto_region 8 with fail
        generalize w10.alloc (.cells #[.bool ny, .string sy, .int .i64 ey] 23) = w11 at *
        generalize w10.heap.size = gy at *
        refine wp_region_V (fun V => DcBlk V (w.heap.size + 1) nb sb eb) [9] (by kernel_rfl) ?_
        have hg1 := Grow.drew w11
        have HT := Lib.hid (HT11.out.go hg1)
        generalize w11.drew = w12 at *
        clear hg1 HT11
        refine wpV_take 0 72 [9] (v := ?vb0) rfl rfl (by kernel_rfl) (by kernel_rfl) (by kernel_rfl) (by kernel_rfl) (fun _ _ _ h => h) HT.out.b (Or.inl ⟨by rfl, ?yb0⟩) ?rb0
        case yb0 => (intro W hW; (go_simp; try with_reducible rfl))
        try simp only [Act.put, List.getElem_toArray, List.getElem_cons_succ, List.getElem_cons_zero, List.setIfInBounds_toArray, List.set_cons_zero, List.set_cons_succ]
        refine wpV_take 3 75 [9] (v := ?vb3) rfl rfl (by kernel_rfl) (by kernel_rfl) (by kernel_rfl) (by kernel_rfl) (fun _ _ _ h => h) HT.out.b (Or.inl ⟨by rfl, ?yb3⟩) ?rb3
        case yb3 => (intro W hW; (go_simp; try with_reducible rfl))
        try simp only [Act.put, List.getElem_toArray, List.getElem_cons_succ, List.getElem_cons_zero, List.setIfInBounds_toArray, List.set_cons_zero, List.set_cons_succ]
        refine wpV_take 4 76 [9] (v := ?vb4) rfl rfl (by kernel_rfl) (by kernel_rfl) (by kernel_rfl) (by kernel_rfl) (fun _ _ _ h => h) HT.out.b (Or.inl ⟨by rfl, ?yb4⟩) ?rb4
        case yb4 => (intro W hW; have kb0 : W.cell? ⟨w.heap.size + 1, 0, none⟩ = some (.bool nb) := hW.cell 0; (go_simp; try with_reducible rfl))
        try simp only [Act.put, List.getElem_toArray, List.getElem_cons_succ, List.getElem_cons_zero, List.setIfInBounds_toArray, List.set_cons_zero, List.set_cons_succ]
        refine wpV_take 5 77 [9] (v := ?vb5) rfl rfl (by kernel_rfl) (by kernel_rfl) (by kernel_rfl) (by kernel_rfl) (fun _ _ _ h => h) HT.out.b (Or.inl ⟨by rfl, ?yb5⟩) ?rb5
        case yb5 => (intro W hW; (go_simp; try with_reducible rfl))
        try simp only [Act.put, List.getElem_toArray, List.getElem_cons_succ, List.getElem_cons_zero, List.setIfInBounds_toArray, List.set_cons_zero, List.set_cons_succ]
        have ka0 := HT.out.a0
        have fa0 : w12.frozen? ⟨w.heap.size, 0, none⟩ = false := HT.out.a.frozen 0
        have fb0 : w12.frozen? ⟨w.heap.size + 1, 0, none⟩ = false := HT.out.b.frozen 0
        have kb0 := HT.out.b0
        have hlt : w.heap.size + 1 < w12.heap.size := HT.out.b.lt
        have hne : w.heap.size + 1 ≠ w.heap.size := by omega
        refine wpV_one 1 (by kernel_rfl) rfl (fun K hK => ?_)
        go_simp
        refine hK.out _ _ (.inr HT.out.b) ?_
        clear hK K
        try simp only [Act.put, List.getElem_toArray, List.getElem_cons_succ, List.getElem_cons_zero, List.setIfInBounds_toArray, List.set_cons_zero, List.set_cons_succ]
        refine wpV_take 2 74 [9] (v := ?vb2) rfl rfl (by kernel_rfl) (by kernel_rfl) (by kernel_rfl) (by kernel_rfl) (fun _ _ _ h => h) HT.out.b (Or.inl ⟨by rfl, ?yb2⟩) ?rb2
        case yb2 => (intro W hW; (go_simp; try with_reducible rfl))
        try simp only [Act.put, List.getElem_toArray, List.getElem_cons_succ, List.getElem_cons_zero, List.setIfInBounds_toArray, List.set_cons_zero, List.set_cons_succ]
        refine wpV_take 6 78 [9] (v := ?vb6) rfl rfl (by kernel_rfl) (by kernel_rfl) (by kernel_rfl) (by kernel_rfl) (fun _ _ _ h => h) HT.out.b (Or.inl ⟨by rfl, ?yb6⟩) ?rb6
        case yb6 => (intro W hW; (go_simp; try with_reducible rfl))
        try simp only [Act.put, List.getElem_toArray, List.getElem_cons_succ, List.getElem_cons_zero, List.setIfInBounds_toArray, List.set_cons_zero, List.set_cons_succ]
        refine wpV_one 7 (by kernel_rfl) rfl (fun K hK => ?_)
        go_simp
        refine hK.out _ _ (.inr (HT.out.b.far hne _)) ?_
        clear hK K
        try simp only [Act.put, List.getElem_toArray, List.getElem_cons_succ, List.getElem_cons_zero, List.setIfInBounds_toArray, List.set_cons_zero, List.set_cons_succ]
        refine wpV_one 8 (by kernel_rfl) rfl (fun K hK => ?_)
        go_simp
        refine hK.out _ _ (.inr (HT.out.b.far hne _)) ?_
        clear hK K
        try simp only [Act.put, List.getElem_toArray, List.getElem_cons_succ, List.getElem_cons_zero, List.setIfInBounds_toArray, List.set_cons_zero, List.set_cons_succ]
        refine wpV_one 9 (by kernel_rfl) rfl (fun K hK => ?_)
        go_simp
        refine hK.out _ _ (.inl rfl) ?_
        clear hK K
        try simp only [Act.put, List.getElem_toArray, List.getElem_cons_succ, List.getElem_cons_zero, List.setIfInBounds_toArray, List.set_cons_zero, List.set_cons_succ]
        refine wpV_done (by kernel_rfl) ?_ _
        have HT13 : Hid (St4 w w.heap.size (w.heap.size + 1) gx gy (!na) sa ea (!nb) sb eb nx sx ex ny sy ey ((w12.setCell ⟨w.heap.size, 0, none⟩ (.bool (!na))).setCell ⟨w.heap.size + 1, 0, none⟩ (.bool (!nb)))) := Lib.hid ⟨(HT.out.a.set' 0 _ rfl).far hne.symm _, (HT.out.b.far hne _).set' 0 _ rfl, (HT.out.c.far (by simp; omega) _).far (by simp; omega) _, (HT.out.d.far (by simp; omega) _).far (by simp; omega) _, (HT.out.was.setCell (by simp) _).setCell (by simp) _⟩
        clear ka0 fa0 fb0 kb0 hlt hne HT hgx hgy
        generalize (w12.setCell ⟨w.heap.size, 0, none⟩ (.bool (!na))).setCell ⟨w.heap.size + 1, 0, none⟩ (.bool (!nb)) = w13 at *
        generalize (!na) = na2 at *
        generalize (!nb) = nb2 at *
        have hpe : (pp == pp) = true := by simp
        have kc0 := HT13.out.c0
        have kc1 := HT13.out.c1
        have kc2 := HT13.out.c2
        have kd0 := HT13.out.d0
        have kd1 := HT13.out.d1
        have kd2 := HT13.out.d2
        by_cases hlt : n < m
        · have hlt' : decide (n < m) = true := decide_eq_true hlt
          have hgt' : decide (m < n) = false := decide_eq_false (by omega)
          have hw : wi = -1 := by rw [HW.out, if_pos hlt]
          subst hw
          clear HW
          go_wp2_with fail
          with_reducible refine (HCB.out _).mono ?_
          rintro e1 w14 ⟨rfl, hb⟩
          have HT14 := Lib.hid (HT13.out.go hb)
          clear hb HT13
          clear kc0 kc1 kc2 kd0 kd1 kd2
          have ka0 := HT14.out.a0
          have ka1 := HT14.out.a1
          have ka2 := HT14.out.a2
          have kb0 := HT14.out.b0
          have kb1 := HT14.out.b1
          have kb2 := HT14.out.b2
          go_wp2_with fail
          with_reducible refine (HC5.out _).mono ?_
          rintro e1 w15 ⟨rfl, hb⟩
          have HT15 := Lib.hid (HT14.out.go hb)
          clear hb HT14
          clear ka0 ka1 ka2 kb0 kb1 kb2
          go_wp2_with fail
          with_reducible refine (HA.out _).mono ?_
          rintro e1 w16 ⟨rfl, hb⟩
          have HB9 := Lib.hid (HT15.out.was.trans (hb.mono HT15.out.was.size))
          go_wp2
          go_ret
          exact ⟨rfl, HB9.out⟩
        · by_cases hgt : m < n
          · have hlt' : decide (n < m) = false := decide_eq_false hlt
            have hgt' : decide (m < n) = true := decide_eq_true hgt
            have hw : wi = 1 := by rw [HW.out, if_neg hlt, if_pos hgt]
            subst hw
            clear HW
            go_wp2_with fail
            with_reducible refine (HCB.out _).mono ?_
            rintro e1 w14 ⟨rfl, hb⟩
            have HT14 := Lib.hid (HT13.out.go hb)
            clear hb HT13
            clear kc0 kc1 kc2 kd0 kd1 kd2
            have ka0 := HT14.out.a0
            have ka1 := HT14.out.a1
            have ka2 := HT14.out.a2
            have kb0 := HT14.out.b0
            have kb1 := HT14.out.b1
            have kb2 := HT14.out.b2
            go_wp2_with fail
            with_reducible refine (HC5.out _).mono ?_
            rintro e1 w15 ⟨rfl, hb⟩
            have HT15 := Lib.hid (HT14.out.go hb)
            clear hb HT14
            clear ka0 ka1 ka2 kb0 kb1 kb2
            go_wp2_with fail
            with_reducible refine (HA.out _).mono ?_
            rintro e1 w16 ⟨rfl, hb⟩
            have HB9 := Lib.hid (HT15.out.was.trans (hb.mono HT15.out.was.size))
            go_wp2
            go_ret
            exact ⟨rfl, HB9.out⟩
          · have hlt' : decide (n < m) = false := decide_eq_false hlt
            have hgt' : decide (m < n) = false := decide_eq_false hgt
            have hw : wi = 0 := by rw [HW.out, if_neg hlt, if_neg hgt]
            subst hw
            clear HW
            go_wp2_with fail
            with_reducible refine (HCB.out _).mono ?_
            rintro e1 w14 ⟨rfl, hb⟩
            have HT14 := Lib.hid (HT13.out.go hb)
            clear hb HT13
            clear kc0 kc1 kc2 kd0 kd1 kd2
            have ka0 := HT14.out.a0
            have ka1 := HT14.out.a1
            have ka2 := HT14.out.a2
            have kb0 := HT14.out.b0
            have kb1 := HT14.out.b1
            have kb2 := HT14.out.b2
            go_wp2_with fail
            with_reducible refine (HC5.out _).mono ?_
            rintro e1 w15 ⟨rfl, hb⟩
            have HT15 := Lib.hid (HT14.out.go hb)
            clear hb HT14
            clear ka0 ka1 ka2 kb0 kb1 kb2
            go_wp2_with fail
            with_reducible refine (HA.out _).mono ?_
            rintro e1 w16 ⟨rfl, hb⟩
            have HB9 := Lib.hid (HT15.out.was.trans (hb.mono HT15.out.was.size))
            go_wp2
            go_ret
            exact ⟨rfl, HB9.out⟩
end Go.Proofs.YtadbnajodpfpgaaDoor
