/- Printed by gen_g10all.py. The walk of DigitsAll. -/
import Derived.Test.YtadbnajodpfpgaaDoorG10Laws
import Derived.Test.YtadbnajodpfpgaaDoorG10Cmp
import Derived.Deep.CutRange
namespace Go.Proofs.YtadbnajodpfpgaaDoor
set_option maxRecDepth 100000
open Go.ChangeShapes Go.WideShapes Go.ChangeAt Go.RowKit
set_option linter.unusedVariables false
set_option linter.unusedSimpArgs false

theorem readV_is (r : Option Dc) : ∃ (x : Dc) (ok : Bool), readV r = .tuple #[dcV x, .bool ok] := by
  cases r with
  | none => exact ⟨zeroD, false, rfl⟩
  | some x => exact ⟨x, true, rfl⟩
theorem checked10 {x : Dc} (h : checkF x = true) : allD x.d ∧ -1000000000 ≤ x.e ∧ x.e ≤ 1000000000 := by
  unfold checkF allB at h
  simp only [Bool.and_eq_true, decide_eq_true_eq, List.all_eq_true] at h
  exact ⟨fun c hc => h.1 c hc, by omega, by omega⟩
/-- both, the program's and the document's -/
structure BothOk (a b : Dc) : Prop where
  norm : ∀ W, Calls Tryd.prog 18 #[dcV a] W fun e w' => e = .returned (dcV (normF a)) ∧ Below W.heap.size W w'
  rnorm : ∀ W, Calls Tryd.prog 19 #[dcV a] W fun e w' => e = .returned (dcV (normF a)) ∧ Below W.heap.size W w'
  cmp : ∀ W, Calls Tryd.prog 20 #[dcV a, dcV b] W fun e w' => e = .returned (.int .i64 (cmpF a b)) ∧ Below W.heap.size W w'
  rcmp : ∀ W, Calls Tryd.prog 21 #[dcV a, dcV b] W fun e w' => e = .returned (.int .i64 (cmpF a b)) ∧ Below W.heap.size W w'
  whole : ∀ W, Calls Tryd.prog 22 #[dcV a] W fun e w' => e = .returned (.bool (wholeF a)) ∧ Below W.heap.size W w'
  rwhole : ∀ W, Calls Tryd.prog 23 #[dcV a] W fun e w' => e = .returned (.bool (wholeF a)) ∧ Below W.heap.size W w'
  int : ∀ W, Calls Tryd.prog 16 #[dcV a] W fun e w' => e = .returned (.tuple #[.int .i64 (intF a).1, .int .i64 (intF a).2]) ∧ Below W.heap.size W w'
  rint : ∀ W, Calls Tryd.prog 17 #[dcV a] W fun e w' => e = .returned (.tuple #[.int .i64 (intF a).1, .int .i64 (intF a).2]) ∧ Below W.heap.size W w'
theorem both_ok (HD : DigitsOk) {a b : Dc} (fa : fitsF a = true) (fb : fitsF b = true) : BothOk a b := by
  obtain ⟨ca, la⟩ := fits_is fa
  obtain ⟨cb, lb⟩ := fits_is fb
  obtain ⟨da, a0, a1⟩ := checked10 ca
  obtain ⟨db, b0, b1⟩ := checked10 cb
  exact ⟨fun W => HD.norm a W (by omega) ca, fun W => rnorm_any a W (by omega) (by omega) (by omega), fun W => HD.cmp a b W (by omega) (by omega) ca cb, fun W => rcmp_any a b W (by omega) (by omega) (by omega) (by omega) (by omega) (by omega), fun W => HD.whole a W (by omega) ca, fun W => rwhole_any a W (by omega) (by omega) (by omega), fun W => HD.int a W (by omega) ca, fun W => rint_any a W da (by omega) (by omega) (by omega)⟩

set_option maxHeartbeats 32000000 in
theorem all10_walk (HD : DigitsOk) (s : ByteArray) (a b : Dc) (n : Int) (w : World) (hs : s.size ≤ 9223372036854775807) (ha : a.d.length ≤ 9223372036854775807) (hb : b.d.length ≤ 9223372036854775807) (hae : I64 a.e) (hn : I64 n) :
    Calls Tryd.prog 3 #[.string s, dcV a, dcV b, .int .i64 n] w fun e w' => e = .returned (.bool true) ∧ Below w.heap.size w w' := by
  have HA := Lib.hid (fun W => awake10 HD W)
  have HFA := Lib.hid (fun W => fits_any a W ha)
  have HFB := Lib.hid (fun W => fits_any b W hb)
  have HBO := Lib.hid (fun (h : fitsF a = true) (h2 : fitsF b = true) => both_ok HD h h2)
  have HCK := Lib.hid (fun (h : a.d.length ≤ 400) W => HD.check a W (by omega) hae)
  have HRC := Lib.hid (fun (h : a.d.length ≤ 400) W => rcheck_any a W ha)
  have HRD := Lib.hid (fun (h : s.size ≤ 400) W => HD.read s W (by omega))
  have HRR := Lib.hid (fun (h : s.size ≤ 400) W => rread_any s W (by omega))
  have HP := Lib.hid (fun W => HD.print n W hn)
  have HPR := Lib.hid (fun W => rprint_any n hn.1 hn.2 W)
  obtain ⟨x, ok, hx⟩ := readV_is (readF (L8 s))
  rw [hx] at HRD HRR
  clear hx HD hn hae
  generalize bs (printF n) = pn at *
  generalize fitsF a = fa at *
  generalize fitsF b = fb at *
  generalize checkF a = ca at *
  obtain ⟨na, da, ea⟩ := a
  obtain ⟨nb, db, eb⟩ := b
  obtain ⟨nx, dx, ex⟩ := x
  have hla : (bs da).size = da.length := bs_size da
  have hlb : (bs db).size = db.length := bs_size db
  unfold dcV at *
  dsimp only at *
  rw [← hla] at ha HCK HRC
  rw [← hlb] at hb
  clear hla hlb
  have HBO2 : Hid (fa = true → fb = true → BothOk ⟨na, da, ea⟩ ⟨nb, db, eb⟩) := HBO
  clear HBO
  go_enter Tryd.func3, Tryd.ntmps3
  go_upto_region 1 with fail
  have HS0 : Hid (St2 w w.heap.size (w.heap.size + 1) na (bs da) ea nb (bs db) eb ((w.alloc (.cells #[.bool na, .string (bs da), .int .i64 ea] 23)).alloc (.cells #[.bool nb, .string (bs db), .int .i64 eb] 23))) := Lib.hid ⟨(Blk.new w 23 _).alloc _, by have h := Blk.new (w.alloc (.cells #[.bool na, .string (bs da), .int .i64 ea] 23)) 23 #[.bool nb, .string (bs db), .int .i64 eb]; rwa [World.size_alloc] at h, ((Below.refl _ _).alloc (Nat.le_refl _) _).alloc (by rw [World.size_alloc]; omega) _⟩
  generalize (w.alloc (.cells #[.bool na, .string (bs da), .int .i64 ea] 23)).alloc (.cells #[.bool nb, .string (bs db), .int .i64 eb] 23) = w0 at *
  have ka0 := HS0.out.a0
  have ka1 := HS0.out.a1
  have ka2 := HS0.out.a2
  have kb0 := HS0.out.b0
  have kb1 := HS0.out.b1
  have kb2 := HS0.out.b2
  by_cases h1 : s.size ≤ 400
  case neg =>
    have h1' : decide ((400 : Int) < s.size) = true := decide_eq_true (by omega)
    go_wp2_with fail
    with_reducible refine (HA.out _).mono ?_
    rintro e1 w2 ⟨rfl, hb⟩
    have HB9 := Lib.hid (HS0.out.was.trans (hb.mono HS0.out.was.size))
    go_wp2
    go_ret
    exact ⟨rfl, HB9.out⟩
  have h1' : decide ((400 : Int) < s.size) = false := decide_eq_false (by omega)
  by_cases h2 : (bs da).size ≤ 400
  case neg =>
    have h2' : decide ((400 : Int) < (bs da).size) = true := decide_eq_true (by omega)
    go_wp2_with fail
    with_reducible refine (HA.out _).mono ?_
    rintro e1 w2 ⟨rfl, hb⟩
    have HB9 := Lib.hid (HS0.out.was.trans (hb.mono HS0.out.was.size))
    go_wp2
    go_ret
    exact ⟨rfl, HB9.out⟩
  have h2' : decide ((400 : Int) < (bs da).size) = false := decide_eq_false (by omega)
  by_cases h3 : (bs db).size ≤ 400
  case neg =>
    have h3' : decide ((400 : Int) < (bs db).size) = true := decide_eq_true (by omega)
    go_wp2_with fail
    with_reducible refine (HA.out _).mono ?_
    rintro e1 w2 ⟨rfl, hb⟩
    have HB9 := Lib.hid (HS0.out.was.trans (hb.mono HS0.out.was.size))
    go_wp2
    go_ret
    exact ⟨rfl, HB9.out⟩
  have h3' : decide ((400 : Int) < (bs db).size) = false := decide_eq_false (by omega)
  have HCK1 := Lib.hid (HCK.out h2)
  have HRC1 := Lib.hid (HRC.out h2)
  have HRD1 := Lib.hid (HRD.out h1)
  have HRR1 := Lib.hid (HRR.out h1)
  have hcc : (ca != ca) = false := by cases ca <;> rfl
  clear HCK HRC HRD HRR ha hb hs
  go_wp2_with fail
  clear ka0 ka1 ka2 kb0 kb1 kb2
  refine wp_region_G (by kernel_rfl) ?_
  have hg1 := Grow.drew w0
  have HS := Lib.hid (HS0.out.go hg1)
  generalize w0.drew = w1 at *
  clear hg1 HS0
  refine wpG_take 0 33 (v := ?va0) rfl rfl (by kernel_rfl) (by kernel_rfl) (by kernel_rfl) (fun _ _ _ h => h) (Or.inl ⟨by rfl, ?ya0⟩) ?ra0
  case ya0 => (intro W hW; have hD := HS.out.go hW; have ka0 := hD.a0; have ka1 := hD.a1; have ka2 := hD.a2; (go_simp; try with_reducible rfl))
  simp only [Act.put, List.setIfInBounds_toArray, List.set_cons_zero, List.set_cons_succ]
  refine wpG_take 2 35 (v := ?va2) rfl rfl (by kernel_rfl) (by kernel_rfl) (by kernel_rfl) (fun _ _ _ h => h) (Or.inl ⟨by rfl, ?ya2⟩) ?ra2
  case ya2 => (intro W hW; have hD := HS.out.go hW; have ka0 := hD.a0; have ka1 := hD.a1; have ka2 := hD.a2; (go_simp; try with_reducible rfl))
  simp only [Act.put, List.setIfInBounds_toArray, List.set_cons_zero, List.set_cons_succ]
  refine wpG_call 1 (by kernel_rfl) rfl (fun K hK => ?_)
  go_simp
  refine (HCK1.out _).mono ?_
  rintro e1 v ⟨rfl, hb⟩
  replace HS := Lib.hid (HS.out.go hb)
  refine hK.out _ _ ?_ ?_
  · exact hb
  clear hK K
  refine wpG_call 3 (by kernel_rfl) rfl (fun K hK => ?_)
  go_simp
  refine (HRC1.out _).mono ?_
  rintro e1 v ⟨rfl, hb⟩
  replace HS := Lib.hid (HS.out.go hb)
  refine hK.out _ _ ?_ ?_
  · exact hb
  clear hK K
  refine wpG_take 4 37 (v := ?va4) rfl rfl (by kernel_rfl) (by kernel_rfl) (by kernel_rfl) (fun _ _ _ h => h) (Or.inl ⟨by rfl, ?ya4⟩) ?ra4
  case ya4 => (intro W hW; (go_simp; try with_reducible rfl))
  simp only [Act.put, List.setIfInBounds_toArray, List.set_cons_zero, List.set_cons_succ]
  refine wpG_done (by kernel_rfl) ?_ _

  clear HCK1 HRC1 hcc h1 h1' h2 h2' h3 h3'
  go_wp2_with fail
  with_reducible refine (HRD1.out _).mono ?_
  rintro e1 w4 ⟨rfl, hb⟩
  replace HS := Lib.hid (HS.out.go hb)
  clear hb
  go_wp2_with fail
  have HX5 : Hid (DcBlk (w4.alloc (.cells #[.bool nx, .string (bs dx), .int .i64 ex] 23)) w4.heap.size nx (bs dx) ex) := Lib.hid (Blk.new w4 23 _)
  replace HS := Lib.hid (HS.out.go ((Below.refl w4.heap.size w4).alloc (Nat.le_refl _) (.cells #[.bool nx, .string (bs dx), .int .i64 ex] 23)))
  generalize w4.alloc (.cells #[.bool nx, .string (bs dx), .int .i64 ex] 23) = w5 at *
  generalize w4.heap.size = gx at *
  with_reducible refine (HRR1.out _).mono ?_
  rintro e1 w6 ⟨rfl, hb⟩
  replace HS := Lib.hid (HS.out.go hb)
  have HX6 := Lib.hid (HX5.out.below hb HX5.out.lt)
  clear hb HX5
  have HT7 : Hid (St4 w w.heap.size (w.heap.size + 1) gx w6.heap.size na (bs da) ea nb (bs db) eb nx (bs dx) ex nx (bs dx) ex (w6.alloc (.cells #[.bool nx, .string (bs dx), .int .i64 ex] 23))) := Lib.hid (by
    have hb := (Below.refl w6.heap.size w6).alloc (Nat.le_refl _) (.cells #[.bool nx, .string (bs dx), .int .i64 ex] 23)
    have h := HS.out.go hb
    exact ⟨h.a, h.b, HX6.out.below hb HX6.out.lt, Blk.new w6 23 _, h.was⟩)
  clear HS HX6
  go_upto_region 7 with fail
  generalize w6.alloc (.cells #[.bool nx, .string (bs dx), .int .i64 ex] 23) = w7 at *
  generalize w6.heap.size = gy at *
  have qx : ∀ W, (binOp .neq 23 (.agg #[.bool nx, .string (bs dx), .int .i64 ex]) (.agg #[.bool nx, .string (bs dx), .int .i64 ex])).run Tryd.prog W = .ok (.bool false) W := fun W => by rw [neq_dc, dc_self]; rfl
  have hoo : (ok != ok) = false := by cases ok <;> rfl
  have hpp : (pn.toList == pn.toList) = true := by simp
  have kc0 := HT7.out.c0
  have kc1 := HT7.out.c1
  have kc2 := HT7.out.c2
  have kd0 := HT7.out.d0
  have kd1 := HT7.out.d1
  have kd2 := HT7.out.d2
  go_wp2_with fail
  with_reducible refine (HP.out _).mono ?_
  rintro e1 w8 ⟨rfl, hb⟩
  have HT8 := Lib.hid (HT7.out.go hb)
  clear hb HT7
  clear kc0 kc1 kc2 kd0 kd1 kd2
  go_wp2_with fail
  with_reducible refine (HPR.out _).mono ?_
  rintro e1 w9 ⟨rfl, hst⟩
  have HT9 := Lib.hid (HT8.out.go (hst.lower _))
  clear hst HT8
  have ka0 := HT9.out.a0
  have ka1 := HT9.out.a1
  have ka2 := HT9.out.a2
  go_wp2_with fail
  with_reducible refine (HFA.out _).mono ?_
  rintro e1 w10 ⟨rfl, hb⟩
  have HT10 := Lib.hid (HT9.out.go hb)
  clear hb HT9
  clear ka0 ka1 ka2
  cases fa with
  | false =>
    go_wp2_with fail
    with_reducible refine (HA.out _).mono ?_
    rintro e1 w11 ⟨rfl, hb⟩
    have HB9 := Lib.hid (HT10.out.was.trans (hb.mono HT10.out.was.size))
    go_wp2
    go_ret
    exact ⟨rfl, HB9.out⟩
  | true =>
    have kb0 := HT10.out.b0
    have kb1 := HT10.out.b1
    have kb2 := HT10.out.b2
    go_wp2_with fail
    with_reducible refine (HFB.out _).mono ?_
    rintro e1 w11 ⟨rfl, hb⟩
    have HT11 := Lib.hid (HT10.out.go hb)
    clear hb HT10
    clear kb0 kb1 kb2
    cases fb with
    | false =>
      go_wp2_with fail
      with_reducible refine (HA.out _).mono ?_
      rintro e1 w12 ⟨rfl, hb⟩
      have HB9 := Lib.hid (HT11.out.was.trans (hb.mono HT11.out.was.size))
      go_wp2
      go_ret
      exact ⟨rfl, HB9.out⟩
    | true =>
      have hbo := HBO2.out (by first | rfl | trivial) (by first | rfl | trivial)
      have HN1 := Lib.hid hbo.norm
      have HN2 := Lib.hid hbo.rnorm
      have HC1 := Lib.hid hbo.cmp
      have HC2 := Lib.hid hbo.rcmp
      have HW1 := Lib.hid hbo.whole
      have HW2 := Lib.hid hbo.rwhole
      have HI1 := Lib.hid hbo.int
      have HI2 := Lib.hid hbo.rint
      clear hbo HBO2 HFA HFB
      generalize normF ⟨na, da, ea⟩ = y at *
      generalize cmpF ⟨na, da, ea⟩ ⟨nb, db, eb⟩ = cc at *
      generalize wholeF ⟨na, da, ea⟩ = wb at *
      generalize intF ⟨na, da, ea⟩ = it at *
      obtain ⟨i1, i2⟩ := it
      obtain ⟨ny, dy, ey⟩ := y
      unfold dcV at HN1 HN2 HC1 HC2 HW1 HW2 HI1 HI2
      dsimp only at HN1 HN2 HC1 HC2 HW1 HW2 HI1 HI2
      generalize bs dy = sy at *
      have qy : ∀ W, (binOp .eql 23 (.agg #[.bool ny, .string sy, .int .i64 ey]) (.agg #[.bool ny, .string sy, .int .i64 ey])).run Tryd.prog W = .ok (.bool true) W := fun W => by rw [eq_dc, dc_self]
      have hwb : (wb == wb) = true := by simp
      have hce : (cc == cc) = true := by simp
      have h11 : (i1 == i1) = true := by simp
      have h22 : (i2 == i2) = true := by simp
      clear qx hoo hpp
      have ka0 := HT11.out.a0
      have ka1 := HT11.out.a1
      have ka2 := HT11.out.a2
      go_wp2_with fail
      with_reducible refine (HI1.out _).mono ?_
      rintro e1 w12 ⟨rfl, hb⟩
      have HT12 := Lib.hid (HT11.out.go hb)
      clear hb HT11
      clear ka0 ka1 ka2
      have ka0 := HT12.out.a0
      have ka1 := HT12.out.a1
      have ka2 := HT12.out.a2
      go_wp2_with fail
      with_reducible refine (HI2.out _).mono ?_
      rintro e1 w13 ⟨rfl, hb⟩
      have HT13 := Lib.hid (HT12.out.go hb)
      clear hb HT12
      clear ka0 ka1 ka2
      go_wp2_with fail
      refine wp_region_G (by kernel_rfl) ?_
      have hg1 := Grow.drew w13
      have HS := Lib.hid (HT13.out.go hg1)
      generalize w13.drew = w14 at *
      clear hg1 HT13
      refine wpG_take 0 82 (v := ?vb0) rfl rfl (by kernel_rfl) (by kernel_rfl) (by kernel_rfl) (fun _ _ _ h => h) (Or.inl ⟨by rfl, ?yb0⟩) ?rb0
      case yb0 => (intro W hW; have hD := HS.out.go hW; have ka0 := hD.a0; have ka1 := hD.a1; have ka2 := hD.a2; (go_simp; try with_reducible rfl))
      simp only [Act.put, List.setIfInBounds_toArray, List.set_cons_zero, List.set_cons_succ]
      refine wpG_take 2 84 (v := ?vb2) rfl rfl (by kernel_rfl) (by kernel_rfl) (by kernel_rfl) (fun _ _ _ h => h) (Or.inl ⟨by rfl, ?yb2⟩) ?rb2
      case yb2 => (intro W hW; have hD := HS.out.go hW; have ka0 := hD.a0; have ka1 := hD.a1; have ka2 := hD.a2; (go_simp; try with_reducible rfl))
      simp only [Act.put, List.setIfInBounds_toArray, List.set_cons_zero, List.set_cons_succ]
      refine wpG_call 1 (by kernel_rfl) rfl (fun K hK => ?_)
      go_simp
      refine (HN1.out _).mono ?_
      rintro e1 v ⟨rfl, hb⟩
      replace HS := Lib.hid (HS.out.go hb)
      refine hK.out _ _ ?_ ?_
      · exact hb
      clear hK K
      refine wpG_call 3 (by kernel_rfl) rfl (fun K hK => ?_)
      go_simp
      refine (HN2.out _).mono ?_
      rintro e1 v ⟨rfl, hb⟩
      replace HS := Lib.hid (HS.out.go hb)
      refine hK.out _ _ ?_ ?_
      · exact hb
      clear hK K
      refine wpG_take 4 86 (v := ?vb4) rfl rfl (by kernel_rfl) (by kernel_rfl) (by kernel_rfl) (fun _ _ _ h => h) (Or.inl ⟨by rfl, ?yb4⟩) ?rb4
      case yb4 => (intro W hW; have hq := qy W; (go_simp; try with_reducible rfl))
      simp only [Act.put, List.setIfInBounds_toArray, List.set_cons_zero, List.set_cons_succ]
      refine wpG_take 5 87 (v := ?vb5) rfl rfl (by kernel_rfl) (by kernel_rfl) (by kernel_rfl) (fun _ _ _ h => h) (Or.inl ⟨by rfl, ?yb5⟩) ?rb5
      case yb5 => (intro W hW; (go_simp; try with_reducible rfl))
      simp only [Act.put, List.setIfInBounds_toArray, List.set_cons_zero, List.set_cons_succ]
      refine wpG_take 6 88 (v := ?vb6) rfl rfl (by kernel_rfl) (by kernel_rfl) (by kernel_rfl) (fun _ _ _ h => h) (Or.inl ⟨by rfl, ?yb6⟩) ?rb6
      case yb6 => (intro W hW; have hD := HS.out.go hW; have ka0 := hD.a0; have ka1 := hD.a1; have ka2 := hD.a2; (go_simp; try with_reducible rfl))
      simp only [Act.put, List.setIfInBounds_toArray, List.set_cons_zero, List.set_cons_succ]
      refine wpG_take 7 89 (v := ?vb7) rfl rfl (by kernel_rfl) (by kernel_rfl) (by kernel_rfl) (fun _ _ _ h => h) (Or.inl ⟨by rfl, ?yb7⟩) ?rb7
      case yb7 => (intro W hW; have hD := HS.out.go hW; have kb0 := hD.b0; have kb1 := hD.b1; have kb2 := hD.b2; (go_simp; try with_reducible rfl))
      simp only [Act.put, List.setIfInBounds_toArray, List.set_cons_zero, List.set_cons_succ]
      refine wpG_take 9 91 (v := ?vb9) rfl rfl (by kernel_rfl) (by kernel_rfl) (by kernel_rfl) (fun _ _ _ h => h) (Or.inl ⟨by rfl, ?yb9⟩) ?rb9
      case yb9 => (intro W hW; have hD := HS.out.go hW; have ka0 := hD.a0; have ka1 := hD.a1; have ka2 := hD.a2; (go_simp; try with_reducible rfl))
      simp only [Act.put, List.setIfInBounds_toArray, List.set_cons_zero, List.set_cons_succ]
      refine wpG_take 10 92 (v := ?vb10) rfl rfl (by kernel_rfl) (by kernel_rfl) (by kernel_rfl) (fun _ _ _ h => h) (Or.inl ⟨by rfl, ?yb10⟩) ?rb10
      case yb10 => (intro W hW; have hD := HS.out.go hW; have kb0 := hD.b0; have kb1 := hD.b1; have kb2 := hD.b2; (go_simp; try with_reducible rfl))
      simp only [Act.put, List.setIfInBounds_toArray, List.set_cons_zero, List.set_cons_succ]
      refine wpG_call 8 (by kernel_rfl) rfl (fun K hK => ?_)
      go_simp
      refine (HC1.out _).mono ?_
      rintro e1 v ⟨rfl, hb⟩
      replace HS := Lib.hid (HS.out.go hb)
      refine hK.out _ _ ?_ ?_
      · exact hb
      clear hK K
      refine wpG_call 11 (by kernel_rfl) rfl (fun K hK => ?_)
      go_simp
      refine (HC2.out _).mono ?_
      rintro e1 v ⟨rfl, hb⟩
      replace HS := Lib.hid (HS.out.go hb)
      refine hK.out _ _ ?_ ?_
      · exact hb
      clear hK K
      refine wpG_take 12 94 (v := ?vb12) rfl rfl (by kernel_rfl) (by kernel_rfl) (by kernel_rfl) (fun _ _ _ h => h) (Or.inl ⟨by rfl, ?yb12⟩) ?rb12
      case yb12 => (intro W hW; (go_simp; try with_reducible rfl))
      simp only [Act.put, List.setIfInBounds_toArray, List.set_cons_zero, List.set_cons_succ]
      refine wpG_take 13 95 (v := ?vb13) rfl rfl (by kernel_rfl) (by kernel_rfl) (by kernel_rfl) (fun _ _ _ h => h) (Or.inl ⟨by rfl, ?yb13⟩) ?rb13
      case yb13 => (intro W hW; (go_simp; try with_reducible rfl))
      simp only [Act.put, List.setIfInBounds_toArray, List.set_cons_zero, List.set_cons_succ]
      refine wpG_take 14 96 (v := ?vb14) rfl rfl (by kernel_rfl) (by kernel_rfl) (by kernel_rfl) (fun _ _ _ h => h) (Or.inl ⟨by rfl, ?yb14⟩) ?rb14
      case yb14 => (intro W hW; (go_simp; try with_reducible rfl))
      simp only [Act.put, List.setIfInBounds_toArray, List.set_cons_zero, List.set_cons_succ]
      refine wpG_take 15 97 (v := ?vb15) rfl rfl (by kernel_rfl) (by kernel_rfl) (by kernel_rfl) (fun _ _ _ h => h) (Or.inl ⟨by rfl, ?yb15⟩) ?rb15
      case yb15 => (intro W hW; have hD := HS.out.go hW; have ka0 := hD.a0; have ka1 := hD.a1; have ka2 := hD.a2; (go_simp; try with_reducible rfl))
      simp only [Act.put, List.setIfInBounds_toArray, List.set_cons_zero, List.set_cons_succ]
      refine wpG_take 17 99 (v := ?vb17) rfl rfl (by kernel_rfl) (by kernel_rfl) (by kernel_rfl) (fun _ _ _ h => h) (Or.inl ⟨by rfl, ?yb17⟩) ?rb17
      case yb17 => (intro W hW; have hD := HS.out.go hW; have ka0 := hD.a0; have ka1 := hD.a1; have ka2 := hD.a2; (go_simp; try with_reducible rfl))
      simp only [Act.put, List.setIfInBounds_toArray, List.set_cons_zero, List.set_cons_succ]
      refine wpG_call 16 (by kernel_rfl) rfl (fun K hK => ?_)
      go_simp
      refine (HW1.out _).mono ?_
      rintro e1 v ⟨rfl, hb⟩
      replace HS := Lib.hid (HS.out.go hb)
      refine hK.out _ _ ?_ ?_
      · exact hb
      clear hK K
      refine wpG_call 18 (by kernel_rfl) rfl (fun K hK => ?_)
      go_simp
      refine (HW2.out _).mono ?_
      rintro e1 v ⟨rfl, hb⟩
      replace HS := Lib.hid (HS.out.go hb)
      refine hK.out _ _ ?_ ?_
      · exact hb
      clear hK K
      refine wpG_take 19 101 (v := ?vb19) rfl rfl (by kernel_rfl) (by kernel_rfl) (by kernel_rfl) (fun _ _ _ h => h) (Or.inl ⟨by rfl, ?yb19⟩) ?rb19
      case yb19 => (intro W hW; (go_simp; try with_reducible rfl))
      simp only [Act.put, List.setIfInBounds_toArray, List.set_cons_zero, List.set_cons_succ]
      refine wpG_take 20 102 (v := ?vb20) rfl rfl (by kernel_rfl) (by kernel_rfl) (by kernel_rfl) (fun _ _ _ h => h) (Or.inl ⟨by rfl, ?yb20⟩) ?rb20
      case yb20 => (intro W hW; (go_simp; try with_reducible rfl))
      simp only [Act.put, List.setIfInBounds_toArray, List.set_cons_zero, List.set_cons_succ]
      refine wpG_take 21 103 (v := ?vb21) rfl rfl (by kernel_rfl) (by kernel_rfl) (by kernel_rfl) (fun _ _ _ h => h) (Or.inl ⟨by rfl, ?yb21⟩) ?rb21
      case yb21 => (intro W hW; (go_simp; try with_reducible rfl))
      simp only [Act.put, List.setIfInBounds_toArray, List.set_cons_zero, List.set_cons_succ]
      refine wpG_take 22 104 (v := ?vb22) rfl rfl (by kernel_rfl) (by kernel_rfl) (by kernel_rfl) (fun _ _ _ h => h) (Or.inl ⟨by rfl, ?yb22⟩) ?rb22
      case yb22 => (intro W hW; (go_simp; try with_reducible rfl))
      simp only [Act.put, List.setIfInBounds_toArray, List.set_cons_zero, List.set_cons_succ]
      refine wpG_take 23 105 (v := ?vb23) rfl rfl (by kernel_rfl) (by kernel_rfl) (by kernel_rfl) (fun _ _ _ h => h) (Or.inl ⟨by rfl, ?yb23⟩) ?rb23
      case yb23 => (intro W hW; (go_simp; try with_reducible rfl))
      simp only [Act.put, List.setIfInBounds_toArray, List.set_cons_zero, List.set_cons_succ]
      refine wpG_take 24 106 (v := ?vb24) rfl rfl (by kernel_rfl) (by kernel_rfl) (by kernel_rfl) (fun _ _ _ h => h) (Or.inl ⟨by rfl, ?yb24⟩) ?rb24
      case yb24 => (intro W hW; (go_simp; try with_reducible rfl))
      simp only [Act.put, List.setIfInBounds_toArray, List.set_cons_zero, List.set_cons_succ]
      refine wpG_take 25 107 (v := ?vb25) rfl rfl (by kernel_rfl) (by kernel_rfl) (by kernel_rfl) (fun _ _ _ h => h) (Or.inl ⟨by rfl, ?yb25⟩) ?rb25
      case yb25 => (intro W hW; (go_simp; try with_reducible rfl))
      simp only [Act.put, List.setIfInBounds_toArray, List.set_cons_zero, List.set_cons_succ]
      refine wpG_take 26 108 (v := ?vb26) rfl rfl (by kernel_rfl) (by kernel_rfl) (by kernel_rfl) (fun _ _ _ h => h) (Or.inl ⟨by rfl, ?yb26⟩) ?rb26
      case yb26 => (intro W hW; (go_simp; try with_reducible rfl))
      simp only [Act.put, List.setIfInBounds_toArray, List.set_cons_zero, List.set_cons_succ]
      refine wpG_take 27 109 (v := ?vb27) rfl rfl (by kernel_rfl) (by kernel_rfl) (by kernel_rfl) (fun _ _ _ h => h) (Or.inl ⟨by rfl, ?yb27⟩) ?rb27
      case yb27 => (intro W hW; (go_simp; try with_reducible rfl))
      simp only [Act.put, List.setIfInBounds_toArray, List.set_cons_zero, List.set_cons_succ]
      refine wpG_take 28 110 (v := ?vb28) rfl rfl (by kernel_rfl) (by kernel_rfl) (by kernel_rfl) (fun _ _ _ h => h) (Or.inl ⟨by rfl, ?yb28⟩) ?rb28
      case yb28 => (intro W hW; (go_simp; try with_reducible rfl))
      simp only [Act.put, List.setIfInBounds_toArray, List.set_cons_zero, List.set_cons_succ]
      refine wpG_take 29 111 (v := ?vb29) rfl rfl (by kernel_rfl) (by kernel_rfl) (by kernel_rfl) (fun _ _ _ h => h) (Or.inl ⟨by rfl, ?yb29⟩) ?rb29
      case yb29 => (intro W hW; (go_simp; try with_reducible rfl))
      simp only [Act.put, List.setIfInBounds_toArray, List.set_cons_zero, List.set_cons_succ]
      refine wpG_take 30 112 (v := ?vb30) rfl rfl (by kernel_rfl) (by kernel_rfl) (by kernel_rfl) (fun _ _ _ h => h) (Or.inl ⟨by rfl, ?yb30⟩) ?rb30
      case yb30 => (intro W hW; (go_simp; try with_reducible rfl))
      simp only [Act.put, List.setIfInBounds_toArray, List.set_cons_zero, List.set_cons_succ]
      refine wpG_take 31 113 (v := ?vb31) rfl rfl (by kernel_rfl) (by kernel_rfl) (by kernel_rfl) (fun _ _ _ h => h) (Or.inl ⟨by rfl, ?yb31⟩) ?rb31
      case yb31 => (intro W hW; (go_simp; try with_reducible rfl))
      simp only [Act.put, List.setIfInBounds_toArray, List.set_cons_zero, List.set_cons_succ]
      refine wpG_call 32 (by kernel_rfl) rfl (fun K hK => ?_)
      go_simp
      refine (HA.out _).mono ?_
      rintro e1 v ⟨rfl, hb⟩
      replace HS := Lib.hid (HS.out.go hb)
      refine hK.out _ _ ?_ ?_
      · exact hb
      clear hK K
      refine wpG_take 33 115 (v := ?vb33) rfl rfl (by kernel_rfl) (by kernel_rfl) (by kernel_rfl) (fun _ _ _ h => h) (Or.inl ⟨by rfl, ?yb33⟩) ?rb33
      case yb33 => (intro W hW; (go_simp; try with_reducible rfl))
      simp only [Act.put, List.setIfInBounds_toArray, List.set_cons_zero, List.set_cons_succ]
      refine wpG_take 34 8 (v := ?vb34) rfl rfl (by kernel_rfl) (by kernel_rfl) (by kernel_rfl) (fun _ _ _ h => h) (Or.inl ⟨by rfl, ?yb34⟩) ?rb34
      case yb34 => (intro W hW; (go_simp; try with_reducible rfl))
      simp only [Act.put, List.setIfInBounds_toArray, List.set_cons_zero, List.set_cons_succ]
      refine wpG_done (by kernel_rfl) ?_ _

      go_wp2
      go_ret
      exact ⟨rfl, HS.out.was⟩
end Go.Proofs.YtadbnajodpfpgaaDoor
