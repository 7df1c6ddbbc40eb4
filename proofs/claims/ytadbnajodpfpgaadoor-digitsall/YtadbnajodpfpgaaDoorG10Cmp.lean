/- Printed by gen_g10cmp.py. The document's size and Cmp of layer 10 by their contracts. -/
import Derived.Test.YtadbnajodpfpgaaDoorG10Int
import Derived.Test.YtadbnajodpfpgaaDoorAnyM
import Derived.Deep.CutRange
namespace Go.Proofs.YtadbnajodpfpgaaDoor
set_option maxRecDepth 100000
open Go.ChangeShapes Go.WideShapes Go.ChangeAt Go.RowKit
set_option linter.unusedVariables false
set_option linter.unusedSimpArgs false

set_option maxHeartbeats 4000000 in
theorem rsize_any (a b : Dc) (w : World) (ha : a.d.length ≤ 1000000) (hb : b.d.length ≤ 1000000) (ea0 : -5000000000 ≤ a.e) (ea1 : a.e ≤ 5000000000) (eb0 : -5000000000 ≤ b.e) (eb1 : b.e ≤ 5000000000) :
    Calls Tryd.prog 37 #[dcV a, dcV b] w fun e w' => e = .returned (.int .i64 (sizeF a b)) ∧ Below w.heap.size w w' := by
  have HS : Hid (sizeF a b = _) := Lib.hid (sizeF.eq_1 a b)
  generalize sizeF a b = r at *
  obtain ⟨n, d, e⟩ := a
  obtain ⟨m, c, f⟩ := b
  unfold dcV
  dsimp only at *
  obtain ⟨s, rfl⟩ : ∃ s, d = L8 s := ⟨bs d, rfl⟩
  obtain ⟨t, rfl⟩ : ∃ t, c = L8 t := ⟨bs c, rfl⟩
  rw [bs_L8, bs_L8]
  rw [L8_len] at ha hb
  rw [L8_len, L8_len, ← L8_toList, ← L8_toList] at HS
  have HB0 : Hid (Below w.heap.size w ((w.alloc (.cells #[.bool n, .string s, .int .i64 e] 23)).alloc (.cells #[.bool m, .string t, .int .i64 f] 23))) := Lib.hid (((Below.refl _ _).alloc (Nat.le_refl _) _).alloc (by rw [World.size_alloc]; omega) _)
  have hw1 : IntKind.i64.wrap ((s.size : Int) + e) = (s.size : Int) + e := IntWalk.i64_in _ (by omega)
  have hw2 : IntKind.i64.wrap ((t.size : Int) + f) = (t.size : Int) + f := IntWalk.i64_in _ (by omega)
  by_cases h1 : (s.size : Int) + e < (t.size : Int) + f
  · have hr : r = -1 := by rw [HS.out, if_pos h1]
    subst hr
    clear HS
    go_enter Tryd.func37, Tryd.ntmps37
    go_wp2_with fail
    go_quiet (fail)
    go_wp2
    go_ret
    exact ⟨rfl, below_drewN' HB0.out _⟩
  · rw [if_neg h1] at HS
    by_cases h2 : (t.size : Int) + f < (s.size : Int) + e
    · have hr : r = 1 := by rw [HS.out, if_pos h2]
      subst hr
      clear HS
      go_enter Tryd.func37, Tryd.ntmps37
      go_wp2_with fail
      go_quiet (fail)
      go_wp2
      go_ret
      exact ⟨rfl, below_drewN' HB0.out _⟩
    · rw [if_neg h2] at HS
      cases h3 : Op.bytesLess s.toList t.toList with
      | true =>
        have hr : r = -1 := by rw [HS.out, if_pos h3]
        subst hr
        clear HS
        go_enter Tryd.func37, Tryd.ntmps37
        go_wp2_with fail
        go_quiet (fail)
        go_wp2
        go_ret
        exact ⟨rfl, below_drewN' HB0.out _⟩
      | false =>
        cases h4 : Op.bytesLess t.toList s.toList with
        | true =>
          have hr : r = 1 := by rw [HS.out, if_neg (by rw [h3]; simp), if_pos h4]
          have h5 : (s.toList == t.toList) = false := by
            rw [beq_eq_false_iff_ne]
            intro e; rw [e] at h4
            rw [e, h4] at h3; cases h3
          subst hr
          clear HS
          go_enter Tryd.func37, Tryd.ntmps37
          go_wp2_with fail
          go_quiet (fail)
          go_wp2
          go_ret
          exact ⟨rfl, below_drewN' HB0.out _⟩
        | false =>
          have hr : r = 0 := by rw [HS.out, if_neg (by rw [h3]; simp), if_neg (by rw [h4]; simp)]
          have h5 : (s.toList == t.toList) = true := by
            rw [beq_iff_eq]
            exact less_no h3 h4
          subst hr
          clear HS
          go_enter Tryd.func37, Tryd.ntmps37
          go_wp2_with fail
          go_quiet (fail)
          go_wp2
          go_ret
          exact ⟨rfl, below_drewN' HB0.out _⟩

/-- both, normed -/
def CmpRel (w : World) (x y : Dc) (v5 v6 : Value) (W : World) : Prop := ∃ p q, v5 = .pointer (some ⟨p, 0, none⟩) ∧ v6 = .pointer (some ⟨q, 0, none⟩) ∧ DcBlk W p x.n (bs x.d) x.e ∧ DcBlk W q y.n (bs y.d) y.e ∧ Below w.heap.size w W
abbrev ZBlk (W : World) (p : Nat) : Prop := DcBlk W p false (bs []) 0
theorem cmp_mk {w W : World} {p q : Nat} {x y : Dc} (hp : ZBlk W p) (hq : ZBlk W q) (hpq : p ≠ q) (hb : Below w.heap.size w W) (h1 : w.heap.size ≤ p) (h2 : w.heap.size ≤ q) :
    CmpRel w x y (.pointer (some ⟨p, 0, none⟩)) (.pointer (some ⟨q, 0, none⟩)) ((((((W.setCell ⟨p, 0, none⟩ (.bool x.n)).setCell ⟨p, 1, none⟩ (.string (bs x.d))).setCell ⟨p, 2, none⟩ (.int .i64 x.e)).setCell ⟨q, 0, none⟩ (.bool y.n)).setCell ⟨q, 1, none⟩ (.string (bs y.d))).setCell ⟨q, 2, none⟩ (.int .i64 y.e)) := by
  refine ⟨p, q, rfl, rfl, ?_, ?_, ?_⟩
  · exact ((((((hp.set' 0 _ rfl).set' 1 _ rfl).set' 2 _ rfl)).far hpq _).far hpq _).far hpq _
  · exact (((((hq.far hpq.symm _).far hpq.symm _).far hpq.symm _).set' 0 _ rfl).set' 1 _ rfl).set' 2 _ rfl
  · exact (((((hb.setCell h1 _).setCell h1 _).setCell h1 _).setCell h2 _).setCell h2 _).setCell h2 _

set_option maxHeartbeats 16000000 in
theorem rcmp_any (a b : Dc) (w : World) (ha : a.d.length ≤ 1000000) (hb : b.d.length ≤ 1000000) (ea0 : -4000000000 ≤ a.e) (ea1 : a.e ≤ 4000000000) (eb0 : -4000000000 ≤ b.e) (eb1 : b.e ≤ 4000000000) :
    Calls Tryd.prog 21 #[dcV a, dcV b] w fun e w' => e = .returned (.int .i64 (cmpF a b)) ∧ Below w.heap.size w w' := by
  have HC : Hid (cmpF a b = cmpN (normF a) (normF b)) := Lib.hid rfl
  have HN1 := Lib.hid (fun W => rnorm_any a W ha ea0 ea1)
  have HN2 := Lib.hid (fun W => rnorm_any b W hb eb0 eb1)
  have HL1 : Hid ((normF a).d.length ≤ 1000000 ∧ -5000000000 ≤ (normF a).e ∧ (normF a).e ≤ 5000000000) := Lib.hid (by have h1 := norm_len a; have h2 := norm_e a; omega)
  have HL2 : Hid ((normF b).d.length ≤ 1000000 ∧ -5000000000 ≤ (normF b).e ∧ (normF b).e ≤ 5000000000) := Lib.hid (by have h1 := norm_len b; have h2 := norm_e b; omega)
  generalize cmpF a b = r at *
  generalize normF a = x at *
  generalize normF b = y at *
  obtain ⟨n, d, e⟩ := a
  obtain ⟨m, c, f⟩ := b
  unfold dcV at HN1 HN2 ⊢
  dsimp only at *
  go_enter Tryd.func21, Tryd.ntmps21
  go_wp2_with fail
  have HB0 : Hid (Below w.heap.size w ((w.alloc (.cells #[.bool n, .string (bs d), .int .i64 e] 23)).alloc (.cells #[.bool m, .string (bs c), .int .i64 f] 23))) := Lib.hid (((Below.refl _ _).alloc (Nat.le_refl _) _).alloc (by rw [World.size_alloc]; omega) _)
  have HX1 : Hid (DcBlk ((w.alloc (.cells #[.bool n, .string (bs d), .int .i64 e] 23)).alloc (.cells #[.bool m, .string (bs c), .int .i64 f] 23)) w.heap.size n (bs d) e) := Lib.hid ((Blk.new w 23 _).alloc _)
  have HX2 : Hid (DcBlk ((w.alloc (.cells #[.bool n, .string (bs d), .int .i64 e] 23)).alloc (.cells #[.bool m, .string (bs c), .int .i64 f] 23)) (w.heap.size + 1) m (bs c) f) := Lib.hid (by have h := Blk.new (w.alloc (.cells #[.bool n, .string (bs d), .int .i64 e] 23)) 23 #[.bool m, .string (bs c), .int .i64 f]; rwa [World.size_alloc] at h)
  generalize (w.alloc (.cells #[.bool n, .string (bs d), .int .i64 e] 23)).alloc (.cells #[.bool m, .string (bs c), .int .i64 f] 23) = w0 at *
  go_cut [5, 6] from 7 to 10 (fun v5 v6 W => CmpRel w x y v5 v6 W)
  case first =>
    refine wp_region_H (fun V => DcBlk V w.heap.size n (bs d) e ∧ DcBlk V (w.heap.size + 1) m (bs c) f) (by kernel_rfl) ?_
    have hgd : Below w0.heap.size w0 w0.drew := (Below.refl _ _).drew
    have HB1 := Lib.hid (HB0.out.trans (hgd.mono HB0.out.size))
    have HS1 : Hid (DcBlk w0.drew w.heap.size n (bs d) e ∧ DcBlk w0.drew (w.heap.size + 1) m (bs c) f) := Lib.hid ⟨HX1.out.below hgd HX1.out.lt, HX2.out.below hgd HX2.out.lt⟩
    clear HB0 HX1 HX2 hgd
    generalize w0.drew = w1 at *
    have hlo : w.heap.size ≤ w1.heap.size := HB1.out.size
    have hlq : w.heap.size + 1 < w1.heap.size := HS1.out.2.lt
    refine wpH_take 0 7 (v := ?v0) rfl rfl (by kernel_rfl) (by kernel_rfl) (by kernel_rfl) (fun _ _ _ h => h) HS1.out (Or.inl ⟨by rfl, ?y0⟩) ?r0
    case y0 => (intro W hW; have k0 := hW.1.cell 0; have k1 := hW.1.cell 1; have k2 := hW.1.cell 2; simp only [List.getElem?_toArray, List.getElem?_cons_zero, List.getElem?_cons_succ] at k0 k1 k2; (go_simp; try with_reducible rfl))
    simp only [Act.put, List.setIfInBounds_toArray, List.set_cons_zero, List.set_cons_succ]
    refine wpH_take 2 9 (v := ?v2) rfl rfl (by kernel_rfl) (by kernel_rfl) (by kernel_rfl) (fun _ _ _ h => h) HS1.out (Or.inl ⟨by rfl, ?y2⟩) ?r2
    case y2 => (intro W hW; have k0 := hW.2.cell 0; have k1 := hW.2.cell 1; have k2 := hW.2.cell 2; simp only [List.getElem?_toArray, List.getElem?_cons_zero, List.getElem?_cons_succ] at k0 k1 k2; (go_simp; try with_reducible rfl))
    simp only [Act.put, List.setIfInBounds_toArray, List.set_cons_zero, List.set_cons_succ]
    refine wpH_three 1 4 5 (by kernel_rfl) rfl rfl rfl (fun K hK => ?_) (fun K hK => ?_) (fun K hK => ?_)
    · go_simp
      refine (HN1.out _).mono ?_
      rintro e u1 ⟨rfl, hb⟩
      have HB_u1 : Hid (Below w.heap.size w u1) := Lib.hid (HB1.out.trans (hb.mono HB1.out.size))
      have HS_u1 := Lib.hid (And.intro (HS1.out.1.below hb HS1.out.1.lt) (HS1.out.2.below hb HS1.out.2.lt))
      refine hK.out _ _ HS_u1.out ?_
      clear hK K hb
      try simp only [Act.put, List.getElem_toArray, List.getElem_cons_succ, List.getElem_cons_zero, List.setIfInBounds_toArray, List.set_cons_zero, List.set_cons_succ]
      refine wpH_three 3 4 5 (by kernel_rfl) rfl rfl rfl (fun K hK => ?_) (fun K hK => ?_) (fun K hK => ?_)
      · go_simp
        refine (HN2.out _).mono ?_
        rintro e u2 ⟨rfl, hb⟩
        have HB_u2 : Hid (Below w.heap.size w u2) := Lib.hid (HB_u1.out.trans (hb.mono HB_u1.out.size))
        have HS_u2 := Lib.hid (And.intro (HS_u1.out.1.below hb HS_u1.out.1.lt) (HS_u1.out.2.below hb HS_u1.out.2.lt))
        refine hK.out _ _ HS_u2.out ?_
        clear hK K hb
        try simp only [Act.put, List.getElem_toArray, List.getElem_cons_succ, List.getElem_cons_zero, List.setIfInBounds_toArray, List.set_cons_zero, List.set_cons_succ]
        refine wpH_two 4 5 (by kernel_rfl) rfl rfl (fun K hK => ?_) (fun K hK => ?_)
        · go_simp
          have hbs : (⟨#[]⟩ : ByteArray) = bs [] := rfl
          rw [hbs]
          clear hbs
          have hb : Below u2.heap.size u2 (u2.alloc (.cells #[.bool false, .string (bs []), .int .i64 0] 23)) := (Below.refl _ _).alloc (Nat.le_refl _) _
          have HZ5_u3 : Hid (ZBlk (u2.alloc (.cells #[.bool false, .string (bs []), .int .i64 0] 23)) u2.heap.size) := Lib.hid (Blk.new u2 23 _)
          have HB_u3 : Hid (Below w.heap.size w (u2.alloc (.cells #[.bool false, .string (bs []), .int .i64 0] 23))) := Lib.hid (HB_u2.out.trans (hb.mono HB_u2.out.size))
          have hgt5 : w.heap.size + 1 < u2.heap.size := HS_u2.out.2.lt
          have hlo5 : w.heap.size ≤ u2.heap.size := HB_u2.out.size
          have HS_u3 := Lib.hid (And.intro (HS_u2.out.1.below hb HS_u2.out.1.lt) (HS_u2.out.2.below hb HS_u2.out.2.lt))
          refine hK.out _ _ HS_u3.out ?_
          clear hK K hb
          generalize u2.alloc (.cells #[.bool false, .string (bs []), .int .i64 0] 23) = u3 at *
          generalize u2.heap.size = p5 at *
          try simp only [Act.put, List.getElem_toArray, List.getElem_cons_succ, List.getElem_cons_zero, List.setIfInBounds_toArray, List.set_cons_zero, List.set_cons_succ]
          refine wpH_one 5 (by kernel_rfl) rfl (fun K hK => ?_)
          go_simp
          have hbs : (⟨#[]⟩ : ByteArray) = bs [] := rfl
          rw [hbs]
          clear hbs
          have hb : Below u3.heap.size u3 (u3.alloc (.cells #[.bool false, .string (bs []), .int .i64 0] 23)) := (Below.refl _ _).alloc (Nat.le_refl _) _
          have HZ6_u4 : Hid (ZBlk (u3.alloc (.cells #[.bool false, .string (bs []), .int .i64 0] 23)) u3.heap.size) := Lib.hid (Blk.new u3 23 _)
          have HZ5_u4 : Hid (ZBlk (u3.alloc (.cells #[.bool false, .string (bs []), .int .i64 0] 23)) p5) := Lib.hid (HZ5_u3.out.alloc _)
          have hne : p5 ≠ u3.heap.size := Nat.ne_of_lt HZ5_u3.out.lt
          have HB_u4 : Hid (Below w.heap.size w (u3.alloc (.cells #[.bool false, .string (bs []), .int .i64 0] 23))) := Lib.hid (HB_u3.out.trans (hb.mono HB_u3.out.size))
          have hgt6 : w.heap.size + 1 < u3.heap.size := HS_u3.out.2.lt
          have hlo6 : w.heap.size ≤ u3.heap.size := HB_u3.out.size
          have HS_u4 := Lib.hid (And.intro (HS_u3.out.1.below hb HS_u3.out.1.lt) (HS_u3.out.2.below hb HS_u3.out.2.lt))
          refine hK.out _ _ HS_u4.out ?_
          clear hK K hb
          generalize u3.alloc (.cells #[.bool false, .string (bs []), .int .i64 0] 23) = u4 at *
          generalize u3.heap.size = p6 at *
          try simp only [Act.put, List.getElem_toArray, List.getElem_cons_succ, List.getElem_cons_zero, List.setIfInBounds_toArray, List.set_cons_zero, List.set_cons_succ]
          have z50 : u4.frozen? ⟨p5, 0, none⟩ = false := HZ5_u4.out.frozen 0
          have z51 : u4.frozen? ⟨p5, 1, none⟩ = false := HZ5_u4.out.frozen 1
          have z52 : u4.frozen? ⟨p5, 2, none⟩ = false := HZ5_u4.out.frozen 2
          have z60 : u4.frozen? ⟨p6, 0, none⟩ = false := HZ6_u4.out.frozen 0
          have z61 : u4.frozen? ⟨p6, 1, none⟩ = false := HZ6_u4.out.frozen 1
          have z62 : u4.frozen? ⟨p6, 2, none⟩ = false := HZ6_u4.out.frozen 2
          have c50 : u4.cell? ⟨p5, 0, none⟩ = some (.bool false) := HZ5_u4.out.cell 0
          have c51 : u4.cell? ⟨p5, 1, none⟩ = some (.string (bs [])) := HZ5_u4.out.cell 1
          have c52 : u4.cell? ⟨p5, 2, none⟩ = some (.int .i64 0) := HZ5_u4.out.cell 2
          have c60 : u4.cell? ⟨p6, 0, none⟩ = some (.bool false) := HZ6_u4.out.cell 0
          have c61 : u4.cell? ⟨p6, 1, none⟩ = some (.string (bs [])) := HZ6_u4.out.cell 1
          have c62 : u4.cell? ⟨p6, 2, none⟩ = some (.int .i64 0) := HZ6_u4.out.cell 2
          have hne1 : p5 ≠ p6 := by omega
          have hne2 : p6 ≠ p5 := by omega
          have HSL := Lib.hid HS_u4.out
          have g51 : w.heap.size ≠ p5 := by omega
          have g52 : w.heap.size + 1 ≠ p5 := by omega
          have g61 : w.heap.size ≠ p6 := by omega
          have g62 : w.heap.size + 1 ≠ p6 := by omega
          refine wpH_one 6 (by kernel_rfl) rfl (fun K hK => ?_)
          go_simp
          refine hK.out _ _ ⟨((HSL.out.1.far g51 _).far g51 _).far g51 _, ((HSL.out.2.far g52 _).far g52 _).far g52 _⟩ ?_
          clear hK K
          try simp only [Act.put, List.getElem_toArray, List.getElem_cons_succ, List.getElem_cons_zero, List.setIfInBounds_toArray, List.set_cons_zero, List.set_cons_succ]
          refine wpH_one 7 (by kernel_rfl) rfl (fun K hK => ?_)
          go_simp
          refine hK.out _ _ ⟨((((((HSL.out.1.far g51 _).far g51 _).far g51 _).far g61 _).far g61 _).far g61 _), ((((((HSL.out.2.far g52 _).far g52 _).far g52 _).far g62 _).far g62 _).far g62 _)⟩ ?_
          clear hK K
          try simp only [Act.put, List.getElem_toArray, List.getElem_cons_succ, List.getElem_cons_zero, List.setIfInBounds_toArray, List.set_cons_zero, List.set_cons_succ]
          refine wpH_done (by kernel_rfl) ?_ _
          go_wp2_with fail
          go_meet
          case rel => exact cmp_mk HZ5_u4.out HZ6_u4.out hne1 HB_u4.out (by omega) (by omega)
        · go_simp
          have hbs : (⟨#[]⟩ : ByteArray) = bs [] := rfl
          rw [hbs]
          clear hbs
          have hb : Below u2.heap.size u2 (u2.alloc (.cells #[.bool false, .string (bs []), .int .i64 0] 23)) := (Below.refl _ _).alloc (Nat.le_refl _) _
          have HZ6_u5 : Hid (ZBlk (u2.alloc (.cells #[.bool false, .string (bs []), .int .i64 0] 23)) u2.heap.size) := Lib.hid (Blk.new u2 23 _)
          have HB_u5 : Hid (Below w.heap.size w (u2.alloc (.cells #[.bool false, .string (bs []), .int .i64 0] 23))) := Lib.hid (HB_u2.out.trans (hb.mono HB_u2.out.size))
          have hgt6 : w.heap.size + 1 < u2.heap.size := HS_u2.out.2.lt
          have hlo6 : w.heap.size ≤ u2.heap.size := HB_u2.out.size
          have HS_u5 := Lib.hid (And.intro (HS_u2.out.1.below hb HS_u2.out.1.lt) (HS_u2.out.2.below hb HS_u2.out.2.lt))
          refine hK.out _ _ HS_u5.out ?_
          clear hK K hb
          generalize u2.alloc (.cells #[.bool false, .string (bs []), .int .i64 0] 23) = u5 at *
          generalize u2.heap.size = p6 at *
          try simp only [Act.put, List.getElem_toArray, List.getElem_cons_succ, List.getElem_cons_zero, List.setIfInBounds_toArray, List.set_cons_zero, List.set_cons_succ]
          refine wpH_one 4 (by kernel_rfl) rfl (fun K hK => ?_)
          go_simp
          have hbs : (⟨#[]⟩ : ByteArray) = bs [] := rfl
          rw [hbs]
          clear hbs
          have hb : Below u5.heap.size u5 (u5.alloc (.cells #[.bool false, .string (bs []), .int .i64 0] 23)) := (Below.refl _ _).alloc (Nat.le_refl _) _
          have HZ5_u6 : Hid (ZBlk (u5.alloc (.cells #[.bool false, .string (bs []), .int .i64 0] 23)) u5.heap.size) := Lib.hid (Blk.new u5 23 _)
          have HZ6_u6 : Hid (ZBlk (u5.alloc (.cells #[.bool false, .string (bs []), .int .i64 0] 23)) p6) := Lib.hid (HZ6_u5.out.alloc _)
          have hne : p6 ≠ u5.heap.size := Nat.ne_of_lt HZ6_u5.out.lt
          have HB_u6 : Hid (Below w.heap.size w (u5.alloc (.cells #[.bool false, .string (bs []), .int .i64 0] 23))) := Lib.hid (HB_u5.out.trans (hb.mono HB_u5.out.size))
          have hgt5 : w.heap.size + 1 < u5.heap.size := HS_u5.out.2.lt
          have hlo5 : w.heap.size ≤ u5.heap.size := HB_u5.out.size
          have HS_u6 := Lib.hid (And.intro (HS_u5.out.1.below hb HS_u5.out.1.lt) (HS_u5.out.2.below hb HS_u5.out.2.lt))
          refine hK.out _ _ HS_u6.out ?_
          clear hK K hb
          generalize u5.alloc (.cells #[.bool false, .string (bs []), .int .i64 0] 23) = u6 at *
          generalize u5.heap.size = p5 at *
          try simp only [Act.put, List.getElem_toArray, List.getElem_cons_succ, List.getElem_cons_zero, List.setIfInBounds_toArray, List.set_cons_zero, List.set_cons_succ]
          have z50 : u6.frozen? ⟨p5, 0, none⟩ = false := HZ5_u6.out.frozen 0
          have z51 : u6.frozen? ⟨p5, 1, none⟩ = false := HZ5_u6.out.frozen 1
          have z52 : u6.frozen? ⟨p5, 2, none⟩ = false := HZ5_u6.out.frozen 2
          have z60 : u6.frozen? ⟨p6, 0, none⟩ = false := HZ6_u6.out.frozen 0
          have z61 : u6.frozen? ⟨p6, 1, none⟩ = false := HZ6_u6.out.frozen 1
          have z62 : u6.frozen? ⟨p6, 2, none⟩ = false := HZ6_u6.out.frozen 2
          have c50 : u6.cell? ⟨p5, 0, none⟩ = some (.bool false) := HZ5_u6.out.cell 0
          have c51 : u6.cell? ⟨p5, 1, none⟩ = some (.string (bs [])) := HZ5_u6.out.cell 1
          have c52 : u6.cell? ⟨p5, 2, none⟩ = some (.int .i64 0) := HZ5_u6.out.cell 2
          have c60 : u6.cell? ⟨p6, 0, none⟩ = some (.bool false) := HZ6_u6.out.cell 0
          have c61 : u6.cell? ⟨p6, 1, none⟩ = some (.string (bs [])) := HZ6_u6.out.cell 1
          have c62 : u6.cell? ⟨p6, 2, none⟩ = some (.int .i64 0) := HZ6_u6.out.cell 2
          have hne1 : p5 ≠ p6 := by omega
          have hne2 : p6 ≠ p5 := by omega
          have HSL := Lib.hid HS_u6.out
          have g51 : w.heap.size ≠ p5 := by omega
          have g52 : w.heap.size + 1 ≠ p5 := by omega
          have g61 : w.heap.size ≠ p6 := by omega
          have g62 : w.heap.size + 1 ≠ p6 := by omega
          refine wpH_one 6 (by kernel_rfl) rfl (fun K hK => ?_)
          go_simp
          refine hK.out _ _ ⟨((HSL.out.1.far g51 _).far g51 _).far g51 _, ((HSL.out.2.far g52 _).far g52 _).far g52 _⟩ ?_
          clear hK K
          try simp only [Act.put, List.getElem_toArray, List.getElem_cons_succ, List.getElem_cons_zero, List.setIfInBounds_toArray, List.set_cons_zero, List.set_cons_succ]
          refine wpH_one 7 (by kernel_rfl) rfl (fun K hK => ?_)
          go_simp
          refine hK.out _ _ ⟨((((((HSL.out.1.far g51 _).far g51 _).far g51 _).far g61 _).far g61 _).far g61 _), ((((((HSL.out.2.far g52 _).far g52 _).far g52 _).far g62 _).far g62 _).far g62 _)⟩ ?_
          clear hK K
          try simp only [Act.put, List.getElem_toArray, List.getElem_cons_succ, List.getElem_cons_zero, List.setIfInBounds_toArray, List.set_cons_zero, List.set_cons_succ]
          refine wpH_done (by kernel_rfl) ?_ _
          go_wp2_with fail
          go_meet
          case rel => exact cmp_mk HZ5_u6.out HZ6_u6.out hne1 HB_u6.out (by omega) (by omega)
      · go_simp
        have hbs : (⟨#[]⟩ : ByteArray) = bs [] := rfl
        rw [hbs]
        clear hbs
        have hb : Below u1.heap.size u1 (u1.alloc (.cells #[.bool false, .string (bs []), .int .i64 0] 23)) := (Below.refl _ _).alloc (Nat.le_refl _) _
        have HZ5_u7 : Hid (ZBlk (u1.alloc (.cells #[.bool false, .string (bs []), .int .i64 0] 23)) u1.heap.size) := Lib.hid (Blk.new u1 23 _)
        have HB_u7 : Hid (Below w.heap.size w (u1.alloc (.cells #[.bool false, .string (bs []), .int .i64 0] 23))) := Lib.hid (HB_u1.out.trans (hb.mono HB_u1.out.size))
        have hgt5 : w.heap.size + 1 < u1.heap.size := HS_u1.out.2.lt
        have hlo5 : w.heap.size ≤ u1.heap.size := HB_u1.out.size
        have HS_u7 := Lib.hid (And.intro (HS_u1.out.1.below hb HS_u1.out.1.lt) (HS_u1.out.2.below hb HS_u1.out.2.lt))
        refine hK.out _ _ HS_u7.out ?_
        clear hK K hb
        generalize u1.alloc (.cells #[.bool false, .string (bs []), .int .i64 0] 23) = u7 at *
        generalize u1.heap.size = p5 at *
        try simp only [Act.put, List.getElem_toArray, List.getElem_cons_succ, List.getElem_cons_zero, List.setIfInBounds_toArray, List.set_cons_zero, List.set_cons_succ]
        refine wpH_two 3 5 (by kernel_rfl) rfl rfl (fun K hK => ?_) (fun K hK => ?_)
        · go_simp
          refine (HN2.out _).mono ?_
          rintro e u8 ⟨rfl, hb⟩
          have HZ5_u8 : Hid (ZBlk u8 p5) := Lib.hid (HZ5_u7.out.below hb HZ5_u7.out.lt)
          have HB_u8 : Hid (Below w.heap.size w u8) := Lib.hid (HB_u7.out.trans (hb.mono HB_u7.out.size))
          have HS_u8 := Lib.hid (And.intro (HS_u7.out.1.below hb HS_u7.out.1.lt) (HS_u7.out.2.below hb HS_u7.out.2.lt))
          refine hK.out _ _ HS_u8.out ?_
          clear hK K hb
          try simp only [Act.put, List.getElem_toArray, List.getElem_cons_succ, List.getElem_cons_zero, List.setIfInBounds_toArray, List.set_cons_zero, List.set_cons_succ]
          refine wpH_one 5 (by kernel_rfl) rfl (fun K hK => ?_)
          go_simp
          have hbs : (⟨#[]⟩ : ByteArray) = bs [] := rfl
          rw [hbs]
          clear hbs
          have hb : Below u8.heap.size u8 (u8.alloc (.cells #[.bool false, .string (bs []), .int .i64 0] 23)) := (Below.refl _ _).alloc (Nat.le_refl _) _
          have HZ6_u9 : Hid (ZBlk (u8.alloc (.cells #[.bool false, .string (bs []), .int .i64 0] 23)) u8.heap.size) := Lib.hid (Blk.new u8 23 _)
          have HZ5_u9 : Hid (ZBlk (u8.alloc (.cells #[.bool false, .string (bs []), .int .i64 0] 23)) p5) := Lib.hid (HZ5_u8.out.alloc _)
          have hne : p5 ≠ u8.heap.size := Nat.ne_of_lt HZ5_u8.out.lt
          have HB_u9 : Hid (Below w.heap.size w (u8.alloc (.cells #[.bool false, .string (bs []), .int .i64 0] 23))) := Lib.hid (HB_u8.out.trans (hb.mono HB_u8.out.size))
          have hgt6 : w.heap.size + 1 < u8.heap.size := HS_u8.out.2.lt
          have hlo6 : w.heap.size ≤ u8.heap.size := HB_u8.out.size
          have HS_u9 := Lib.hid (And.intro (HS_u8.out.1.below hb HS_u8.out.1.lt) (HS_u8.out.2.below hb HS_u8.out.2.lt))
          refine hK.out _ _ HS_u9.out ?_
          clear hK K hb
          generalize u8.alloc (.cells #[.bool false, .string (bs []), .int .i64 0] 23) = u9 at *
          generalize u8.heap.size = p6 at *
          try simp only [Act.put, List.getElem_toArray, List.getElem_cons_succ, List.getElem_cons_zero, List.setIfInBounds_toArray, List.set_cons_zero, List.set_cons_succ]
          have z50 : u9.frozen? ⟨p5, 0, none⟩ = false := HZ5_u9.out.frozen 0
          have z51 : u9.frozen? ⟨p5, 1, none⟩ = false := HZ5_u9.out.frozen 1
          have z52 : u9.frozen? ⟨p5, 2, none⟩ = false := HZ5_u9.out.frozen 2
          have z60 : u9.frozen? ⟨p6, 0, none⟩ = false := HZ6_u9.out.frozen 0
          have z61 : u9.frozen? ⟨p6, 1, none⟩ = false := HZ6_u9.out.frozen 1
          have z62 : u9.frozen? ⟨p6, 2, none⟩ = false := HZ6_u9.out.frozen 2
          have c50 : u9.cell? ⟨p5, 0, none⟩ = some (.bool false) := HZ5_u9.out.cell 0
          have c51 : u9.cell? ⟨p5, 1, none⟩ = some (.string (bs [])) := HZ5_u9.out.cell 1
          have c52 : u9.cell? ⟨p5, 2, none⟩ = some (.int .i64 0) := HZ5_u9.out.cell 2
          have c60 : u9.cell? ⟨p6, 0, none⟩ = some (.bool false) := HZ6_u9.out.cell 0
          have c61 : u9.cell? ⟨p6, 1, none⟩ = some (.string (bs [])) := HZ6_u9.out.cell 1
          have c62 : u9.cell? ⟨p6, 2, none⟩ = some (.int .i64 0) := HZ6_u9.out.cell 2
          have hne1 : p5 ≠ p6 := by omega
          have hne2 : p6 ≠ p5 := by omega
          have HSL := Lib.hid HS_u9.out
          have g51 : w.heap.size ≠ p5 := by omega
          have g52 : w.heap.size + 1 ≠ p5 := by omega
          have g61 : w.heap.size ≠ p6 := by omega
          have g62 : w.heap.size + 1 ≠ p6 := by omega
          refine wpH_one 6 (by kernel_rfl) rfl (fun K hK => ?_)
          go_simp
          refine hK.out _ _ ⟨((HSL.out.1.far g51 _).far g51 _).far g51 _, ((HSL.out.2.far g52 _).far g52 _).far g52 _⟩ ?_
          clear hK K
          try simp only [Act.put, List.getElem_toArray, List.getElem_cons_succ, List.getElem_cons_zero, List.setIfInBounds_toArray, List.set_cons_zero, List.set_cons_succ]
          refine wpH_one 7 (by kernel_rfl) rfl (fun K hK => ?_)
          go_simp
          refine hK.out _ _ ⟨((((((HSL.out.1.far g51 _).far g51 _).far g51 _).far g61 _).far g61 _).far g61 _), ((((((HSL.out.2.far g52 _).far g52 _).far g52 _).far g62 _).far g62 _).far g62 _)⟩ ?_
          clear hK K
          try simp only [Act.put, List.getElem_toArray, List.getElem_cons_succ, List.getElem_cons_zero, List.setIfInBounds_toArray, List.set_cons_zero, List.set_cons_succ]
          refine wpH_done (by kernel_rfl) ?_ _
          go_wp2_with fail
          go_meet
          case rel => exact cmp_mk HZ5_u9.out HZ6_u9.out hne1 HB_u9.out (by omega) (by omega)
        · go_simp
          have hbs : (⟨#[]⟩ : ByteArray) = bs [] := rfl
          rw [hbs]
          clear hbs
          have hb : Below u7.heap.size u7 (u7.alloc (.cells #[.bool false, .string (bs []), .int .i64 0] 23)) := (Below.refl _ _).alloc (Nat.le_refl _) _
          have HZ6_u10 : Hid (ZBlk (u7.alloc (.cells #[.bool false, .string (bs []), .int .i64 0] 23)) u7.heap.size) := Lib.hid (Blk.new u7 23 _)
          have HZ5_u10 : Hid (ZBlk (u7.alloc (.cells #[.bool false, .string (bs []), .int .i64 0] 23)) p5) := Lib.hid (HZ5_u7.out.alloc _)
          have hne : p5 ≠ u7.heap.size := Nat.ne_of_lt HZ5_u7.out.lt
          have HB_u10 : Hid (Below w.heap.size w (u7.alloc (.cells #[.bool false, .string (bs []), .int .i64 0] 23))) := Lib.hid (HB_u7.out.trans (hb.mono HB_u7.out.size))
          have hgt6 : w.heap.size + 1 < u7.heap.size := HS_u7.out.2.lt
          have hlo6 : w.heap.size ≤ u7.heap.size := HB_u7.out.size
          have HS_u10 := Lib.hid (And.intro (HS_u7.out.1.below hb HS_u7.out.1.lt) (HS_u7.out.2.below hb HS_u7.out.2.lt))
          refine hK.out _ _ HS_u10.out ?_
          clear hK K hb
          generalize u7.alloc (.cells #[.bool false, .string (bs []), .int .i64 0] 23) = u10 at *
          generalize u7.heap.size = p6 at *
          try simp only [Act.put, List.getElem_toArray, List.getElem_cons_succ, List.getElem_cons_zero, List.setIfInBounds_toArray, List.set_cons_zero, List.set_cons_succ]
          refine wpH_one 3 (by kernel_rfl) rfl (fun K hK => ?_)
          go_simp
          refine (HN2.out _).mono ?_
          rintro e u11 ⟨rfl, hb⟩
          have HZ5_u11 : Hid (ZBlk u11 p5) := Lib.hid (HZ5_u10.out.below hb HZ5_u10.out.lt)
          have HZ6_u11 : Hid (ZBlk u11 p6) := Lib.hid (HZ6_u10.out.below hb HZ6_u10.out.lt)
          have HB_u11 : Hid (Below w.heap.size w u11) := Lib.hid (HB_u10.out.trans (hb.mono HB_u10.out.size))
          have HS_u11 := Lib.hid (And.intro (HS_u10.out.1.below hb HS_u10.out.1.lt) (HS_u10.out.2.below hb HS_u10.out.2.lt))
          refine hK.out _ _ HS_u11.out ?_
          clear hK K hb
          try simp only [Act.put, List.getElem_toArray, List.getElem_cons_succ, List.getElem_cons_zero, List.setIfInBounds_toArray, List.set_cons_zero, List.set_cons_succ]
          have z50 : u11.frozen? ⟨p5, 0, none⟩ = false := HZ5_u11.out.frozen 0
          have z51 : u11.frozen? ⟨p5, 1, none⟩ = false := HZ5_u11.out.frozen 1
          have z52 : u11.frozen? ⟨p5, 2, none⟩ = false := HZ5_u11.out.frozen 2
          have z60 : u11.frozen? ⟨p6, 0, none⟩ = false := HZ6_u11.out.frozen 0
          have z61 : u11.frozen? ⟨p6, 1, none⟩ = false := HZ6_u11.out.frozen 1
          have z62 : u11.frozen? ⟨p6, 2, none⟩ = false := HZ6_u11.out.frozen 2
          have c50 : u11.cell? ⟨p5, 0, none⟩ = some (.bool false) := HZ5_u11.out.cell 0
          have c51 : u11.cell? ⟨p5, 1, none⟩ = some (.string (bs [])) := HZ5_u11.out.cell 1
          have c52 : u11.cell? ⟨p5, 2, none⟩ = some (.int .i64 0) := HZ5_u11.out.cell 2
          have c60 : u11.cell? ⟨p6, 0, none⟩ = some (.bool false) := HZ6_u11.out.cell 0
          have c61 : u11.cell? ⟨p6, 1, none⟩ = some (.string (bs [])) := HZ6_u11.out.cell 1
          have c62 : u11.cell? ⟨p6, 2, none⟩ = some (.int .i64 0) := HZ6_u11.out.cell 2
          have hne1 : p5 ≠ p6 := by omega
          have hne2 : p6 ≠ p5 := by omega
          have HSL := Lib.hid HS_u11.out
          have g51 : w.heap.size ≠ p5 := by omega
          have g52 : w.heap.size + 1 ≠ p5 := by omega
          have g61 : w.heap.size ≠ p6 := by omega
          have g62 : w.heap.size + 1 ≠ p6 := by omega
          refine wpH_one 6 (by kernel_rfl) rfl (fun K hK => ?_)
          go_simp
          refine hK.out _ _ ⟨((HSL.out.1.far g51 _).far g51 _).far g51 _, ((HSL.out.2.far g52 _).far g52 _).far g52 _⟩ ?_
          clear hK K
          try simp only [Act.put, List.getElem_toArray, List.getElem_cons_succ, List.getElem_cons_zero, List.setIfInBounds_toArray, List.set_cons_zero, List.set_cons_succ]
          refine wpH_one 7 (by kernel_rfl) rfl (fun K hK => ?_)
          go_simp
          refine hK.out _ _ ⟨((((((HSL.out.1.far g51 _).far g51 _).far g51 _).far g61 _).far g61 _).far g61 _), ((((((HSL.out.2.far g52 _).far g52 _).far g52 _).far g62 _).far g62 _).far g62 _)⟩ ?_
          clear hK K
          try simp only [Act.put, List.getElem_toArray, List.getElem_cons_succ, List.getElem_cons_zero, List.setIfInBounds_toArray, List.set_cons_zero, List.set_cons_succ]
          refine wpH_done (by kernel_rfl) ?_ _
          go_wp2_with fail
          go_meet
          case rel => exact cmp_mk HZ5_u11.out HZ6_u11.out hne1 HB_u11.out (by omega) (by omega)
      · go_simp
        have hbs : (⟨#[]⟩ : ByteArray) = bs [] := rfl
        rw [hbs]
        clear hbs
        have hb : Below u1.heap.size u1 (u1.alloc (.cells #[.bool false, .string (bs []), .int .i64 0] 23)) := (Below.refl _ _).alloc (Nat.le_refl _) _
        have HZ6_u12 : Hid (ZBlk (u1.alloc (.cells #[.bool false, .string (bs []), .int .i64 0] 23)) u1.heap.size) := Lib.hid (Blk.new u1 23 _)
        have HB_u12 : Hid (Below w.heap.size w (u1.alloc (.cells #[.bool false, .string (bs []), .int .i64 0] 23))) := Lib.hid (HB_u1.out.trans (hb.mono HB_u1.out.size))
        have hgt6 : w.heap.size + 1 < u1.heap.size := HS_u1.out.2.lt
        have hlo6 : w.heap.size ≤ u1.heap.size := HB_u1.out.size
        have HS_u12 := Lib.hid (And.intro (HS_u1.out.1.below hb HS_u1.out.1.lt) (HS_u1.out.2.below hb HS_u1.out.2.lt))
        refine hK.out _ _ HS_u12.out ?_
        clear hK K hb
        generalize u1.alloc (.cells #[.bool false, .string (bs []), .int .i64 0] 23) = u12 at *
        generalize u1.heap.size = p6 at *
        try simp only [Act.put, List.getElem_toArray, List.getElem_cons_succ, List.getElem_cons_zero, List.setIfInBounds_toArray, List.set_cons_zero, List.set_cons_succ]
        refine wpH_two 3 4 (by kernel_rfl) rfl rfl (fun K hK => ?_) (fun K hK => ?_)
        · go_simp
          refine (HN2.out _).mono ?_
          rintro e u13 ⟨rfl, hb⟩
          have HZ6_u13 : Hid (ZBlk u13 p6) := Lib.hid (HZ6_u12.out.below hb HZ6_u12.out.lt)
          have HB_u13 : Hid (Below w.heap.size w u13) := Lib.hid (HB_u12.out.trans (hb.mono HB_u12.out.size))
          have HS_u13 := Lib.hid (And.intro (HS_u12.out.1.below hb HS_u12.out.1.lt) (HS_u12.out.2.below hb HS_u12.out.2.lt))
          refine hK.out _ _ HS_u13.out ?_
          clear hK K hb
          try simp only [Act.put, List.getElem_toArray, List.getElem_cons_succ, List.getElem_cons_zero, List.setIfInBounds_toArray, List.set_cons_zero, List.set_cons_succ]
          refine wpH_one 4 (by kernel_rfl) rfl (fun K hK => ?_)
          go_simp
          have hbs : (⟨#[]⟩ : ByteArray) = bs [] := rfl
          rw [hbs]
          clear hbs
          have hb : Below u13.heap.size u13 (u13.alloc (.cells #[.bool false, .string (bs []), .int .i64 0] 23)) := (Below.refl _ _).alloc (Nat.le_refl _) _
          have HZ5_u14 : Hid (ZBlk (u13.alloc (.cells #[.bool false, .string (bs []), .int .i64 0] 23)) u13.heap.size) := Lib.hid (Blk.new u13 23 _)
          have HZ6_u14 : Hid (ZBlk (u13.alloc (.cells #[.bool false, .string (bs []), .int .i64 0] 23)) p6) := Lib.hid (HZ6_u13.out.alloc _)
          have hne : p6 ≠ u13.heap.size := Nat.ne_of_lt HZ6_u13.out.lt
          have HB_u14 : Hid (Below w.heap.size w (u13.alloc (.cells #[.bool false, .string (bs []), .int .i64 0] 23))) := Lib.hid (HB_u13.out.trans (hb.mono HB_u13.out.size))
          have hgt5 : w.heap.size + 1 < u13.heap.size := HS_u13.out.2.lt
          have hlo5 : w.heap.size ≤ u13.heap.size := HB_u13.out.size
          have HS_u14 := Lib.hid (And.intro (HS_u13.out.1.below hb HS_u13.out.1.lt) (HS_u13.out.2.below hb HS_u13.out.2.lt))
          refine hK.out _ _ HS_u14.out ?_
          clear hK K hb
          generalize u13.alloc (.cells #[.bool false, .string (bs []), .int .i64 0] 23) = u14 at *
          generalize u13.heap.size = p5 at *
          try simp only [Act.put, List.getElem_toArray, List.getElem_cons_succ, List.getElem_cons_zero, List.setIfInBounds_toArray, List.set_cons_zero, List.set_cons_succ]
          have z50 : u14.frozen? ⟨p5, 0, none⟩ = false := HZ5_u14.out.frozen 0
          have z51 : u14.frozen? ⟨p5, 1, none⟩ = false := HZ5_u14.out.frozen 1
          have z52 : u14.frozen? ⟨p5, 2, none⟩ = false := HZ5_u14.out.frozen 2
          have z60 : u14.frozen? ⟨p6, 0, none⟩ = false := HZ6_u14.out.frozen 0
          have z61 : u14.frozen? ⟨p6, 1, none⟩ = false := HZ6_u14.out.frozen 1
          have z62 : u14.frozen? ⟨p6, 2, none⟩ = false := HZ6_u14.out.frozen 2
          have c50 : u14.cell? ⟨p5, 0, none⟩ = some (.bool false) := HZ5_u14.out.cell 0
          have c51 : u14.cell? ⟨p5, 1, none⟩ = some (.string (bs [])) := HZ5_u14.out.cell 1
          have c52 : u14.cell? ⟨p5, 2, none⟩ = some (.int .i64 0) := HZ5_u14.out.cell 2
          have c60 : u14.cell? ⟨p6, 0, none⟩ = some (.bool false) := HZ6_u14.out.cell 0
          have c61 : u14.cell? ⟨p6, 1, none⟩ = some (.string (bs [])) := HZ6_u14.out.cell 1
          have c62 : u14.cell? ⟨p6, 2, none⟩ = some (.int .i64 0) := HZ6_u14.out.cell 2
          have hne1 : p5 ≠ p6 := by omega
          have hne2 : p6 ≠ p5 := by omega
          have HSL := Lib.hid HS_u14.out
          have g51 : w.heap.size ≠ p5 := by omega
          have g52 : w.heap.size + 1 ≠ p5 := by omega
          have g61 : w.heap.size ≠ p6 := by omega
          have g62 : w.heap.size + 1 ≠ p6 := by omega
          refine wpH_one 6 (by kernel_rfl) rfl (fun K hK => ?_)
          go_simp
          refine hK.out _ _ ⟨((HSL.out.1.far g51 _).far g51 _).far g51 _, ((HSL.out.2.far g52 _).far g52 _).far g52 _⟩ ?_
          clear hK K
          try simp only [Act.put, List.getElem_toArray, List.getElem_cons_succ, List.getElem_cons_zero, List.setIfInBounds_toArray, List.set_cons_zero, List.set_cons_succ]
          refine wpH_one 7 (by kernel_rfl) rfl (fun K hK => ?_)
          go_simp
          refine hK.out _ _ ⟨((((((HSL.out.1.far g51 _).far g51 _).far g51 _).far g61 _).far g61 _).far g61 _), ((((((HSL.out.2.far g52 _).far g52 _).far g52 _).far g62 _).far g62 _).far g62 _)⟩ ?_
          clear hK K
          try simp only [Act.put, List.getElem_toArray, List.getElem_cons_succ, List.getElem_cons_zero, List.setIfInBounds_toArray, List.set_cons_zero, List.set_cons_succ]
          refine wpH_done (by kernel_rfl) ?_ _
          go_wp2_with fail
          go_meet
          case rel => exact cmp_mk HZ5_u14.out HZ6_u14.out hne1 HB_u14.out (by omega) (by omega)
        · go_simp
          have hbs : (⟨#[]⟩ : ByteArray) = bs [] := rfl
          rw [hbs]
          clear hbs
          have hb : Below u12.heap.size u12 (u12.alloc (.cells #[.bool false, .string (bs []), .int .i64 0] 23)) := (Below.refl _ _).alloc (Nat.le_refl _) _
          have HZ5_u15 : Hid (ZBlk (u12.alloc (.cells #[.bool false, .string (bs []), .int .i64 0] 23)) u12.heap.size) := Lib.hid (Blk.new u12 23 _)
          have HZ6_u15 : Hid (ZBlk (u12.alloc (.cells #[.bool false, .string (bs []), .int .i64 0] 23)) p6) := Lib.hid (HZ6_u12.out.alloc _)
          have hne : p6 ≠ u12.heap.size := Nat.ne_of_lt HZ6_u12.out.lt
          have HB_u15 : Hid (Below w.heap.size w (u12.alloc (.cells #[.bool false, .string (bs []), .int .i64 0] 23))) := Lib.hid (HB_u12.out.trans (hb.mono HB_u12.out.size))
          have hgt5 : w.heap.size + 1 < u12.heap.size := HS_u12.out.2.lt
          have hlo5 : w.heap.size ≤ u12.heap.size := HB_u12.out.size
          have HS_u15 := Lib.hid (And.intro (HS_u12.out.1.below hb HS_u12.out.1.lt) (HS_u12.out.2.below hb HS_u12.out.2.lt))
          refine hK.out _ _ HS_u15.out ?_
          clear hK K hb
          generalize u12.alloc (.cells #[.bool false, .string (bs []), .int .i64 0] 23) = u15 at *
          generalize u12.heap.size = p5 at *
          try simp only [Act.put, List.getElem_toArray, List.getElem_cons_succ, List.getElem_cons_zero, List.setIfInBounds_toArray, List.set_cons_zero, List.set_cons_succ]
          refine wpH_one 3 (by kernel_rfl) rfl (fun K hK => ?_)
          go_simp
          refine (HN2.out _).mono ?_
          rintro e u16 ⟨rfl, hb⟩
          have HZ6_u16 : Hid (ZBlk u16 p6) := Lib.hid (HZ6_u15.out.below hb HZ6_u15.out.lt)
          have HZ5_u16 : Hid (ZBlk u16 p5) := Lib.hid (HZ5_u15.out.below hb HZ5_u15.out.lt)
          have HB_u16 : Hid (Below w.heap.size w u16) := Lib.hid (HB_u15.out.trans (hb.mono HB_u15.out.size))
          have HS_u16 := Lib.hid (And.intro (HS_u15.out.1.below hb HS_u15.out.1.lt) (HS_u15.out.2.below hb HS_u15.out.2.lt))
          refine hK.out _ _ HS_u16.out ?_
          clear hK K hb
          try simp only [Act.put, List.getElem_toArray, List.getElem_cons_succ, List.getElem_cons_zero, List.setIfInBounds_toArray, List.set_cons_zero, List.set_cons_succ]
          have z50 : u16.frozen? ⟨p5, 0, none⟩ = false := HZ5_u16.out.frozen 0
          have z51 : u16.frozen? ⟨p5, 1, none⟩ = false := HZ5_u16.out.frozen 1
          have z52 : u16.frozen? ⟨p5, 2, none⟩ = false := HZ5_u16.out.frozen 2
          have z60 : u16.frozen? ⟨p6, 0, none⟩ = false := HZ6_u16.out.frozen 0
          have z61 : u16.frozen? ⟨p6, 1, none⟩ = false := HZ6_u16.out.frozen 1
          have z62 : u16.frozen? ⟨p6, 2, none⟩ = false := HZ6_u16.out.frozen 2
          have c50 : u16.cell? ⟨p5, 0, none⟩ = some (.bool false) := HZ5_u16.out.cell 0
          have c51 : u16.cell? ⟨p5, 1, none⟩ = some (.string (bs [])) := HZ5_u16.out.cell 1
          have c52 : u16.cell? ⟨p5, 2, none⟩ = some (.int .i64 0) := HZ5_u16.out.cell 2
          have c60 : u16.cell? ⟨p6, 0, none⟩ = some (.bool false) := HZ6_u16.out.cell 0
          have c61 : u16.cell? ⟨p6, 1, none⟩ = some (.string (bs [])) := HZ6_u16.out.cell 1
          have c62 : u16.cell? ⟨p6, 2, none⟩ = some (.int .i64 0) := HZ6_u16.out.cell 2
          have hne1 : p5 ≠ p6 := by omega
          have hne2 : p6 ≠ p5 := by omega
          have HSL := Lib.hid HS_u16.out
          have g51 : w.heap.size ≠ p5 := by omega
          have g52 : w.heap.size + 1 ≠ p5 := by omega
          have g61 : w.heap.size ≠ p6 := by omega
          have g62 : w.heap.size + 1 ≠ p6 := by omega
          refine wpH_one 6 (by kernel_rfl) rfl (fun K hK => ?_)
          go_simp
          refine hK.out _ _ ⟨((HSL.out.1.far g51 _).far g51 _).far g51 _, ((HSL.out.2.far g52 _).far g52 _).far g52 _⟩ ?_
          clear hK K
          try simp only [Act.put, List.getElem_toArray, List.getElem_cons_succ, List.getElem_cons_zero, List.setIfInBounds_toArray, List.set_cons_zero, List.set_cons_succ]
          refine wpH_one 7 (by kernel_rfl) rfl (fun K hK => ?_)
          go_simp
          refine hK.out _ _ ⟨((((((HSL.out.1.far g51 _).far g51 _).far g51 _).far g61 _).far g61 _).far g61 _), ((((((HSL.out.2.far g52 _).far g52 _).far g52 _).far g62 _).far g62 _).far g62 _)⟩ ?_
          clear hK K
          try simp only [Act.put, List.getElem_toArray, List.getElem_cons_succ, List.getElem_cons_zero, List.setIfInBounds_toArray, List.set_cons_zero, List.set_cons_succ]
          refine wpH_done (by kernel_rfl) ?_ _
          go_wp2_with fail
          go_meet
          case rel => exact cmp_mk HZ5_u16.out HZ6_u16.out hne1 HB_u16.out (by omega) (by omega)
    · go_simp
      have hbs : (⟨#[]⟩ : ByteArray) = bs [] := rfl
      rw [hbs]
      clear hbs
      have hb : Below w1.heap.size w1 (w1.alloc (.cells #[.bool false, .string (bs []), .int .i64 0] 23)) := (Below.refl _ _).alloc (Nat.le_refl _) _
      have HZ5_u17 : Hid (ZBlk (w1.alloc (.cells #[.bool false, .string (bs []), .int .i64 0] 23)) w1.heap.size) := Lib.hid (Blk.new w1 23 _)
      have HB_u17 : Hid (Below w.heap.size w (w1.alloc (.cells #[.bool false, .string (bs []), .int .i64 0] 23))) := Lib.hid (HB1.out.trans (hb.mono HB1.out.size))
      have hgt5 : w.heap.size + 1 < w1.heap.size := HS1.out.2.lt
      have hlo5 : w.heap.size ≤ w1.heap.size := HB1.out.size
      have HS_u17 := Lib.hid (And.intro (HS1.out.1.below hb HS1.out.1.lt) (HS1.out.2.below hb HS1.out.2.lt))
      refine hK.out _ _ HS_u17.out ?_
      clear hK K hb
      generalize w1.alloc (.cells #[.bool false, .string (bs []), .int .i64 0] 23) = u17 at *
      generalize w1.heap.size = p5 at *
      try simp only [Act.put, List.getElem_toArray, List.getElem_cons_succ, List.getElem_cons_zero, List.setIfInBounds_toArray, List.set_cons_zero, List.set_cons_succ]
      refine wpH_two 1 5 (by kernel_rfl) rfl rfl (fun K hK => ?_) (fun K hK => ?_)
      · go_simp
        refine (HN1.out _).mono ?_
        rintro e u18 ⟨rfl, hb⟩
        have HZ5_u18 : Hid (ZBlk u18 p5) := Lib.hid (HZ5_u17.out.below hb HZ5_u17.out.lt)
        have HB_u18 : Hid (Below w.heap.size w u18) := Lib.hid (HB_u17.out.trans (hb.mono HB_u17.out.size))
        have HS_u18 := Lib.hid (And.intro (HS_u17.out.1.below hb HS_u17.out.1.lt) (HS_u17.out.2.below hb HS_u17.out.2.lt))
        refine hK.out _ _ HS_u18.out ?_
        clear hK K hb
        try simp only [Act.put, List.getElem_toArray, List.getElem_cons_succ, List.getElem_cons_zero, List.setIfInBounds_toArray, List.set_cons_zero, List.set_cons_succ]
        refine wpH_two 3 5 (by kernel_rfl) rfl rfl (fun K hK => ?_) (fun K hK => ?_)
        · go_simp
          refine (HN2.out _).mono ?_
          rintro e u19 ⟨rfl, hb⟩
          have HZ5_u19 : Hid (ZBlk u19 p5) := Lib.hid (HZ5_u18.out.below hb HZ5_u18.out.lt)
          have HB_u19 : Hid (Below w.heap.size w u19) := Lib.hid (HB_u18.out.trans (hb.mono HB_u18.out.size))
          have HS_u19 := Lib.hid (And.intro (HS_u18.out.1.below hb HS_u18.out.1.lt) (HS_u18.out.2.below hb HS_u18.out.2.lt))
          refine hK.out _ _ HS_u19.out ?_
          clear hK K hb
          try simp only [Act.put, List.getElem_toArray, List.getElem_cons_succ, List.getElem_cons_zero, List.setIfInBounds_toArray, List.set_cons_zero, List.set_cons_succ]
          refine wpH_one 5 (by kernel_rfl) rfl (fun K hK => ?_)
          go_simp
          have hbs : (⟨#[]⟩ : ByteArray) = bs [] := rfl
          rw [hbs]
          clear hbs
          have hb : Below u19.heap.size u19 (u19.alloc (.cells #[.bool false, .string (bs []), .int .i64 0] 23)) := (Below.refl _ _).alloc (Nat.le_refl _) _
          have HZ6_u20 : Hid (ZBlk (u19.alloc (.cells #[.bool false, .string (bs []), .int .i64 0] 23)) u19.heap.size) := Lib.hid (Blk.new u19 23 _)
          have HZ5_u20 : Hid (ZBlk (u19.alloc (.cells #[.bool false, .string (bs []), .int .i64 0] 23)) p5) := Lib.hid (HZ5_u19.out.alloc _)
          have hne : p5 ≠ u19.heap.size := Nat.ne_of_lt HZ5_u19.out.lt
          have HB_u20 : Hid (Below w.heap.size w (u19.alloc (.cells #[.bool false, .string (bs []), .int .i64 0] 23))) := Lib.hid (HB_u19.out.trans (hb.mono HB_u19.out.size))
          have hgt6 : w.heap.size + 1 < u19.heap.size := HS_u19.out.2.lt
          have hlo6 : w.heap.size ≤ u19.heap.size := HB_u19.out.size
          have HS_u20 := Lib.hid (And.intro (HS_u19.out.1.below hb HS_u19.out.1.lt) (HS_u19.out.2.below hb HS_u19.out.2.lt))
          refine hK.out _ _ HS_u20.out ?_
          clear hK K hb
          generalize u19.alloc (.cells #[.bool false, .string (bs []), .int .i64 0] 23) = u20 at *
          generalize u19.heap.size = p6 at *
          try simp only [Act.put, List.getElem_toArray, List.getElem_cons_succ, List.getElem_cons_zero, List.setIfInBounds_toArray, List.set_cons_zero, List.set_cons_succ]
          have z50 : u20.frozen? ⟨p5, 0, none⟩ = false := HZ5_u20.out.frozen 0
          have z51 : u20.frozen? ⟨p5, 1, none⟩ = false := HZ5_u20.out.frozen 1
          have z52 : u20.frozen? ⟨p5, 2, none⟩ = false := HZ5_u20.out.frozen 2
          have z60 : u20.frozen? ⟨p6, 0, none⟩ = false := HZ6_u20.out.frozen 0
          have z61 : u20.frozen? ⟨p6, 1, none⟩ = false := HZ6_u20.out.frozen 1
          have z62 : u20.frozen? ⟨p6, 2, none⟩ = false := HZ6_u20.out.frozen 2
          have c50 : u20.cell? ⟨p5, 0, none⟩ = some (.bool false) := HZ5_u20.out.cell 0
          have c51 : u20.cell? ⟨p5, 1, none⟩ = some (.string (bs [])) := HZ5_u20.out.cell 1
          have c52 : u20.cell? ⟨p5, 2, none⟩ = some (.int .i64 0) := HZ5_u20.out.cell 2
          have c60 : u20.cell? ⟨p6, 0, none⟩ = some (.bool false) := HZ6_u20.out.cell 0
          have c61 : u20.cell? ⟨p6, 1, none⟩ = some (.string (bs [])) := HZ6_u20.out.cell 1
          have c62 : u20.cell? ⟨p6, 2, none⟩ = some (.int .i64 0) := HZ6_u20.out.cell 2
          have hne1 : p5 ≠ p6 := by omega
          have hne2 : p6 ≠ p5 := by omega
          have HSL := Lib.hid HS_u20.out
          have g51 : w.heap.size ≠ p5 := by omega
          have g52 : w.heap.size + 1 ≠ p5 := by omega
          have g61 : w.heap.size ≠ p6 := by omega
          have g62 : w.heap.size + 1 ≠ p6 := by omega
          refine wpH_one 6 (by kernel_rfl) rfl (fun K hK => ?_)
          go_simp
          refine hK.out _ _ ⟨((HSL.out.1.far g51 _).far g51 _).far g51 _, ((HSL.out.2.far g52 _).far g52 _).far g52 _⟩ ?_
          clear hK K
          try simp only [Act.put, List.getElem_toArray, List.getElem_cons_succ, List.getElem_cons_zero, List.setIfInBounds_toArray, List.set_cons_zero, List.set_cons_succ]
          refine wpH_one 7 (by kernel_rfl) rfl (fun K hK => ?_)
          go_simp
          refine hK.out _ _ ⟨((((((HSL.out.1.far g51 _).far g51 _).far g51 _).far g61 _).far g61 _).far g61 _), ((((((HSL.out.2.far g52 _).far g52 _).far g52 _).far g62 _).far g62 _).far g62 _)⟩ ?_
          clear hK K
          try simp only [Act.put, List.getElem_toArray, List.getElem_cons_succ, List.getElem_cons_zero, List.setIfInBounds_toArray, List.set_cons_zero, List.set_cons_succ]
          refine wpH_done (by kernel_rfl) ?_ _
          go_wp2_with fail
          go_meet
          case rel => exact cmp_mk HZ5_u20.out HZ6_u20.out hne1 HB_u20.out (by omega) (by omega)
        · go_simp
          have hbs : (⟨#[]⟩ : ByteArray) = bs [] := rfl
          rw [hbs]
          clear hbs
          have hb : Below u18.heap.size u18 (u18.alloc (.cells #[.bool false, .string (bs []), .int .i64 0] 23)) := (Below.refl _ _).alloc (Nat.le_refl _) _
          have HZ6_u21 : Hid (ZBlk (u18.alloc (.cells #[.bool false, .string (bs []), .int .i64 0] 23)) u18.heap.size) := Lib.hid (Blk.new u18 23 _)
          have HZ5_u21 : Hid (ZBlk (u18.alloc (.cells #[.bool false, .string (bs []), .int .i64 0] 23)) p5) := Lib.hid (HZ5_u18.out.alloc _)
          have hne : p5 ≠ u18.heap.size := Nat.ne_of_lt HZ5_u18.out.lt
          have HB_u21 : Hid (Below w.heap.size w (u18.alloc (.cells #[.bool false, .string (bs []), .int .i64 0] 23))) := Lib.hid (HB_u18.out.trans (hb.mono HB_u18.out.size))
          have hgt6 : w.heap.size + 1 < u18.heap.size := HS_u18.out.2.lt
          have hlo6 : w.heap.size ≤ u18.heap.size := HB_u18.out.size
          have HS_u21 := Lib.hid (And.intro (HS_u18.out.1.below hb HS_u18.out.1.lt) (HS_u18.out.2.below hb HS_u18.out.2.lt))
          refine hK.out _ _ HS_u21.out ?_
          clear hK K hb
          generalize u18.alloc (.cells #[.bool false, .string (bs []), .int .i64 0] 23) = u21 at *
          generalize u18.heap.size = p6 at *
          try simp only [Act.put, List.getElem_toArray, List.getElem_cons_succ, List.getElem_cons_zero, List.setIfInBounds_toArray, List.set_cons_zero, List.set_cons_succ]
          refine wpH_one 3 (by kernel_rfl) rfl (fun K hK => ?_)
          go_simp
          refine (HN2.out _).mono ?_
          rintro e u22 ⟨rfl, hb⟩
          have HZ5_u22 : Hid (ZBlk u22 p5) := Lib.hid (HZ5_u21.out.below hb HZ5_u21.out.lt)
          have HZ6_u22 : Hid (ZBlk u22 p6) := Lib.hid (HZ6_u21.out.below hb HZ6_u21.out.lt)
          have HB_u22 : Hid (Below w.heap.size w u22) := Lib.hid (HB_u21.out.trans (hb.mono HB_u21.out.size))
          have HS_u22 := Lib.hid (And.intro (HS_u21.out.1.below hb HS_u21.out.1.lt) (HS_u21.out.2.below hb HS_u21.out.2.lt))
          refine hK.out _ _ HS_u22.out ?_
          clear hK K hb
          try simp only [Act.put, List.getElem_toArray, List.getElem_cons_succ, List.getElem_cons_zero, List.setIfInBounds_toArray, List.set_cons_zero, List.set_cons_succ]
          have z50 : u22.frozen? ⟨p5, 0, none⟩ = false := HZ5_u22.out.frozen 0
          have z51 : u22.frozen? ⟨p5, 1, none⟩ = false := HZ5_u22.out.frozen 1
          have z52 : u22.frozen? ⟨p5, 2, none⟩ = false := HZ5_u22.out.frozen 2
          have z60 : u22.frozen? ⟨p6, 0, none⟩ = false := HZ6_u22.out.frozen 0
          have z61 : u22.frozen? ⟨p6, 1, none⟩ = false := HZ6_u22.out.frozen 1
          have z62 : u22.frozen? ⟨p6, 2, none⟩ = false := HZ6_u22.out.frozen 2
          have c50 : u22.cell? ⟨p5, 0, none⟩ = some (.bool false) := HZ5_u22.out.cell 0
          have c51 : u22.cell? ⟨p5, 1, none⟩ = some (.string (bs [])) := HZ5_u22.out.cell 1
          have c52 : u22.cell? ⟨p5, 2, none⟩ = some (.int .i64 0) := HZ5_u22.out.cell 2
          have c60 : u22.cell? ⟨p6, 0, none⟩ = some (.bool false) := HZ6_u22.out.cell 0
          have c61 : u22.cell? ⟨p6, 1, none⟩ = some (.string (bs [])) := HZ6_u22.out.cell 1
          have c62 : u22.cell? ⟨p6, 2, none⟩ = some (.int .i64 0) := HZ6_u22.out.cell 2
          have hne1 : p5 ≠ p6 := by omega
          have hne2 : p6 ≠ p5 := by omega
          have HSL := Lib.hid HS_u22.out
          have g51 : w.heap.size ≠ p5 := by omega
          have g52 : w.heap.size + 1 ≠ p5 := by omega
          have g61 : w.heap.size ≠ p6 := by omega
          have g62 : w.heap.size + 1 ≠ p6 := by omega
          refine wpH_one 6 (by kernel_rfl) rfl (fun K hK => ?_)
          go_simp
          refine hK.out _ _ ⟨((HSL.out.1.far g51 _).far g51 _).far g51 _, ((HSL.out.2.far g52 _).far g52 _).far g52 _⟩ ?_
          clear hK K
          try simp only [Act.put, List.getElem_toArray, List.getElem_cons_succ, List.getElem_cons_zero, List.setIfInBounds_toArray, List.set_cons_zero, List.set_cons_succ]
          refine wpH_one 7 (by kernel_rfl) rfl (fun K hK => ?_)
          go_simp
          refine hK.out _ _ ⟨((((((HSL.out.1.far g51 _).far g51 _).far g51 _).far g61 _).far g61 _).far g61 _), ((((((HSL.out.2.far g52 _).far g52 _).far g52 _).far g62 _).far g62 _).far g62 _)⟩ ?_
          clear hK K
          try simp only [Act.put, List.getElem_toArray, List.getElem_cons_succ, List.getElem_cons_zero, List.setIfInBounds_toArray, List.set_cons_zero, List.set_cons_succ]
          refine wpH_done (by kernel_rfl) ?_ _
          go_wp2_with fail
          go_meet
          case rel => exact cmp_mk HZ5_u22.out HZ6_u22.out hne1 HB_u22.out (by omega) (by omega)
      · go_simp
        have hbs : (⟨#[]⟩ : ByteArray) = bs [] := rfl
        rw [hbs]
        clear hbs
        have hb : Below u17.heap.size u17 (u17.alloc (.cells #[.bool false, .string (bs []), .int .i64 0] 23)) := (Below.refl _ _).alloc (Nat.le_refl _) _
        have HZ6_u23 : Hid (ZBlk (u17.alloc (.cells #[.bool false, .string (bs []), .int .i64 0] 23)) u17.heap.size) := Lib.hid (Blk.new u17 23 _)
        have HZ5_u23 : Hid (ZBlk (u17.alloc (.cells #[.bool false, .string (bs []), .int .i64 0] 23)) p5) := Lib.hid (HZ5_u17.out.alloc _)
        have hne : p5 ≠ u17.heap.size := Nat.ne_of_lt HZ5_u17.out.lt
        have HB_u23 : Hid (Below w.heap.size w (u17.alloc (.cells #[.bool false, .string (bs []), .int .i64 0] 23))) := Lib.hid (HB_u17.out.trans (hb.mono HB_u17.out.size))
        have hgt6 : w.heap.size + 1 < u17.heap.size := HS_u17.out.2.lt
        have hlo6 : w.heap.size ≤ u17.heap.size := HB_u17.out.size
        have HS_u23 := Lib.hid (And.intro (HS_u17.out.1.below hb HS_u17.out.1.lt) (HS_u17.out.2.below hb HS_u17.out.2.lt))
        refine hK.out _ _ HS_u23.out ?_
        clear hK K hb
        generalize u17.alloc (.cells #[.bool false, .string (bs []), .int .i64 0] 23) = u23 at *
        generalize u17.heap.size = p6 at *
        try simp only [Act.put, List.getElem_toArray, List.getElem_cons_succ, List.getElem_cons_zero, List.setIfInBounds_toArray, List.set_cons_zero, List.set_cons_succ]
        refine wpH_one 1 (by kernel_rfl) rfl (fun K hK => ?_)
        go_simp
        refine (HN1.out _).mono ?_
        rintro e u24 ⟨rfl, hb⟩
        have HZ5_u24 : Hid (ZBlk u24 p5) := Lib.hid (HZ5_u23.out.below hb HZ5_u23.out.lt)
        have HZ6_u24 : Hid (ZBlk u24 p6) := Lib.hid (HZ6_u23.out.below hb HZ6_u23.out.lt)
        have HB_u24 : Hid (Below w.heap.size w u24) := Lib.hid (HB_u23.out.trans (hb.mono HB_u23.out.size))
        have HS_u24 := Lib.hid (And.intro (HS_u23.out.1.below hb HS_u23.out.1.lt) (HS_u23.out.2.below hb HS_u23.out.2.lt))
        refine hK.out _ _ HS_u24.out ?_
        clear hK K hb
        try simp only [Act.put, List.getElem_toArray, List.getElem_cons_succ, List.getElem_cons_zero, List.setIfInBounds_toArray, List.set_cons_zero, List.set_cons_succ]
        refine wpH_one 3 (by kernel_rfl) rfl (fun K hK => ?_)
        go_simp
        refine (HN2.out _).mono ?_
        rintro e u25 ⟨rfl, hb⟩
        have HZ5_u25 : Hid (ZBlk u25 p5) := Lib.hid (HZ5_u24.out.below hb HZ5_u24.out.lt)
        have HZ6_u25 : Hid (ZBlk u25 p6) := Lib.hid (HZ6_u24.out.below hb HZ6_u24.out.lt)
        have HB_u25 : Hid (Below w.heap.size w u25) := Lib.hid (HB_u24.out.trans (hb.mono HB_u24.out.size))
        have HS_u25 := Lib.hid (And.intro (HS_u24.out.1.below hb HS_u24.out.1.lt) (HS_u24.out.2.below hb HS_u24.out.2.lt))
        refine hK.out _ _ HS_u25.out ?_
        clear hK K hb
        try simp only [Act.put, List.getElem_toArray, List.getElem_cons_succ, List.getElem_cons_zero, List.setIfInBounds_toArray, List.set_cons_zero, List.set_cons_succ]
        have z50 : u25.frozen? ⟨p5, 0, none⟩ = false := HZ5_u25.out.frozen 0
        have z51 : u25.frozen? ⟨p5, 1, none⟩ = false := HZ5_u25.out.frozen 1
        have z52 : u25.frozen? ⟨p5, 2, none⟩ = false := HZ5_u25.out.frozen 2
        have z60 : u25.frozen? ⟨p6, 0, none⟩ = false := HZ6_u25.out.frozen 0
        have z61 : u25.frozen? ⟨p6, 1, none⟩ = false := HZ6_u25.out.frozen 1
        have z62 : u25.frozen? ⟨p6, 2, none⟩ = false := HZ6_u25.out.frozen 2
        have c50 : u25.cell? ⟨p5, 0, none⟩ = some (.bool false) := HZ5_u25.out.cell 0
        have c51 : u25.cell? ⟨p5, 1, none⟩ = some (.string (bs [])) := HZ5_u25.out.cell 1
        have c52 : u25.cell? ⟨p5, 2, none⟩ = some (.int .i64 0) := HZ5_u25.out.cell 2
        have c60 : u25.cell? ⟨p6, 0, none⟩ = some (.bool false) := HZ6_u25.out.cell 0
        have c61 : u25.cell? ⟨p6, 1, none⟩ = some (.string (bs [])) := HZ6_u25.out.cell 1
        have c62 : u25.cell? ⟨p6, 2, none⟩ = some (.int .i64 0) := HZ6_u25.out.cell 2
        have hne1 : p5 ≠ p6 := by omega
        have hne2 : p6 ≠ p5 := by omega
        have HSL := Lib.hid HS_u25.out
        have g51 : w.heap.size ≠ p5 := by omega
        have g52 : w.heap.size + 1 ≠ p5 := by omega
        have g61 : w.heap.size ≠ p6 := by omega
        have g62 : w.heap.size + 1 ≠ p6 := by omega
        refine wpH_one 6 (by kernel_rfl) rfl (fun K hK => ?_)
        go_simp
        refine hK.out _ _ ⟨((HSL.out.1.far g51 _).far g51 _).far g51 _, ((HSL.out.2.far g52 _).far g52 _).far g52 _⟩ ?_
        clear hK K
        try simp only [Act.put, List.getElem_toArray, List.getElem_cons_succ, List.getElem_cons_zero, List.setIfInBounds_toArray, List.set_cons_zero, List.set_cons_succ]
        refine wpH_one 7 (by kernel_rfl) rfl (fun K hK => ?_)
        go_simp
        refine hK.out _ _ ⟨((((((HSL.out.1.far g51 _).far g51 _).far g51 _).far g61 _).far g61 _).far g61 _), ((((((HSL.out.2.far g52 _).far g52 _).far g52 _).far g62 _).far g62 _).far g62 _)⟩ ?_
        clear hK K
        try simp only [Act.put, List.getElem_toArray, List.getElem_cons_succ, List.getElem_cons_zero, List.setIfInBounds_toArray, List.set_cons_zero, List.set_cons_succ]
        refine wpH_done (by kernel_rfl) ?_ _
        go_wp2_with fail
        go_meet
        case rel => exact cmp_mk HZ5_u25.out HZ6_u25.out hne1 HB_u25.out (by omega) (by omega)
    · go_simp
      have hbs : (⟨#[]⟩ : ByteArray) = bs [] := rfl
      rw [hbs]
      clear hbs
      have hb : Below w1.heap.size w1 (w1.alloc (.cells #[.bool false, .string (bs []), .int .i64 0] 23)) := (Below.refl _ _).alloc (Nat.le_refl _) _
      have HZ6_u26 : Hid (ZBlk (w1.alloc (.cells #[.bool false, .string (bs []), .int .i64 0] 23)) w1.heap.size) := Lib.hid (Blk.new w1 23 _)
      have HB_u26 : Hid (Below w.heap.size w (w1.alloc (.cells #[.bool false, .string (bs []), .int .i64 0] 23))) := Lib.hid (HB1.out.trans (hb.mono HB1.out.size))
      have hgt6 : w.heap.size + 1 < w1.heap.size := HS1.out.2.lt
      have hlo6 : w.heap.size ≤ w1.heap.size := HB1.out.size
      have HS_u26 := Lib.hid (And.intro (HS1.out.1.below hb HS1.out.1.lt) (HS1.out.2.below hb HS1.out.2.lt))
      refine hK.out _ _ HS_u26.out ?_
      clear hK K hb
      generalize w1.alloc (.cells #[.bool false, .string (bs []), .int .i64 0] 23) = u26 at *
      generalize w1.heap.size = p6 at *
      try simp only [Act.put, List.getElem_toArray, List.getElem_cons_succ, List.getElem_cons_zero, List.setIfInBounds_toArray, List.set_cons_zero, List.set_cons_succ]
      refine wpH_two 1 4 (by kernel_rfl) rfl rfl (fun K hK => ?_) (fun K hK => ?_)
      · go_simp
        refine (HN1.out _).mono ?_
        rintro e u27 ⟨rfl, hb⟩
        have HZ6_u27 : Hid (ZBlk u27 p6) := Lib.hid (HZ6_u26.out.below hb HZ6_u26.out.lt)
        have HB_u27 : Hid (Below w.heap.size w u27) := Lib.hid (HB_u26.out.trans (hb.mono HB_u26.out.size))
        have HS_u27 := Lib.hid (And.intro (HS_u26.out.1.below hb HS_u26.out.1.lt) (HS_u26.out.2.below hb HS_u26.out.2.lt))
        refine hK.out _ _ HS_u27.out ?_
        clear hK K hb
        try simp only [Act.put, List.getElem_toArray, List.getElem_cons_succ, List.getElem_cons_zero, List.setIfInBounds_toArray, List.set_cons_zero, List.set_cons_succ]
        refine wpH_two 3 4 (by kernel_rfl) rfl rfl (fun K hK => ?_) (fun K hK => ?_)
        · go_simp
          refine (HN2.out _).mono ?_
          rintro e u28 ⟨rfl, hb⟩
          have HZ6_u28 : Hid (ZBlk u28 p6) := Lib.hid (HZ6_u27.out.below hb HZ6_u27.out.lt)
          have HB_u28 : Hid (Below w.heap.size w u28) := Lib.hid (HB_u27.out.trans (hb.mono HB_u27.out.size))
          have HS_u28 := Lib.hid (And.intro (HS_u27.out.1.below hb HS_u27.out.1.lt) (HS_u27.out.2.below hb HS_u27.out.2.lt))
          refine hK.out _ _ HS_u28.out ?_
          clear hK K hb
          try simp only [Act.put, List.getElem_toArray, List.getElem_cons_succ, List.getElem_cons_zero, List.setIfInBounds_toArray, List.set_cons_zero, List.set_cons_succ]
          refine wpH_one 4 (by kernel_rfl) rfl (fun K hK => ?_)
          go_simp
          have hbs : (⟨#[]⟩ : ByteArray) = bs [] := rfl
          rw [hbs]
          clear hbs
          have hb : Below u28.heap.size u28 (u28.alloc (.cells #[.bool false, .string (bs []), .int .i64 0] 23)) := (Below.refl _ _).alloc (Nat.le_refl _) _
          have HZ5_u29 : Hid (ZBlk (u28.alloc (.cells #[.bool false, .string (bs []), .int .i64 0] 23)) u28.heap.size) := Lib.hid (Blk.new u28 23 _)
          have HZ6_u29 : Hid (ZBlk (u28.alloc (.cells #[.bool false, .string (bs []), .int .i64 0] 23)) p6) := Lib.hid (HZ6_u28.out.alloc _)
          have hne : p6 ≠ u28.heap.size := Nat.ne_of_lt HZ6_u28.out.lt
          have HB_u29 : Hid (Below w.heap.size w (u28.alloc (.cells #[.bool false, .string (bs []), .int .i64 0] 23))) := Lib.hid (HB_u28.out.trans (hb.mono HB_u28.out.size))
          have hgt5 : w.heap.size + 1 < u28.heap.size := HS_u28.out.2.lt
          have hlo5 : w.heap.size ≤ u28.heap.size := HB_u28.out.size
          have HS_u29 := Lib.hid (And.intro (HS_u28.out.1.below hb HS_u28.out.1.lt) (HS_u28.out.2.below hb HS_u28.out.2.lt))
          refine hK.out _ _ HS_u29.out ?_
          clear hK K hb
          generalize u28.alloc (.cells #[.bool false, .string (bs []), .int .i64 0] 23) = u29 at *
          generalize u28.heap.size = p5 at *
          try simp only [Act.put, List.getElem_toArray, List.getElem_cons_succ, List.getElem_cons_zero, List.setIfInBounds_toArray, List.set_cons_zero, List.set_cons_succ]
          have z50 : u29.frozen? ⟨p5, 0, none⟩ = false := HZ5_u29.out.frozen 0
          have z51 : u29.frozen? ⟨p5, 1, none⟩ = false := HZ5_u29.out.frozen 1
          have z52 : u29.frozen? ⟨p5, 2, none⟩ = false := HZ5_u29.out.frozen 2
          have z60 : u29.frozen? ⟨p6, 0, none⟩ = false := HZ6_u29.out.frozen 0
          have z61 : u29.frozen? ⟨p6, 1, none⟩ = false := HZ6_u29.out.frozen 1
          have z62 : u29.frozen? ⟨p6, 2, none⟩ = false := HZ6_u29.out.frozen 2
          have c50 : u29.cell? ⟨p5, 0, none⟩ = some (.bool false) := HZ5_u29.out.cell 0
          have c51 : u29.cell? ⟨p5, 1, none⟩ = some (.string (bs [])) := HZ5_u29.out.cell 1
          have c52 : u29.cell? ⟨p5, 2, none⟩ = some (.int .i64 0) := HZ5_u29.out.cell 2
          have c60 : u29.cell? ⟨p6, 0, none⟩ = some (.bool false) := HZ6_u29.out.cell 0
          have c61 : u29.cell? ⟨p6, 1, none⟩ = some (.string (bs [])) := HZ6_u29.out.cell 1
          have c62 : u29.cell? ⟨p6, 2, none⟩ = some (.int .i64 0) := HZ6_u29.out.cell 2
          have hne1 : p5 ≠ p6 := by omega
          have hne2 : p6 ≠ p5 := by omega
          have HSL := Lib.hid HS_u29.out
          have g51 : w.heap.size ≠ p5 := by omega
          have g52 : w.heap.size + 1 ≠ p5 := by omega
          have g61 : w.heap.size ≠ p6 := by omega
          have g62 : w.heap.size + 1 ≠ p6 := by omega
          refine wpH_one 6 (by kernel_rfl) rfl (fun K hK => ?_)
          go_simp
          refine hK.out _ _ ⟨((HSL.out.1.far g51 _).far g51 _).far g51 _, ((HSL.out.2.far g52 _).far g52 _).far g52 _⟩ ?_
          clear hK K
          try simp only [Act.put, List.getElem_toArray, List.getElem_cons_succ, List.getElem_cons_zero, List.setIfInBounds_toArray, List.set_cons_zero, List.set_cons_succ]
          refine wpH_one 7 (by kernel_rfl) rfl (fun K hK => ?_)
          go_simp
          refine hK.out _ _ ⟨((((((HSL.out.1.far g51 _).far g51 _).far g51 _).far g61 _).far g61 _).far g61 _), ((((((HSL.out.2.far g52 _).far g52 _).far g52 _).far g62 _).far g62 _).far g62 _)⟩ ?_
          clear hK K
          try simp only [Act.put, List.getElem_toArray, List.getElem_cons_succ, List.getElem_cons_zero, List.setIfInBounds_toArray, List.set_cons_zero, List.set_cons_succ]
          refine wpH_done (by kernel_rfl) ?_ _
          go_wp2_with fail
          go_meet
          case rel => exact cmp_mk HZ5_u29.out HZ6_u29.out hne1 HB_u29.out (by omega) (by omega)
        · go_simp
          have hbs : (⟨#[]⟩ : ByteArray) = bs [] := rfl
          rw [hbs]
          clear hbs
          have hb : Below u27.heap.size u27 (u27.alloc (.cells #[.bool false, .string (bs []), .int .i64 0] 23)) := (Below.refl _ _).alloc (Nat.le_refl _) _
          have HZ5_u30 : Hid (ZBlk (u27.alloc (.cells #[.bool false, .string (bs []), .int .i64 0] 23)) u27.heap.size) := Lib.hid (Blk.new u27 23 _)
          have HZ6_u30 : Hid (ZBlk (u27.alloc (.cells #[.bool false, .string (bs []), .int .i64 0] 23)) p6) := Lib.hid (HZ6_u27.out.alloc _)
          have hne : p6 ≠ u27.heap.size := Nat.ne_of_lt HZ6_u27.out.lt
          have HB_u30 : Hid (Below w.heap.size w (u27.alloc (.cells #[.bool false, .string (bs []), .int .i64 0] 23))) := Lib.hid (HB_u27.out.trans (hb.mono HB_u27.out.size))
          have hgt5 : w.heap.size + 1 < u27.heap.size := HS_u27.out.2.lt
          have hlo5 : w.heap.size ≤ u27.heap.size := HB_u27.out.size
          have HS_u30 := Lib.hid (And.intro (HS_u27.out.1.below hb HS_u27.out.1.lt) (HS_u27.out.2.below hb HS_u27.out.2.lt))
          refine hK.out _ _ HS_u30.out ?_
          clear hK K hb
          generalize u27.alloc (.cells #[.bool false, .string (bs []), .int .i64 0] 23) = u30 at *
          generalize u27.heap.size = p5 at *
          try simp only [Act.put, List.getElem_toArray, List.getElem_cons_succ, List.getElem_cons_zero, List.setIfInBounds_toArray, List.set_cons_zero, List.set_cons_succ]
          refine wpH_one 3 (by kernel_rfl) rfl (fun K hK => ?_)
          go_simp
          refine (HN2.out _).mono ?_
          rintro e u31 ⟨rfl, hb⟩
          have HZ6_u31 : Hid (ZBlk u31 p6) := Lib.hid (HZ6_u30.out.below hb HZ6_u30.out.lt)
          have HZ5_u31 : Hid (ZBlk u31 p5) := Lib.hid (HZ5_u30.out.below hb HZ5_u30.out.lt)
          have HB_u31 : Hid (Below w.heap.size w u31) := Lib.hid (HB_u30.out.trans (hb.mono HB_u30.out.size))
          have HS_u31 := Lib.hid (And.intro (HS_u30.out.1.below hb HS_u30.out.1.lt) (HS_u30.out.2.below hb HS_u30.out.2.lt))
          refine hK.out _ _ HS_u31.out ?_
          clear hK K hb
          try simp only [Act.put, List.getElem_toArray, List.getElem_cons_succ, List.getElem_cons_zero, List.setIfInBounds_toArray, List.set_cons_zero, List.set_cons_succ]
          have z50 : u31.frozen? ⟨p5, 0, none⟩ = false := HZ5_u31.out.frozen 0
          have z51 : u31.frozen? ⟨p5, 1, none⟩ = false := HZ5_u31.out.frozen 1
          have z52 : u31.frozen? ⟨p5, 2, none⟩ = false := HZ5_u31.out.frozen 2
          have z60 : u31.frozen? ⟨p6, 0, none⟩ = false := HZ6_u31.out.frozen 0
          have z61 : u31.frozen? ⟨p6, 1, none⟩ = false := HZ6_u31.out.frozen 1
          have z62 : u31.frozen? ⟨p6, 2, none⟩ = false := HZ6_u31.out.frozen 2
          have c50 : u31.cell? ⟨p5, 0, none⟩ = some (.bool false) := HZ5_u31.out.cell 0
          have c51 : u31.cell? ⟨p5, 1, none⟩ = some (.string (bs [])) := HZ5_u31.out.cell 1
          have c52 : u31.cell? ⟨p5, 2, none⟩ = some (.int .i64 0) := HZ5_u31.out.cell 2
          have c60 : u31.cell? ⟨p6, 0, none⟩ = some (.bool false) := HZ6_u31.out.cell 0
          have c61 : u31.cell? ⟨p6, 1, none⟩ = some (.string (bs [])) := HZ6_u31.out.cell 1
          have c62 : u31.cell? ⟨p6, 2, none⟩ = some (.int .i64 0) := HZ6_u31.out.cell 2
          have hne1 : p5 ≠ p6 := by omega
          have hne2 : p6 ≠ p5 := by omega
          have HSL := Lib.hid HS_u31.out
          have g51 : w.heap.size ≠ p5 := by omega
          have g52 : w.heap.size + 1 ≠ p5 := by omega
          have g61 : w.heap.size ≠ p6 := by omega
          have g62 : w.heap.size + 1 ≠ p6 := by omega
          refine wpH_one 6 (by kernel_rfl) rfl (fun K hK => ?_)
          go_simp
          refine hK.out _ _ ⟨((HSL.out.1.far g51 _).far g51 _).far g51 _, ((HSL.out.2.far g52 _).far g52 _).far g52 _⟩ ?_
          clear hK K
          try simp only [Act.put, List.getElem_toArray, List.getElem_cons_succ, List.getElem_cons_zero, List.setIfInBounds_toArray, List.set_cons_zero, List.set_cons_succ]
          refine wpH_one 7 (by kernel_rfl) rfl (fun K hK => ?_)
          go_simp
          refine hK.out _ _ ⟨((((((HSL.out.1.far g51 _).far g51 _).far g51 _).far g61 _).far g61 _).far g61 _), ((((((HSL.out.2.far g52 _).far g52 _).far g52 _).far g62 _).far g62 _).far g62 _)⟩ ?_
          clear hK K
          try simp only [Act.put, List.getElem_toArray, List.getElem_cons_succ, List.getElem_cons_zero, List.setIfInBounds_toArray, List.set_cons_zero, List.set_cons_succ]
          refine wpH_done (by kernel_rfl) ?_ _
          go_wp2_with fail
          go_meet
          case rel => exact cmp_mk HZ5_u31.out HZ6_u31.out hne1 HB_u31.out (by omega) (by omega)
      · go_simp
        have hbs : (⟨#[]⟩ : ByteArray) = bs [] := rfl
        rw [hbs]
        clear hbs
        have hb : Below u26.heap.size u26 (u26.alloc (.cells #[.bool false, .string (bs []), .int .i64 0] 23)) := (Below.refl _ _).alloc (Nat.le_refl _) _
        have HZ5_u32 : Hid (ZBlk (u26.alloc (.cells #[.bool false, .string (bs []), .int .i64 0] 23)) u26.heap.size) := Lib.hid (Blk.new u26 23 _)
        have HZ6_u32 : Hid (ZBlk (u26.alloc (.cells #[.bool false, .string (bs []), .int .i64 0] 23)) p6) := Lib.hid (HZ6_u26.out.alloc _)
        have hne : p6 ≠ u26.heap.size := Nat.ne_of_lt HZ6_u26.out.lt
        have HB_u32 : Hid (Below w.heap.size w (u26.alloc (.cells #[.bool false, .string (bs []), .int .i64 0] 23))) := Lib.hid (HB_u26.out.trans (hb.mono HB_u26.out.size))
        have hgt5 : w.heap.size + 1 < u26.heap.size := HS_u26.out.2.lt
        have hlo5 : w.heap.size ≤ u26.heap.size := HB_u26.out.size
        have HS_u32 := Lib.hid (And.intro (HS_u26.out.1.below hb HS_u26.out.1.lt) (HS_u26.out.2.below hb HS_u26.out.2.lt))
        refine hK.out _ _ HS_u32.out ?_
        clear hK K hb
        generalize u26.alloc (.cells #[.bool false, .string (bs []), .int .i64 0] 23) = u32 at *
        generalize u26.heap.size = p5 at *
        try simp only [Act.put, List.getElem_toArray, List.getElem_cons_succ, List.getElem_cons_zero, List.setIfInBounds_toArray, List.set_cons_zero, List.set_cons_succ]
        refine wpH_one 1 (by kernel_rfl) rfl (fun K hK => ?_)
        go_simp
        refine (HN1.out _).mono ?_
        rintro e u33 ⟨rfl, hb⟩
        have HZ6_u33 : Hid (ZBlk u33 p6) := Lib.hid (HZ6_u32.out.below hb HZ6_u32.out.lt)
        have HZ5_u33 : Hid (ZBlk u33 p5) := Lib.hid (HZ5_u32.out.below hb HZ5_u32.out.lt)
        have HB_u33 : Hid (Below w.heap.size w u33) := Lib.hid (HB_u32.out.trans (hb.mono HB_u32.out.size))
        have HS_u33 := Lib.hid (And.intro (HS_u32.out.1.below hb HS_u32.out.1.lt) (HS_u32.out.2.below hb HS_u32.out.2.lt))
        refine hK.out _ _ HS_u33.out ?_
        clear hK K hb
        try simp only [Act.put, List.getElem_toArray, List.getElem_cons_succ, List.getElem_cons_zero, List.setIfInBounds_toArray, List.set_cons_zero, List.set_cons_succ]
        refine wpH_one 3 (by kernel_rfl) rfl (fun K hK => ?_)
        go_simp
        refine (HN2.out _).mono ?_
        rintro e u34 ⟨rfl, hb⟩
        have HZ6_u34 : Hid (ZBlk u34 p6) := Lib.hid (HZ6_u33.out.below hb HZ6_u33.out.lt)
        have HZ5_u34 : Hid (ZBlk u34 p5) := Lib.hid (HZ5_u33.out.below hb HZ5_u33.out.lt)
        have HB_u34 : Hid (Below w.heap.size w u34) := Lib.hid (HB_u33.out.trans (hb.mono HB_u33.out.size))
        have HS_u34 := Lib.hid (And.intro (HS_u33.out.1.below hb HS_u33.out.1.lt) (HS_u33.out.2.below hb HS_u33.out.2.lt))
        refine hK.out _ _ HS_u34.out ?_
        clear hK K hb
        try simp only [Act.put, List.getElem_toArray, List.getElem_cons_succ, List.getElem_cons_zero, List.setIfInBounds_toArray, List.set_cons_zero, List.set_cons_succ]
        have z50 : u34.frozen? ⟨p5, 0, none⟩ = false := HZ5_u34.out.frozen 0
        have z51 : u34.frozen? ⟨p5, 1, none⟩ = false := HZ5_u34.out.frozen 1
        have z52 : u34.frozen? ⟨p5, 2, none⟩ = false := HZ5_u34.out.frozen 2
        have z60 : u34.frozen? ⟨p6, 0, none⟩ = false := HZ6_u34.out.frozen 0
        have z61 : u34.frozen? ⟨p6, 1, none⟩ = false := HZ6_u34.out.frozen 1
        have z62 : u34.frozen? ⟨p6, 2, none⟩ = false := HZ6_u34.out.frozen 2
        have c50 : u34.cell? ⟨p5, 0, none⟩ = some (.bool false) := HZ5_u34.out.cell 0
        have c51 : u34.cell? ⟨p5, 1, none⟩ = some (.string (bs [])) := HZ5_u34.out.cell 1
        have c52 : u34.cell? ⟨p5, 2, none⟩ = some (.int .i64 0) := HZ5_u34.out.cell 2
        have c60 : u34.cell? ⟨p6, 0, none⟩ = some (.bool false) := HZ6_u34.out.cell 0
        have c61 : u34.cell? ⟨p6, 1, none⟩ = some (.string (bs [])) := HZ6_u34.out.cell 1
        have c62 : u34.cell? ⟨p6, 2, none⟩ = some (.int .i64 0) := HZ6_u34.out.cell 2
        have hne1 : p5 ≠ p6 := by omega
        have hne2 : p6 ≠ p5 := by omega
        have HSL := Lib.hid HS_u34.out
        have g51 : w.heap.size ≠ p5 := by omega
        have g52 : w.heap.size + 1 ≠ p5 := by omega
        have g61 : w.heap.size ≠ p6 := by omega
        have g62 : w.heap.size + 1 ≠ p6 := by omega
        refine wpH_one 6 (by kernel_rfl) rfl (fun K hK => ?_)
        go_simp
        refine hK.out _ _ ⟨((HSL.out.1.far g51 _).far g51 _).far g51 _, ((HSL.out.2.far g52 _).far g52 _).far g52 _⟩ ?_
        clear hK K
        try simp only [Act.put, List.getElem_toArray, List.getElem_cons_succ, List.getElem_cons_zero, List.setIfInBounds_toArray, List.set_cons_zero, List.set_cons_succ]
        refine wpH_one 7 (by kernel_rfl) rfl (fun K hK => ?_)
        go_simp
        refine hK.out _ _ ⟨((((((HSL.out.1.far g51 _).far g51 _).far g51 _).far g61 _).far g61 _).far g61 _), ((((((HSL.out.2.far g52 _).far g52 _).far g52 _).far g62 _).far g62 _).far g62 _)⟩ ?_
        clear hK K
        try simp only [Act.put, List.getElem_toArray, List.getElem_cons_succ, List.getElem_cons_zero, List.setIfInBounds_toArray, List.set_cons_zero, List.set_cons_succ]
        refine wpH_done (by kernel_rfl) ?_ _
        go_wp2_with fail
        go_meet
        case rel => exact cmp_mk HZ5_u34.out HZ6_u34.out hne1 HB_u34.out (by omega) (by omega)
  case rest =>
    obtain ⟨p, q, h5, h6, hP, hQ, hbe⟩ := hcut
    subst h5 h6
    have HBE := Lib.hid hbe
    have HP := Lib.hid hP
    have HQ := Lib.hid hQ
    have HZ1 := Lib.hid (fun W => rsize_any x y W HL1.out.1 HL2.out.1 HL1.out.2.1 HL1.out.2.2 HL2.out.2.1 HL2.out.2.2)
    have HZ2 := Lib.hid (fun W => rsize_any y x W HL2.out.1 HL1.out.1 HL2.out.2.1 HL2.out.2.2 HL1.out.2.1 HL1.out.2.2)
    clear hbe hP hQ HB0 HX1 HX2 HN1 HN2 HL1 HL2
    have HC1 : Hid (r = _) := Lib.hid (HC.out.trans (cmpN.eq_1 x y))
    clear HC
    generalize sizeF x y = z1 at *
    generalize sizeF y x = z2 at *
    obtain ⟨xn, xd, xe⟩ := x
    obtain ⟨yn, yd, ye⟩ := y
    unfold dcV at HZ1 HZ2
    dsimp only at *
    obtain ⟨s, rfl⟩ : ∃ s, xd = L8 s := ⟨bs xd, rfl⟩
    obtain ⟨t, rfl⟩ : ∃ t, yd = L8 t := ⟨bs yd, rfl⟩
    rw [bs_L8] at HP HQ
    rw [bs_L8, bs_L8] at HZ1 HZ2
    have k50 := HP.out.cell 0
    have k51 := HP.out.cell 1
    have k52 := HP.out.cell 2
    have k60 := HQ.out.cell 0
    have k61 := HQ.out.cell 1
    have k62 := HQ.out.cell 2
    simp only [List.getElem?_toArray, List.getElem?_cons_zero, List.getElem?_cons_succ] at k50 k51 k52 k60 k61 k62
    have hnil : ∀ u : ByteArray, L8 u = [] ↔ u.size = 0 := fun u => ⟨fun h => by rw [← L8_len, h]; rfl, fun h => List.eq_nil_of_length_eq_zero (by rw [L8_len]; exact h)⟩
    have hs0 := hnil s
    have ht0 := hnil t
    clear hnil
    by_cases h1 : L8 s = []
    · have h1' : ((s.size : Int) == 0) = true := by simp [hs0.1 h1]
      by_cases h2 : L8 t = []
      · have h2' : ((t.size : Int) == 0) = true := by simp [ht0.1 h2]
        have hr : r = 0 := by rw [HC1.out, if_pos ⟨h1, h2⟩]
        subst hr
        clear HC1 h1 h2 hs0 ht0
        go_wp2
        go_ret
        exact ⟨rfl, HBE.out⟩
      · have h2' : ((t.size : Int) == 0) = false := by rw [beq_eq_false_iff_ne]; exact fun h => h2 (ht0.2 (by omega))
        cases yn with
        | true =>
          have hr : r = 1 := by rw [HC1.out, if_neg (fun h => h2 h.2), if_pos (.inl ⟨h1, rfl⟩)]
          subst hr
          clear HC1 h1 h2 hs0 ht0
          go_wp2
          go_ret
          exact ⟨rfl, HBE.out⟩
        | false =>
          have hr : r = -1 := by rw [HC1.out, if_neg (fun h => h2 h.2), if_neg (fun h => h.elim (fun h => by cases h.2) (fun h => h2 h.1)), if_pos (.inl h1)]
          subst hr
          clear HC1 h1 h2 hs0 ht0
          go_wp2
          go_ret
          exact ⟨rfl, HBE.out⟩
    · have h1' : ((s.size : Int) == 0) = false := by rw [beq_eq_false_iff_ne]; exact fun h => h1 (hs0.2 (by omega))
      by_cases h2 : L8 t = []
      · have h2' : ((t.size : Int) == 0) = true := by simp [ht0.1 h2]
        cases xn with
        | false =>
          have hr : r = 1 := by rw [HC1.out, if_neg (fun h => h1 h.1), if_pos (.inr ⟨h2, rfl⟩)]
          subst hr
          clear HC1 h1 h2 hs0 ht0
          go_wp2
          go_ret
          exact ⟨rfl, HBE.out⟩
        | true =>
          have hr : r = -1 := by rw [HC1.out, if_neg (fun h => h1 h.1), if_neg (fun h => h.elim (fun h => h1 h.1) (fun h => by cases h.2)), if_pos (.inr h2)]
          subst hr
          clear HC1 h1 h2 hs0 ht0
          go_wp2
          go_ret
          exact ⟨rfl, HBE.out⟩
      · have h2' : ((t.size : Int) == 0) = false := by rw [beq_eq_false_iff_ne]; exact fun h => h2 (ht0.2 (by omega))
        rw [if_neg (fun h => h1 h.1), if_neg (fun h => h.elim (fun h => h1 h.1) (fun h => h2 h.1)), if_neg (fun h => h.elim h1 h2)] at HC1
        clear h1 h2 hs0 ht0
        cases xn with
        | true =>
          cases yn with
          | true =>
            have hr : r = z2 := HC1.out
            subst hr
            clear HC1
            go_wp2_with fail
            with_reducible refine (HZ2.out _).mono ?_
            rintro e1 w9 ⟨rfl, hb9⟩
            have HB9 := Lib.hid (HBE.out.trans (hb9.mono HBE.out.size))
            clear hb9
            go_wp2
            go_ret
            exact ⟨rfl, HB9.out⟩
          | false =>
            have hr : r = -1 := HC1.out
            subst hr
            clear HC1
            go_wp2
            go_ret
            exact ⟨rfl, HBE.out⟩
        | false =>
          cases yn with
          | true =>
            have hr : r = 1 := HC1.out
            subst hr
            clear HC1
            go_wp2
            go_ret
            exact ⟨rfl, HBE.out⟩
          | false =>
            have hr : r = z1 := HC1.out
            subst hr
            clear HC1
            go_wp2_with fail
            with_reducible refine (HZ1.out _).mono ?_
            rintro e1 w9 ⟨rfl, hb9⟩
            have HB9 := Lib.hid (HBE.out.trans (hb9.mono HBE.out.size))
            clear hb9
            go_wp2
            go_ret
            exact ⟨rfl, HB9.out⟩
end Go.Proofs.YtadbnajodpfpgaaDoor
