/- Printed by gen_p10cmp.py. The program's Cmp by its contract. -/
import Derived.Test.YtadbnajodpfpgaaDoorP10Norm
import Derived.Test.YtadbnajodpfpgaaDoorG10Cmp
import Derived.Test.YtadbnajodpfpgaaDoorAnyV
namespace Go.Proofs.YtadbnajodpfpgaaDoor
set_option maxRecDepth 100000
open Go.ChangeShapes Go.WideShapes Go.ChangeAt Go.RowKit
set_option linter.unusedVariables false
set_option linter.unusedSimpArgs false

def cmpI (a b : Int) : Int := if a < b then -1 else if b < a then 1 else 0
def cmpS (a b : List UInt8) : Int := if Op.bytesLess a b = true then -1 else if Op.bytesLess b a = true then 1 else 0
def sgD (x : Dc) : Int := if x.d = [] then 0 else if x.n = true then -1 else 1
theorem less_asym {a b : List UInt8} (h1 : Op.bytesLess a b = true) : Op.bytesLess b a = false := by
  induction a generalizing b with
  | nil => cases b with
    | nil => cases h1
    | cons y b => rfl
  | cons x a ih => cases b with
    | nil => cases h1
    | cons y b =>
      have e1 : (decide (x < y) || (x == y && Op.bytesLess a b)) = true := h1
      change (decide (y < x) || (y == x && Op.bytesLess b a)) = false
      simp only [Bool.or_eq_true, decide_eq_true_eq, Bool.and_eq_true, beq_iff_eq] at e1
      rw [UInt8.lt_iff_toNat_lt] at e1
      rcases e1 with e1 | ⟨rfl, e1⟩
      · rw [decide_eq_false (by rw [UInt8.lt_iff_toNat_lt]; omega)]
        have : (y == x) = false := by rw [beq_eq_false_iff_ne]; intro e; subst e; omega
        rw [this]; rfl
      · rw [ih e1]; simp
theorem cmpS_neg (a b : List UInt8) : cmpS b a = -cmpS a b := by
  unfold cmpS
  cases h1 : Op.bytesLess a b with
  | true => rw [less_asym h1]; rfl
  | false => cases h2 : Op.bytesLess b a <;> rfl
theorem cmpI_neg (a b : Int) : cmpI b a = -cmpI a b := by unfold cmpI; (repeat' split) <;> omega
theorem sizeF_is (x y : Dc) : sizeF x y = if (cmpI ((x.d.length : Int) + x.e) ((y.d.length : Int) + y.e) != 0) = true then cmpI ((x.d.length : Int) + x.e) ((y.d.length : Int) + y.e) else cmpS x.d y.d := by
  unfold sizeF cmpI cmpS
  by_cases h1 : (x.d.length : Int) + x.e < (y.d.length : Int) + y.e
  · rw [if_pos h1, if_pos h1]; rfl
  · by_cases h2 : (y.d.length : Int) + y.e < (x.d.length : Int) + x.e
    · rw [if_neg h1, if_pos h2, if_neg h1, if_pos h2]; rfl
    · rw [if_neg h1, if_neg h2, if_neg h1, if_neg h2]; rfl
theorem sizeF_neg (x y : Dc) : sizeF y x = -sizeF x y := by
  rw [sizeF_is, sizeF_is, cmpI_neg ((x.d.length : Int) + x.e), cmpS_neg]
  generalize cmpI _ _ = c
  by_cases h : c = 0
  · subst h; rfl
  · rw [if_pos (by simpa using h), if_pos (by simpa using h)]
theorem sizeF_b (x y : Dc) : sizeF x y = -1 ∨ sizeF x y = 0 ∨ sizeF x y = 1 := by unfold sizeF; (repeat' split) <;> simp
theorem sgD_b (x : Dc) : sgD x = -1 ∨ sgD x = 0 ∨ sgD x = 1 := by unfold sgD; (repeat' split) <;> simp
theorem cmpN_is (x y : Dc) : cmpN x y = if (sgD x != sgD y) = true then cmpI (sgD x) (sgD y) else sgD x * sizeF x y := by
  have hn := sizeF_neg x y
  unfold cmpN sgD
  generalize sizeF x y = z at *
  generalize sizeF y x = z2 at *
  subst hn
  by_cases h1 : x.d = [] <;> by_cases h2 : y.d = [] <;> cases x.n <;> cases y.n <;> simp [h1, h2, cmpI]

set_option maxHeartbeats 1000000 in
theorem isNaNi_any (n : Int) (w : World) : Calls Tryd.prog 45 #[.int .i64 n] w fun e w' => e = .returned (.bool false) ∧ w = w' := by
  have hnn : (n != n) = false := by simp
  go_enter Tryd.func45, Tryd.ntmps45
  go_wp2
  go_ret
  exact ⟨rfl, rfl⟩
set_option maxHeartbeats 1000000 in
theorem isNaNs_any (s : ByteArray) (w : World) : Calls Tryd.prog 52 #[.string s] w fun e w' => e = .returned (.bool false) ∧ w = w' := by
  have hnn : (s.toList == s.toList) = true := by simp
  go_enter Tryd.func52, Tryd.ntmps52
  go_wp2
  go_ret
  exact ⟨rfl, rfl⟩
set_option maxHeartbeats 2000000 in
theorem compareI_any (a b : Int) (w : World) : Calls Tryd.prog 35 #[.int .i64 a, .int .i64 b] w fun e w' => e = .returned (.int .i64 (cmpI a b)) ∧ w = w' := by
  have HN := Lib.hid (fun n W => isNaNi_any n W)
  have HR : Hid (cmpI a b = _) := Lib.hid (cmpI.eq_1 a b)
  generalize cmpI a b = r at *
  by_cases h1 : a < b
  · have hr : r = -1 := by rw [HR.out, if_pos h1]
    subst hr
    clear HR
    go_enter Tryd.func35, Tryd.ntmps35
    go_wp2_with fail
    with_reducible refine (HN.out _ _).mono ?_
    rintro e1 w1 ⟨rfl, rfl⟩
    go_wp2_with fail
    with_reducible refine (HN.out _ _).mono ?_
    rintro e1 w1 ⟨rfl, rfl⟩
    go_wp2
    go_ret
    exact ⟨rfl, rfl⟩
  · by_cases h2 : b < a
    · have hr : r = 1 := by rw [HR.out, if_neg h1, if_pos h2]
      subst hr
      clear HR
      go_enter Tryd.func35, Tryd.ntmps35
      go_wp2_with fail
      with_reducible refine (HN.out _ _).mono ?_
      rintro e1 w1 ⟨rfl, rfl⟩
      go_wp2_with fail
      with_reducible refine (HN.out _ _).mono ?_
      rintro e1 w1 ⟨rfl, rfl⟩
      go_wp2
      go_ret
      exact ⟨rfl, rfl⟩
    · have hr : r = 0 := by rw [HR.out, if_neg h1, if_neg h2]
      subst hr
      clear HR
      go_enter Tryd.func35, Tryd.ntmps35
      go_wp2_with fail
      with_reducible refine (HN.out _ _).mono ?_
      rintro e1 w1 ⟨rfl, rfl⟩
      go_wp2_with fail
      with_reducible refine (HN.out _ _).mono ?_
      rintro e1 w1 ⟨rfl, rfl⟩
      go_wp2
      go_ret
      exact ⟨rfl, rfl⟩

set_option maxHeartbeats 2000000 in
theorem compareS_any (s t : ByteArray) (w : World) : Calls Tryd.prog 46 #[.string s, .string t] w fun e w' => e = .returned (.int .i64 (cmpS (L8 s) (L8 t))) ∧ w = w' := by
  have HN := Lib.hid (fun n W => isNaNs_any n W)
  have HR : Hid (cmpS (L8 s) (L8 t) = _) := Lib.hid (cmpS.eq_1 (L8 s) (L8 t))
  generalize cmpS (L8 s) (L8 t) = r at *
  rw [← L8_toList, ← L8_toList] at HR
  cases h1 : Op.bytesLess s.toList t.toList with
  | true =>
    have hr : r = -1 := by rw [HR.out, if_pos h1]
    subst hr
    clear HR
    go_enter Tryd.func46, Tryd.ntmps46
    go_wp2_with fail
    with_reducible refine (HN.out _ _).mono ?_
    rintro e1 w1 ⟨rfl, rfl⟩
    go_wp2_with fail
    with_reducible refine (HN.out _ _).mono ?_
    rintro e1 w1 ⟨rfl, rfl⟩
    go_wp2
    go_ret
    exact ⟨rfl, rfl⟩
  | false =>
    cases h2 : Op.bytesLess t.toList s.toList with
    | true =>
      have hr : r = 1 := by rw [HR.out, if_neg (by rw [h1]; simp), if_pos h2]
      have h5 : (s.toList == t.toList) = false := by
        rw [beq_eq_false_iff_ne]
        intro e; rw [e] at h2
        rw [e, h2] at h1; cases h1
      subst hr
      clear HR
      go_enter Tryd.func46, Tryd.ntmps46
      go_wp2_with fail
      with_reducible refine (HN.out _ _).mono ?_
      rintro e1 w1 ⟨rfl, rfl⟩
      go_wp2_with fail
      with_reducible refine (HN.out _ _).mono ?_
      rintro e1 w1 ⟨rfl, rfl⟩
      go_wp2
      go_ret
      exact ⟨rfl, rfl⟩
    | false =>
      have hr : r = 0 := by rw [HR.out, if_neg (by rw [h1]; simp), if_neg (by rw [h2]; simp)]
      have h5 : (s.toList == t.toList) = true := by
        rw [beq_iff_eq]
        exact less_no h1 h2
      subst hr
      clear HR
      go_enter Tryd.func46, Tryd.ntmps46
      go_wp2_with fail
      with_reducible refine (HN.out _ _).mono ?_
      rintro e1 w1 ⟨rfl, rfl⟩
      go_wp2_with fail
      with_reducible refine (HN.out _ _).mono ?_
      rintro e1 w1 ⟨rfl, rfl⟩
      go_wp2
      go_ret
      exact ⟨rfl, rfl⟩

set_option maxHeartbeats 2000000 in
theorem signOf_any (x : Dc) (w : World) : Calls Tryd.prog 34 #[dcV x] w fun e w' => e = .returned (.int .i64 (sgD x)) ∧ Below w.heap.size w w' := by
  obtain ⟨n, d, e⟩ := x
  have HR : Hid (sgD ⟨n, d, e⟩ = if d = [] then 0 else if n = true then -1 else 1) := Lib.hid rfl
  generalize sgD ⟨n, d, e⟩ = r at *
  unfold dcV
  dsimp only
  obtain ⟨s, rfl⟩ : ∃ s, d = L8 s := ⟨bs d, rfl⟩
  rw [bs_L8]
  have HB0 : Hid (Below w.heap.size w (w.alloc (.cells #[.bool n, .string s, .int .i64 e] 23))) := Lib.hid ((Below.refl _ _).alloc (Nat.le_refl _) _)
  by_cases h1 : L8 s = []
  · have hr : r = 0 := by rw [HR.out, if_pos h1]
    have hl : (s.toList == []) = true := by rw [L8_toList, h1]; rfl
    have hl2 : s.toList = [] := by rw [L8_toList, h1]
    subst hr
    clear HR h1
    go_enter Tryd.func34, Tryd.ntmps34
    go_wp2
    go_ret
    exact ⟨rfl, HB0.out⟩
  · have hl : (s.toList == []) = false := by rw [L8_toList]; simpa using h1
    have hl2 : ¬ s.toList = [] := by rw [L8_toList]; exact h1
    cases n with
    | true =>
      have hr : r = -1 := by rw [HR.out, if_neg h1, if_pos rfl]
      subst hr
      clear HR h1
      go_enter Tryd.func34, Tryd.ntmps34
      go_wp2
      go_ret
      exact ⟨rfl, HB0.out⟩
    | false =>
      have hr : r = 1 := by rw [HR.out, if_neg h1, if_neg Bool.false_ne_true]
      subst hr
      clear HR h1
      go_enter Tryd.func34, Tryd.ntmps34
      go_wp2
      go_ret
      exact ⟨rfl, HB0.out⟩
set_option maxHeartbeats 2000000 in
theorem cmpAmounts_any (x y : Dc) (w : World) (hx : x.d.length ≤ 1000000) (hy : y.d.length ≤ 1000000) (hxe0 : -5000000000 ≤ x.e) (hxe1 : x.e ≤ 5000000000) (hye0 : -5000000000 ≤ y.e) (hye1 : y.e ≤ 5000000000) :
    Calls Tryd.prog 36 #[dcV x, dcV y] w fun e w' => e = .returned (.int .i64 (sizeF x y)) ∧ Below w.heap.size w w' := by
  have HR := Lib.hid (sizeF_is x y)
  generalize sizeF x y = r at *
  obtain ⟨n, d, e⟩ := x
  obtain ⟨m, c, f⟩ := y
  unfold dcV
  dsimp only at *
  obtain ⟨s, rfl⟩ : ∃ s, d = L8 s := ⟨bs d, rfl⟩
  obtain ⟨t, rfl⟩ : ∃ t, c = L8 t := ⟨bs c, rfl⟩
  rw [bs_L8, bs_L8]
  rw [L8_len] at hx hy
  rw [L8_len, L8_len] at HR
  have HC := Lib.hid (fun W => compareI_any ((s.size : Int) + e) ((t.size : Int) + f) W)
  have HS := Lib.hid (fun W => compareS_any s t W)
  generalize cmpI ((s.size : Int) + e) ((t.size : Int) + f) = z at *
  generalize cmpS (L8 s) (L8 t) = z2 at *
  have HB0 : Hid (Below w.heap.size w ((w.alloc (.cells #[.bool n, .string s, .int .i64 e] 23)).alloc (.cells #[.bool m, .string t, .int .i64 f] 23))) := Lib.hid (((Below.refl _ _).alloc (Nat.le_refl _) _).alloc (by rw [World.size_alloc]; omega) _)
  have HX1 : Hid (DcBlk ((w.alloc (.cells #[.bool n, .string s, .int .i64 e] 23)).alloc (.cells #[.bool m, .string t, .int .i64 f] 23)) w.heap.size n s e) := Lib.hid ((Blk.new w 23 _).alloc _)
  have HX2 : Hid (DcBlk ((w.alloc (.cells #[.bool n, .string s, .int .i64 e] 23)).alloc (.cells #[.bool m, .string t, .int .i64 f] 23)) (w.heap.size + 1) m t f) := Lib.hid (by have h := Blk.new (w.alloc (.cells #[.bool n, .string s, .int .i64 e] 23)) 23 #[.bool m, .string t, .int .i64 f]; rwa [World.size_alloc] at h)
  by_cases h0 : z = 0
  · have hz : (z != 0) = false := by simpa using h0
    have hr : r = z2 := by rw [HR.out, if_neg (by rw [hz]; simp)]
    clear HR h0
    subst hr
    go_enter Tryd.func36, Tryd.ntmps36
    go_wp2_with fail
    generalize (w.alloc (.cells #[.bool n, .string s, .int .i64 e] 23)).alloc (.cells #[.bool m, .string t, .int .i64 f] 23) = w0 at *
    with_reducible refine (HC.out _).mono ?_
    rintro e1 w1 ⟨rfl, rfl⟩
    have k01 := HX1.out.cell 1
    have k11 := HX2.out.cell 1
    simp only [List.getElem?_toArray, List.getElem?_cons_zero, List.getElem?_cons_succ] at k01 k11
    go_wp2_with fail
    with_reducible refine (HS.out _).mono ?_
    rintro e1 w1 ⟨rfl, rfl⟩
    go_wp2
    go_ret
    exact ⟨rfl, HB0.out⟩
  · have hz : (z != 0) = true := by simpa using h0
    have hr : r = z := by rw [HR.out, if_pos hz]
    clear HR h0
    subst hr
    go_enter Tryd.func36, Tryd.ntmps36
    go_wp2_with fail
    generalize (w.alloc (.cells #[.bool n, .string s, .int .i64 e] 23)).alloc (.cells #[.bool m, .string t, .int .i64 f] 23) = w0 at *
    with_reducible refine (HC.out _).mono ?_
    rintro e1 w1 ⟨rfl, rfl⟩
    go_wp2
    go_ret
    exact ⟨rfl, HB0.out⟩

set_option maxHeartbeats 8000000 in
theorem cmp_any (a b : Dc) (w : World) (ha : a.d.length ≤ 1000000) (hb : b.d.length ≤ 1000000) (ea0 : -4000000000 ≤ a.e) (ea1 : a.e ≤ 4000000000) (eb0 : -4000000000 ≤ b.e) (eb1 : b.e ≤ 4000000000) :
    Calls Tryd.prog 20 #[dcV a, dcV b] w fun e w' => e = .returned (.int .i64 (cmpF a b)) ∧ Below w.heap.size w w' := by
  have HR : Hid (cmpF a b = _) := Lib.hid ((rfl : cmpF a b = cmpN (normF a) (normF b)).trans (cmpN_is (normF a) (normF b)))
  have HN1 := Lib.hid (fun W => norm_any a W ha ea0 ea1)
  have HN2 := Lib.hid (fun W => norm_any b W hb eb0 eb1)
  have HL1 : Hid ((normF a).d.length ≤ 1000000 ∧ -5000000000 ≤ (normF a).e ∧ (normF a).e ≤ 5000000000) := Lib.hid (by have h1 := norm_len a; have h2 := norm_e a; omega)
  have HL2 : Hid ((normF b).d.length ≤ 1000000 ∧ -5000000000 ≤ (normF b).e ∧ (normF b).e ≤ 5000000000) := Lib.hid (by have h1 := norm_len b; have h2 := norm_e b; omega)
  generalize cmpF a b = r at *
  generalize normF a = x at *
  generalize normF b = y at *
  have HG1 := Lib.hid (fun W => signOf_any x W)
  have HG2 := Lib.hid (fun W => signOf_any y W)
  have HA := Lib.hid (fun W => cmpAmounts_any x y W HL1.out.1 HL2.out.1 HL1.out.2.1 HL1.out.2.2 HL2.out.2.1 HL2.out.2.2)
  have HC := Lib.hid (fun W => compareI_any (sgD x) (sgD y) W)
  have hzb := sizeF_b x y
  have hgb := sgD_b x
  generalize sgD x = g1 at *
  generalize sgD y = g2 at *
  generalize sizeF x y = z at *
  generalize cmpI g1 g2 = c0 at *
  obtain ⟨n, d, e⟩ := a
  obtain ⟨m, c, f⟩ := b
  obtain ⟨xn, xd, xe⟩ := x
  obtain ⟨yn, yd, ye⟩ := y
  unfold dcV at HN1 HN2 HG1 HG2 HA ⊢
  dsimp only at *
  clear HL1 HL2
  go_enter Tryd.func20, Tryd.ntmps20
  go_wp2_with fail
  have HB0 : Hid (Below w.heap.size w ((w.alloc (.cells #[.bool n, .string (bs d), .int .i64 e] 23)).alloc (.cells #[.bool m, .string (bs c), .int .i64 f] 23))) := Lib.hid (((Below.refl _ _).alloc (Nat.le_refl _) _).alloc (by rw [World.size_alloc]; omega) _)
  have HX1 : Hid (DcBlk ((w.alloc (.cells #[.bool n, .string (bs d), .int .i64 e] 23)).alloc (.cells #[.bool m, .string (bs c), .int .i64 f] 23)) w.heap.size n (bs d) e) := Lib.hid ((Blk.new w 23 _).alloc _)
  have HX2 : Hid (DcBlk ((w.alloc (.cells #[.bool n, .string (bs d), .int .i64 e] 23)).alloc (.cells #[.bool m, .string (bs c), .int .i64 f] 23)) (w.heap.size + 1) m (bs c) f) := Lib.hid (by have h := Blk.new (w.alloc (.cells #[.bool n, .string (bs d), .int .i64 e] 23)) 23 #[.bool m, .string (bs c), .int .i64 f]; rwa [World.size_alloc] at h)
  generalize (w.alloc (.cells #[.bool n, .string (bs d), .int .i64 e] 23)).alloc (.cells #[.bool m, .string (bs c), .int .i64 f] 23) = w0 at *
  refine wp_region_V (fun V => DcBlk V w.heap.size n (bs d) e ∧ DcBlk V (w.heap.size + 1) m (bs c) f) [4, 5] (by kernel_rfl) ?_
  have hgd : Below w0.heap.size w0 w0.drew := (Below.refl _ _).drew
  have HB1 := Lib.hid (HB0.out.trans (hgd.mono HB0.out.size))
  have HS1 : Hid (DcBlk w0.drew w.heap.size n (bs d) e ∧ DcBlk w0.drew (w.heap.size + 1) m (bs c) f) := Lib.hid ⟨HX1.out.below hgd HX1.out.lt, HX2.out.below hgd HX2.out.lt⟩
  clear HB0 HX1 HX2 hgd
  generalize w0.drew = w1 at *
  refine wpV_take 0 7 [4, 5] (v := ?v0) rfl rfl (by kernel_rfl) (by kernel_rfl) (by kernel_rfl) (by kernel_rfl) (fun _ _ _ h => h) HS1.out (Or.inl ⟨by rfl, ?y0⟩) ?r0
  case y0 => (intro W hW; have k0 := hW.1.cell 0; have k1 := hW.1.cell 1; have k2 := hW.1.cell 2; simp only [List.getElem?_toArray, List.getElem?_cons_zero, List.getElem?_cons_succ] at k0 k1 k2; (go_simp; try with_reducible rfl))
  simp only [Act.put, List.setIfInBounds_toArray, List.set_cons_zero, List.set_cons_succ]
  refine wpV_take 2 9 [4, 5] (v := ?v2) rfl rfl (by kernel_rfl) (by kernel_rfl) (by kernel_rfl) (by kernel_rfl) (fun _ _ _ h => h) HS1.out (Or.inl ⟨by rfl, ?y2⟩) ?r2
  case y2 => (intro W hW; have k0 := hW.2.cell 0; have k1 := hW.2.cell 1; have k2 := hW.2.cell 2; simp only [List.getElem?_toArray, List.getElem?_cons_zero, List.getElem?_cons_succ] at k0 k1 k2; (go_simp; try with_reducible rfl))
  simp only [Act.put, List.setIfInBounds_toArray, List.set_cons_zero, List.set_cons_succ]
  refine wpV_one 1 (by kernel_rfl) rfl (fun K hK => ?_)
  go_simp
  refine (HN1.out _).mono ?_
  rintro e1 w2 ⟨rfl, hb⟩
  have HB2 := Lib.hid (HB1.out.trans (hb.mono HB1.out.size))
  have HS2 := Lib.hid (And.intro (HS1.out.1.below hb HS1.out.1.lt) (HS1.out.2.below hb HS1.out.2.lt))
  refine hK.out _ _ (.inr HS2.out) ?_
  clear hK K hb
  try simp only [Act.put, List.getElem_toArray, List.getElem_cons_succ, List.getElem_cons_zero, List.setIfInBounds_toArray, List.set_cons_zero, List.set_cons_succ]
  refine wpV_one 3 (by kernel_rfl) rfl (fun K hK => ?_)
  go_simp
  refine (HN2.out _).mono ?_
  rintro e1 w3 ⟨rfl, hb⟩
  have HB3 := Lib.hid (HB2.out.trans (hb.mono HB2.out.size))
  have HS3 := Lib.hid (And.intro (HS2.out.1.below hb HS2.out.1.lt) (HS2.out.2.below hb HS2.out.2.lt))
  refine hK.out _ _ (.inr HS3.out) ?_
  clear hK K hb HS1 HS2 HB1 HB2
  try simp only [Act.put, List.getElem_toArray, List.getElem_cons_succ, List.getElem_cons_zero, List.setIfInBounds_toArray, List.set_cons_zero, List.set_cons_succ]
  have hlt1 : w.heap.size < w3.heap.size := HS3.out.1.lt
  have hlt2 : w.heap.size + 1 < w3.heap.size := HS3.out.2.lt
  have f10 : w3.frozen? ⟨w.heap.size, 0, none⟩ = false := HS3.out.1.frozen 0
  have f11 : w3.frozen? ⟨w.heap.size, 1, none⟩ = false := HS3.out.1.frozen 1
  have f12 : w3.frozen? ⟨w.heap.size, 2, none⟩ = false := HS3.out.1.frozen 2
  have f20 : w3.frozen? ⟨w.heap.size + 1, 0, none⟩ = false := HS3.out.2.frozen 0
  have f21 : w3.frozen? ⟨w.heap.size + 1, 1, none⟩ = false := HS3.out.2.frozen 1
  have f22 : w3.frozen? ⟨w.heap.size + 1, 2, none⟩ = false := HS3.out.2.frozen 2
  have k10 : w3.cell? ⟨w.heap.size, 0, none⟩ = some (.bool n) := HS3.out.1.cell 0
  have k11 : w3.cell? ⟨w.heap.size, 1, none⟩ = some (.string (bs d)) := HS3.out.1.cell 1
  have k12 : w3.cell? ⟨w.heap.size, 2, none⟩ = some (.int .i64 e) := HS3.out.1.cell 2
  have k20 : w3.cell? ⟨w.heap.size + 1, 0, none⟩ = some (.bool m) := HS3.out.2.cell 0
  have k21 : w3.cell? ⟨w.heap.size + 1, 1, none⟩ = some (.string (bs c)) := HS3.out.2.cell 1
  have k22 : w3.cell? ⟨w.heap.size + 1, 2, none⟩ = some (.int .i64 f) := HS3.out.2.cell 2
  refine wpV_one 4 (by kernel_rfl) rfl (fun K hK => ?_)
  go_simp
  refine hK.out _ _ (.inl rfl) ?_
  clear hK K
  try simp only [Act.put, List.getElem_toArray, List.getElem_cons_succ, List.getElem_cons_zero, List.setIfInBounds_toArray, List.set_cons_zero, List.set_cons_succ]
  refine wpV_one 5 (by kernel_rfl) rfl (fun K hK => ?_)
  go_simp
  refine hK.out _ _ (.inl rfl) ?_
  clear hK K
  try simp only [Act.put, List.getElem_toArray, List.getElem_cons_succ, List.getElem_cons_zero, List.setIfInBounds_toArray, List.set_cons_zero, List.set_cons_succ]
  refine wpV_done (by kernel_rfl) ?_ _
  have hne : w.heap.size ≠ w.heap.size + 1 := by omega
  have HX1 : Hid (DcBlk ((((((w3.setCell ⟨w.heap.size, 0, none⟩ (.bool xn)).setCell ⟨w.heap.size, 1, none⟩ (.string (bs xd))).setCell ⟨w.heap.size, 2, none⟩ (.int .i64 xe)).setCell ⟨w.heap.size + 1, 0, none⟩ (.bool yn)).setCell ⟨w.heap.size + 1, 1, none⟩ (.string (bs yd))).setCell ⟨w.heap.size + 1, 2, none⟩ (.int .i64 ye)) w.heap.size xn (bs xd) xe) := Lib.hid ((((((HS3.out.1.set' 0 _ rfl).set' 1 _ rfl).set' 2 _ rfl).far hne _).far hne _).far hne _)
  have HX2 : Hid (DcBlk ((((((w3.setCell ⟨w.heap.size, 0, none⟩ (.bool xn)).setCell ⟨w.heap.size, 1, none⟩ (.string (bs xd))).setCell ⟨w.heap.size, 2, none⟩ (.int .i64 xe)).setCell ⟨w.heap.size + 1, 0, none⟩ (.bool yn)).setCell ⟨w.heap.size + 1, 1, none⟩ (.string (bs yd))).setCell ⟨w.heap.size + 1, 2, none⟩ (.int .i64 ye)) (w.heap.size + 1) yn (bs yd) ye) := Lib.hid ((((((HS3.out.2.far hne.symm _).far hne.symm _).far hne.symm _).set' 0 _ rfl).set' 1 _ rfl).set' 2 _ rfl)
  have HB4 : Hid (Below w.heap.size w ((((((w3.setCell ⟨w.heap.size, 0, none⟩ (.bool xn)).setCell ⟨w.heap.size, 1, none⟩ (.string (bs xd))).setCell ⟨w.heap.size, 2, none⟩ (.int .i64 xe)).setCell ⟨w.heap.size + 1, 0, none⟩ (.bool yn)).setCell ⟨w.heap.size + 1, 1, none⟩ (.string (bs yd))).setCell ⟨w.heap.size + 1, 2, none⟩ (.int .i64 ye))) := Lib.hid ((((((HB3.out.setCell (by simp) _).setCell (by simp) _).setCell (by simp) _).setCell (by simp) _).setCell (by simp) _).setCell (by simp) _)
  clear f10 f11 f12 f20 f21 f22 k10 k11 k12 k20 k21 k22 HS3 HB3 hlt1 hlt2 hne HN1 HN2
  generalize ((((((w3.setCell ⟨w.heap.size, 0, none⟩ (.bool xn)).setCell ⟨w.heap.size, 1, none⟩ (.string (bs xd))).setCell ⟨w.heap.size, 2, none⟩ (.int .i64 xe)).setCell ⟨w.heap.size + 1, 0, none⟩ (.bool yn)).setCell ⟨w.heap.size + 1, 1, none⟩ (.string (bs yd))).setCell ⟨w.heap.size + 1, 2, none⟩ (.int .i64 ye)) = w4 at *
  have k10 : w4.cell? ⟨w.heap.size, 0, none⟩ = some (.bool xn) := HX1.out.cell 0
  have k11 : w4.cell? ⟨w.heap.size, 1, none⟩ = some (.string (bs xd)) := HX1.out.cell 1
  have k12 : w4.cell? ⟨w.heap.size, 2, none⟩ = some (.int .i64 xe) := HX1.out.cell 2
  go_wp2_with fail
  with_reducible refine (HG1.out _).mono ?_
  rintro e1 w5 ⟨rfl, hb⟩
  have HB5 := Lib.hid (HB4.out.trans (hb.mono HB4.out.size))
  have HX15 := Lib.hid (HX1.out.below hb HX1.out.lt)
  have HX25 := Lib.hid (HX2.out.below hb HX2.out.lt)
  clear hb HX1 HX2 HB4 k10 k11 k12
  have k20 : w5.cell? ⟨w.heap.size + 1, 0, none⟩ = some (.bool yn) := HX25.out.cell 0
  have k21 : w5.cell? ⟨w.heap.size + 1, 1, none⟩ = some (.string (bs yd)) := HX25.out.cell 1
  have k22 : w5.cell? ⟨w.heap.size + 1, 2, none⟩ = some (.int .i64 ye) := HX25.out.cell 2
  go_wp2_with fail
  with_reducible refine (HG2.out _).mono ?_
  rintro e1 w6 ⟨rfl, hb⟩
  have HB6 := Lib.hid (HB5.out.trans (hb.mono HB5.out.size))
  have HX16 := Lib.hid (HX15.out.below hb HX15.out.lt)
  have HX26 := Lib.hid (HX25.out.below hb HX25.out.lt)
  clear hb HX15 HX25 HB5 k20 k21 k22
  by_cases hg : g1 = g2
  · subst hg
    have hgg : (g1 != g1) = false := by simp
    have hr : r = g1 * z := by rw [HR.out, if_neg (by rw [hgg]; simp)]
    have hw : IntKind.i64.wrap (g1 * z) = g1 * z := IntWalk.i64_in _ (by rcases hgb with rfl | rfl | rfl <;> omega)
    subst hr
    clear HR hgb hzb
    have k10 : w6.cell? ⟨w.heap.size, 0, none⟩ = some (.bool xn) := HX16.out.cell 0
    have k11 : w6.cell? ⟨w.heap.size, 1, none⟩ = some (.string (bs xd)) := HX16.out.cell 1
    have k12 : w6.cell? ⟨w.heap.size, 2, none⟩ = some (.int .i64 xe) := HX16.out.cell 2
    have k20 : w6.cell? ⟨w.heap.size + 1, 0, none⟩ = some (.bool yn) := HX26.out.cell 0
    have k21 : w6.cell? ⟨w.heap.size + 1, 1, none⟩ = some (.string (bs yd)) := HX26.out.cell 1
    have k22 : w6.cell? ⟨w.heap.size + 1, 2, none⟩ = some (.int .i64 ye) := HX26.out.cell 2
    go_wp2_with fail
    with_reducible refine (HA.out _).mono ?_
    rintro e1 w7 ⟨rfl, hb⟩
    have HB7 := Lib.hid (HB6.out.trans (hb.mono HB6.out.size))
    clear hb
    go_wp2
    go_ret
    exact ⟨rfl, HB7.out⟩
  · have hgg : (g1 != g2) = true := by simpa using hg
    have hr : r = c0 := by rw [HR.out, if_pos hgg]
    subst hr
    clear HR hgb hzb hg
    go_wp2_with fail
    with_reducible refine (HC.out _).mono ?_
    rintro e1 w7 ⟨rfl, rfl⟩
    go_wp2
    go_ret
    exact ⟨rfl, HB6.out⟩
end Go.Proofs.YtadbnajodpfpgaaDoor
