/- The walk of Utf16Orders. -/
import Derived.Test.YtmidoopapfkilaaU16BackWalk
namespace Go.Proofs.Ytmidoopapfkilaa
open Go.ChangeShapes Go.WideShapes Go.ChangeAt Go.RowKit
set_option linter.unusedVariables false

theorem uns_inj {a b : List Int} (ha : Scals a) (hb : Scals b) (h : uns a = uns b) : a = b := by
  have e := scS_uns ha
  rw [h, scS_uns hb] at e
  injection e with e _
  exact e.symm
theorem cmp_same {a b : List Int} (ha : Scals a) (hb : Scals b) : (cmpL (uns a) (uns b) == 0) = decide (a = b) := by
  by_cases h : a = b
  · rw [decide_eq_true h, h, cmpL_refl]; rfl
  · rw [decide_eq_false h, beq_eq_false_iff_ne]
    exact fun e => h (uns_inj ha hb (cmpL_eq e))
theorem un1_pos {c : Int} (h : isB c = true) : un1 c ≠ [] := by
  rcases un1_cases c with ⟨hi, e⟩ | ⟨hi, hx, e⟩ | ⟨hx, hg, e⟩
  · rw [h] at hi; cases hi
  · rw [e]; simp
  · rw [e]; simp
theorem cmp_more {a b : List Int} (hb : Scals b) (hn : 0 < b.length) : cmpL (uns a) (uns (a ++ b)) = -1 := by
  have : cmpL (uns a ++ []) (uns a ++ uns b) = cmpL [] (uns b) := cmpL_pre _ _ _
  rw [List.append_nil] at this
  rw [uns_app, this]
  refine cmpL_nil_left ?_
  cases b with
  | nil => simp at hn
  | cons c b =>
    rw [uns_cons]
    have := un1_pos (hb c (by simp))
    simp [this]
theorem own_nil {w : World} {base : Nat} {t : TypeId} {k : IntKind} {A : Option Addr} {n c : Nat} {xs : List Int} (h : w.ownsRow base t 1 (.slice A n c) n (xs.map (Value.int k))) : A = none → c = 0 := by
  rcases h.2 with ⟨e1, e2⟩ | ⟨g, cap, cur, hv, _⟩
  · injection e1 with e1 e2 e3; intro _; exact e3
  · injection hv with e1 e2 e3; intro h; rw [h] at e1; cases e1
/-- what Runes hands back, told by its cells -/
def RunesSl (w : World) (e : Ending) (w' : World) : Prop :=
  ∃ A n c l, e = .returned (.slice A n c) ∧ l.length = n ∧ Ints w' w'.heap.size .i32 A l ∧ (A = none → c = 0) ∧ (n ≤ c ∧ c ≤ maxLen) ∧ Scals l ∧ n ≤ 60 ∧ Below w.heap.size w w'
theorem SomeRow.sl {w w' : World} {e : Ending} (h : SomeRow w e w') : RunesSl w e w' := by
  obtain ⟨v, l, rfl, hO, hS, hl, hb⟩ := h
  obtain ⟨A, c, rfl, hc, hcm⟩ := own_form hO
  exact ⟨A, l.length, c, l, rfl, rfl, Ints.own hO, own_nil hO, ⟨hc, hcm⟩, hS, hl, hb⟩

theorem ArgRow.go {k : IntKind} {w w' : World} {a : Option Addr} {len cap : Nat} {z : List Int} (h : ArgRow k w a len cap z) (hb : Below w.heap.size w w') : ArgRow k w' a len cap z :=
  ⟨h.size, h.le, h.max, h.nil, h.row.go hb, h.wf⟩

/-- of three rows -/
theorem ord3 (x y z : List Int) : (decide (cmpL x y ≤ 0) && decide (cmpL y z ≤ 0) && decide (0 < cmpL x z)) = false := by
  by_cases h1 : cmpL x y ≤ 0
  · by_cases h2 : cmpL y z ≤ 0
    · have := cmpL_trans h1 h2
      rw [decide_eq_false (by omega : ¬ 0 < cmpL x z)]; simp
    · rw [decide_eq_false h2]; simp
  · rw [decide_eq_false h1]; simp

set_option maxHeartbeats 4000000 in
theorem orders_walk (a0 : Option Addr) (len0 cap0 : Nat) (z0 : List Int) (a1 : Option Addr) (len1 cap1 : Nat) (z1 : List Int) (a2 : Option Addr) (len2 cap2 : Nat) (z2 : List Int) (w : World)
    (r0 : ArgRow .i64 w a0 len0 cap0 z0) (r1 : ArgRow .i64 w a1 len1 cap1 z1) (r2 : ArgRow .i64 w a2 len2 cap2 z2) :
    Calls Try.prog 5 #[.slice a0 len0 cap0, .slice a1 len1 cap1, .slice a2 len2 cap2] w fun e w' => e = .returned (.bool true) ∧ Below w.heap.size w w' := by
  have R0 := Lib.hid r0
  have R1 := Lib.hid r1
  have R2 := Lib.hid r2
  clear r0 r1 r2
  go_enter Try.func5, Try.ntmps5
  go_wp2_with fail
  with_reducible refine (Calls.mono (runes_any a0 len0 cap0 z0 w R0.out) (fun _ _ h => SomeRow.sl h)).mono ?_
  rintro e w1 ⟨A, n, ca, x, rfl, hxn, hxI, hxz, hxc, hxS, hxl, hb1⟩
  have HXN := Lib.hid hxn
  have HXI := Lib.hid hxI
  have HXZ := Lib.hid hxz
  have HXS := Lib.hid hxS
  clear hxn hxI hxz hxS
  go_wp2_with fail
  with_reducible refine (Calls.mono (runes_any a1 len1 cap1 z1 w1 (R1.out.go hb1)) (fun _ _ h => SomeRow.sl h)).mono ?_
  rintro e w2 ⟨B, m, cb, y, rfl, hyn, hyI, hyz, hyc, hyS, hyl, hb2'⟩
  have hb2 := hb1.trans (hb2'.mono hb1.size)
  have HYN := Lib.hid hyn
  have HYI := Lib.hid hyI
  have HYZ := Lib.hid hyz
  have HYS := Lib.hid hyS
  have HXI2 := Lib.hid (HXI.out.go hb2')
  clear hyn hyI hyz hyS hb2' HXI
  go_wp2_with fail
  with_reducible refine (Calls.mono (runes_any a2 len2 cap2 z2 w2 (R2.out.go hb2)) (fun _ _ h => SomeRow.sl h)).mono ?_
  rintro e w3 ⟨C, p, cc, z, rfl, hzn, hzI, hzz, hzc, hzS, hzl, hb3'⟩
  have hb3 := hb2.trans (hb3'.mono hb2.size)
  have HZN := Lib.hid hzn
  have HZI := Lib.hid hzI
  have HXI3 := Lib.hid (HXI2.out.go hb3')
  have HYI3 := Lib.hid (HYI.out.go hb3')
  clear hzn hzI hzz hzS hb3' HXI2 HYI hb1 hb2 R0 R1 R2
  go_wp2_with fail
  with_reducible refine (compare_any A B n m ca cb x y w3 HXN.out HYN.out HXI3.out HYI3.out (by omega) (by omega)).mono ?_
  rintro e w4 ⟨rfl, hb4'⟩
  have hb4 := hb3.trans (hb4'.mono hb3.size)
  have HX4 := Lib.hid (HXI3.out.go hb4')
  have HY4 := Lib.hid (HYI3.out.go hb4')
  have HZ4 := Lib.hid (HZI.out.go hb4')
  clear hb4' HXI3 HYI3 HZI hb3
  go_wp2_with fail
  with_reducible refine (compare_any B C m p cb cc y z w4 HYN.out HZN.out HY4.out HZ4.out (by omega) (by omega)).mono ?_
  rintro e w5 ⟨rfl, hb5'⟩
  have hb5 := hb4.trans (hb5'.mono hb4.size)
  have HX5 := Lib.hid (HX4.out.go hb5')
  have HY5 := Lib.hid (HY4.out.go hb5')
  have HZ5 := Lib.hid (HZ4.out.go hb5')
  clear hb5' HX4 HY4 HZ4 hb4
  go_wp2_with fail
  with_reducible refine (compare_any A C n p ca cc x z w5 HXN.out HZN.out HX5.out HZ5.out (by omega) (by omega)).mono ?_
  rintro e w6 ⟨rfl, hb6'⟩
  have hb6 := hb5.trans (hb6'.mono hb5.size)
  have HX6 := Lib.hid (HX5.out.go hb6')
  have HY6 := Lib.hid (HY5.out.go hb6')
  clear hb6' HX5 HY5 HZ5 hb5
  have H3 := ord3 (uns x) (uns y) (uns z)
  have hbd := cmpL_bd (uns x) (uns y)
  have HNEG := Lib.hid (cmpL_neg (uns x) (uns y))
  have HSAME := Lib.hid (cmp_same HXS.out HYS.out)
  have HREF := Lib.hid (cmpL_refl (uns x))
  have HMORE := Lib.hid (fun h => cmp_more (a := x) (b := y) HYS.out h)
  have hlx : x.length ≤ 60 := by rw [HXN.out]; exact hxl
  have hly : y.length ≤ 60 := by rw [HYN.out]; exact hyl
  generalize cmpL (uns x) (uns y) = P at *
  generalize cmpL (uns y) (uns z) = Q at *
  generalize cmpL (uns x) (uns z) = R at *
  have hcase : (P = -1 ∧ Q ≤ 0 ∧ ¬ 0 < R) ∨ (P = -1 ∧ ¬ Q ≤ 0) ∨ (P = 0 ∧ Q ≤ 0 ∧ ¬ 0 < R) ∨ (P = 0 ∧ ¬ Q ≤ 0) ∨ P = 1 := by
    simp only [Bool.and_eq_false_iff, decide_eq_false_iff_not] at H3
    omega
  clear H3 hbd
  rcases hcase with ⟨rfl, hq, hr⟩ | ⟨rfl, hq⟩ | ⟨rfl, hq, hr⟩ | ⟨rfl, hq⟩ | rfl
  case' inl =>
    have d1 : decide (Q ≤ 0) = true := decide_eq_true hq
    have d2 : decide (0 < R) = false := decide_eq_false hr
  case' inr.inl => have d1 : decide (Q ≤ 0) = false := decide_eq_false hq
  case' inr.inr.inl =>
    have d1 : decide (Q ≤ 0) = true := decide_eq_true hq
    have d2 : decide (0 < R) = false := decide_eq_false hr
  case' inr.inr.inr.inl => have d1 : decide (Q ≤ 0) = false := decide_eq_false hq
  all_goals
    by_cases hm : m = 0
    case' pos =>
      have hm' : ((m : Int) == 0) = true := beq_iff_eq.2 (by omega)
      have HML : Hid (True) := trivial
      clear hm
    case' neg =>
      have hm' : ((m : Int) == 0) = false := beq_eq_false_iff_ne.2 (by omega)
      have HML := Lib.hid (HMORE.out (by rw [HYN.out]; omega))
      clear hm
    all_goals
      go_wp2_with (first
        | (at_builtin; refine wpList_app_n rfl (.tmp 47) (.tmp 48) 22 rfl w6.heap.size 21 .i32 4 Try.underlying22 info_i32 (by omega) _ _ rfl (own_empty w6 _ 21 .i32 (Nat.le_refl _)) _ A n ca x HXN.out rfl HXZ.out (HX6.out.below (B' := w6.heap.size) ((Below.refl _ _).alloc (Nat.le_refl _) _) (Nat.le_refl _)) (by simp; omega) (by simp) ?_; intro v7 w7 hO7 hg7
           have hb67 : Below w6.heap.size w6 w7 := ((Below.refl _ w6).alloc (Nat.le_refl _) _).trans (own_grown_below (own_empty w6 _ 21 .i32 (Nat.le_refl _)) hg7 (by simp))
           have HO7 := Lib.hid hO7
           clear hO7 hg7)
        | (at_builtin; refine wpList_app_n rfl (.tmp 49) (.tmp 50) 22 rfl w6.heap.size 21 .i32 4 Try.underlying22 info_i32 (by omega) _ _ rfl HO7.out _ B m cb y HYN.out rfl HYZ.out (HY6.out.below hb67 (Nat.le_refl _)) (by simp; omega) hb67.size ?_; intro v8 w8 hO8 hg8
           have hb68 : Below w6.heap.size w6 w8 := hb67.trans (own_grown_below HO7.out hg8 hb67.size)
           clear hg8))
      obtain ⟨A8, c8, rfl, h8c, h8m⟩ := own_form hO8
      have HI8 := Lib.hid (Ints.own hO8)
      have hk8 : ([] ++ x ++ y).length ≤ 120 := by simp; omega
      generalize hL : [] ++ x ++ y = L at *
      have HL : Hid (L = x ++ y) := by rw [← hL]; rfl
      clear hL
      generalize hkn : L.length = k8 at *
      have HK8 := Lib.hid hkn
      have hb8 := hb6.trans (hb68.mono hb6.size)
      have HX8 := Lib.hid (HX6.out.go hb68)
      have HY8 := Lib.hid (HY6.out.go hb68)
      clear hkn hO8 hb68 hb67 HX6 HY6 HO7 h8c h8m
      with_reducible refine (compare_any B A m n cb ca y x w8 HYN.out HXN.out HY8.out HX8.out (by omega) (by omega)).mono ?_
      rintro e w9 ⟨rfl, hb9'⟩
      rw [HNEG.out]
      have hb9 := hb8.trans (hb9'.mono hb8.size)
      have HX9 := Lib.hid (HX8.out.go hb9')
      have HY9 := Lib.hid (HY8.out.go hb9')
      have HL9 := Lib.hid (HI8.out.go hb9')
      clear hb9' HX8 HY8 HI8 HNEG hb8
      go_wp2_with fail
      with_reducible refine (same_any A B n m ca cb x y w9 HXN.out HYN.out HX9.out HY9.out (by omega) (by omega)).mono ?_
      rintro e w10 ⟨rfl, hs10⟩
      rw [← HSAME.out]
      have hb10 := hb9.trans (hs10.lower _)
      have HX10 := Lib.hid (HX9.out.go hs10.below)
      have HL10 := Lib.hid (HL9.out.go hs10.below)
      clear hs10 HX9 HY9 HL9 HSAME hb9
      go_wp2_with fail
      with_reducible refine (compare_any A A n n ca ca x x w10 HXN.out HXN.out HX10.out HX10.out (by omega) (by omega)).mono ?_
      rintro e w11 ⟨rfl, hb11'⟩
      rw [HREF.out]
      have hb11 := hb10.trans (hb11'.mono hb10.size)
      have HX11 := Lib.hid (HX10.out.go hb11')
      have HL11 := Lib.hid (HL10.out.go hb11')
      clear hb11' HX10 HL10 HREF hb10
      go_wp2_with fail
      try
        (with_reducible refine (compare_any A A8 n k8 ca c8 x L w11 HXN.out HK8.out HX11.out HL11.out (by omega) (by omega)).mono ?_
         rintro e w12 ⟨rfl, hb12'⟩
         rw [HL.out, HML.out]
         have hb12 := hb11.trans (hb12'.mono hb11.size)
         clear hb12' hb11
         go_wp2_with fail)
      with_reducible refine (awake_any _).mono ?_
      rintro e w13 ⟨rfl, hb13'⟩
      first
        | have hb13 := hb12.trans (hb13'.mono hb12.size)
        | have hb13 := hb11.trans (hb13'.mono hb11.size)
      go_wp2
      go_ret
      exact ⟨rfl, hb13⟩
end Go.Proofs.Ytmidoopapfkilaa
