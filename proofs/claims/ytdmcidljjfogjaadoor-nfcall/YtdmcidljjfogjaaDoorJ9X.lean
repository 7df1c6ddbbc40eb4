/- Joined of: N9EqualWalk. -/
import Derived.Test.YtdmcidljjfogjaaDoorJ9V
import Derived.Test.YtdmcidljjfogjaaDoorJ9K
/- The walk of NfcEqual. -/
namespace Go.Proofs.YtdmcidljjfogjaaDoor
set_option maxRecDepth 100000
open Go.ChangeShapes Go.WideShapes Go.ChangeAt Go.RowKit
set_option linter.unusedVariables false
set_option linter.unusedSimpArgs false
attribute [local irreducible] P5 S5 C5

/-- what stays: both tables, a row -/
structure E9 (w : World) (g R : Nat) (A : Option Addr) (n c : Nat) (l : List Int) (W : World) : Prop where
  k : K9 w g W
  d : DT W R
  r : RowIn W A n c l
theorem E9.go {w W W' : World} {g R : Nat} {A : Option Addr} {n c : Nat} {l : List Int} (h : E9 w g R A n c l W) (hb : Below W.heap.size W W') : E9 w g R A n c l W' := ⟨h.k.go hb, h.d.go hb, h.r.go hb⟩
theorem all_most {w : World} {A : Option Addr} {n c : Nat} {l : List Int} {B : Option Addr} {m d : Nat} {w' : World} (hA : RowIn w A n c l) (hB : RowIn w' B m d (allF T5 cl5 l)) (k : Nat) (hn : n ≤ k) : m ≤ 96 * k := by
  have h1 := hB.len
  have h2 := allF_len (cl := cl5) sy5_len l
  rw [hA.len] at h2
  omega
theorem one_eq (l m : List Int) : decide (form5 l = form5 m) = decide (allF T5 cl5 l = allF T5 cl5 m) := by
  rw [decide_eq_decide]
  exact form_eq cmp5 l m
theorem one_sym (l m : List Int) : decide (allF T5 cl5 l = allF T5 cl5 m) = decide (allF T5 cl5 m = allF T5 cl5 l) := by
  rw [decide_eq_decide]
  exact ⟨Eq.symm, Eq.symm⟩
theorem one_form (l : List Int) : decide (form5 l = form5 (form5 l)) = true := decide_eq_true (form_once cmp5 l).symm

set_option maxHeartbeats 8000000 in
theorem equal_walk (HN : NfcOk) (a0 : Option Addr) (len0 cap0 : Nat) (z0 : List Int) (a1 : Option Addr) (len1 cap1 : Nat) (z1 : List Int) (mine : Bool) (w : World) (hTab : Tab w) (r0 : ArgRow .i64 w a0 len0 cap0 z0) (r1 : ArgRow .i64 w a1 len1 cap1 z1) :
    Calls Tryd.prog 7 #[.slice a0 len0 cap0, .slice a1 len1 cap1, .bool mine] w fun e w' => e = .returned (.bool true) ∧ Below w.heap.size w w' := by
  have HR0 := Lib.hid r0
  have HR1 := Lib.hid r1
  have HTB := Lib.hid hTab
  have HNF := Lib.hid HN
  clear r0 r1 hTab HN
  go_enter Tryd.func7, Tryd.ntmps7
  go_wp2_with fail
  with_reducible refine (ubuild_any _).mono ?_
  rintro e w1 ⟨g, rfl, ht, hb⟩
  have HK1 : Hid (K9 w g w1) := Lib.hid ⟨ht, HTB.out.below' hb, hb⟩
  clear ht hb HTB
  go_wp2_with fail
  with_reducible refine (dbuild_any _).mono ?_
  rintro e w2 ⟨rfl, hd, hb2⟩
  have HK2 := Lib.hid (HK1.out.go hb2)
  have HD2 : Hid (DT w2 (w1.heap.size + 5)) := Lib.hid ⟨_, rfl, hd⟩
  clear hd hb2 HK1
  generalize w1.heap.size + 5 = R at *
  have HRU := Lib.hid (runes7 (HR0.out.go HK2.out.be))
  go_wp2_with fail
  with_reducible refine HRU.out.mono ?_
  rintro e w3 ⟨A, n, c, l, rfl, hr3, hR3, hn, hb3⟩
  have HE3 : Hid (E9 w g R A n c l w3) := Lib.hid ⟨HK2.out.go hb3, HD2.out.go hb3, hr3⟩
  have HRR := Lib.hid hR3
  clear hr3 hR3 hb3 HK2 HD2 HRU HR0
  have HRU := Lib.hid (runes7 (HR1.out.go HE3.out.k.be))
  go_wp2_with fail
  with_reducible refine HRU.out.mono ?_
  rintro e w4 ⟨B, m, d, k, rfl, hr4, hR4, hm, hb4⟩
  have HE4 := Lib.hid (HE3.out.go hb4)
  have HM4 := Lib.hid hr4
  have HRM := Lib.hid hR4
  clear hr4 hR4 hb4 HE3 HRU HR1
  cases mine with
  | false =>
    have hm : m ≤ 5760 := by omega
    go_wp2_with fail
    with_reducible refine (rall_any _ R _ _ _ _ HE4.out.r HE4.out.d HRR.out (by omega)).mono ?_
    rintro e w6 ⟨A6, n6, c6, rfl, hr6, hb6⟩
    have HE6 := Lib.hid (HE4.out.go hb6)
    have HM6 := Lib.hid (HM4.out.go hb6)
    have HA6 := Lib.hid hr6
    clear hr6 hb6 HE4 HM4
    have hn6 := all_most HE6.out.r HA6.out 60 hn
    go_wp2_with fail
    with_reducible refine (rall_any _ R _ _ _ _ HM6.out HE6.out.d HRM.out (by omega)).mono ?_
    rintro e w7 ⟨A7, n7, c7, rfl, hr7, hb7⟩
    have HE7 := Lib.hid (HE6.out.go hb7)
    have HM7 := Lib.hid (HM6.out.go hb7)
    have HA7 := Lib.hid (HA6.out.go hb7)
    have HB7 := Lib.hid hr7
    clear hr7 hb7 HE6 HM6 HA6
    have hn7 := all_most HM7.out HB7.out 5760 hm
    go_wp2_with fail
    with_reducible refine (same_dec HA7.out HB7.out (by omega) (by omega)).mono ?_
    rintro e w8 ⟨rfl, hs8⟩
    have HE8 := Lib.hid (HE7.out.go hs8.below)
    have HM8 := Lib.hid (HM7.out.go hs8.below)
    clear hs8 HE7 HM7 HA7 HB7
    have HQ1 := Lib.hid (HNF.out.equal _ g _ _ _ _ _ _ _ _ HE8.out.r HM8.out HE8.out.k.t HRR.out HRM.out (by omega) (by omega))
    rw [one_eq] at HQ1
    have HQ2 : Hid (∀ W A2 n2 c2, E9 w g R A n c l W → RowIn W A2 n2 c2 (form5 l) → Calls Tryd.prog 18 #[.pointer (some ⟨g, 0, none⟩), .slice A n c, .slice A2 n2 c2] W fun e w' => e = .returned (.bool true) ∧ Below W.heap.size W w') := Lib.hid fun W A2 n2 c2 h h2 => by
      have := HNF.out.equal W g _ _ _ _ _ _ _ _ h.r h2 h.k.t HRR.out (form_in HRR.out) (by omega) (by have := form_most h.r h2 hn; omega)
      rwa [one_form] at this
    have HQ3 : Hid (∀ W, E9 w g R A n c l W → RowIn W B m d k → Calls Tryd.prog 18 #[.pointer (some ⟨g, 0, none⟩), .slice B m d, .slice A n c] W fun e w' => e = .returned (.bool (decide (allF T5 cl5 l = allF T5 cl5 k))) ∧ Below W.heap.size W w') := Lib.hid fun W h h2 => by
      have := HNF.out.equal W g _ _ _ _ _ _ _ _ h2 h.r h.k.t HRM.out HRR.out (by omega) (by omega)
      rwa [one_eq, one_sym] at this
    have HAW := Lib.hid (fun W => awake9 HNF.out W g)
    generalize decide (allF T5 cl5 l = allF T5 cl5 k) = one at *
    have hone : (one == one) = true := by simp
    go_wp2_with fail
    with_reducible refine HQ1.out.mono ?_
    rintro e w9 ⟨rfl, hb9⟩
    have HE9 := Lib.hid (HE8.out.go hb9)
    have HM9 := Lib.hid (HM8.out.go hb9)
    clear hb9 HE8 HM8 HQ1
    go_wp2_with fail
    with_reducible refine (HNF.out.form _ g _ _ _ _ HE9.out.r HE9.out.k.t HRR.out (by omega)).mono ?_
    rintro e w10 ⟨A10, n10, c10, rfl, hr10, hb10⟩
    have HE10 := Lib.hid (HE9.out.go hb10)
    have HM10 := Lib.hid (HM9.out.go hb10)
    have HF10 := Lib.hid hr10
    clear hr10 hb10 HE9 HM9
    go_wp2_with fail
    with_reducible refine (HQ2.out _ _ _ _ HE10.out HF10.out).mono ?_
    rintro e w11 ⟨rfl, hb11⟩
    have HE11 := Lib.hid (HE10.out.go hb11)
    have HM11 := Lib.hid (HM10.out.go hb11)
    clear hb11 HE10 HM10 HF10
    go_wp2_with fail
    with_reducible refine (HQ3.out _ HE11.out HM11.out).mono ?_
    rintro e w12 ⟨rfl, hb12⟩
    have HE12 := Lib.hid (HE11.out.go hb12)
    clear hb12 HE11 HM11
    go_wp2_with fail
    with_reducible refine (HAW.out _ HE12.out.k.t HE12.out.k.tab).mono ?_
    rintro e w13 ⟨rfl, hb13⟩
    have HE13 := Lib.hid (HE12.out.go hb13)
    clear hb13 HE12
    go_wp2
    go_ret
    exact ⟨rfl, HE13.out.k.be⟩
  | true =>
    go_wp2_with fail
    with_reducible refine (rall_any _ R _ _ _ _ HE4.out.r HE4.out.d HRR.out (by omega)).mono ?_
    rintro e w5 ⟨B5, m5, d5, rfl, hr5, hb5⟩
    clear HM4 HRM hm
    have hm := all_most HE4.out.r hr5 60 hn
    have HRM := Lib.hid (all5_in HRR.out)
    have HE5 := Lib.hid (HE4.out.go hb5)
    have HM5 := Lib.hid hr5
    clear hr5 hb5 HE4
    generalize allF T5 cl5 l = k at HM5 HRM
    have HE4 := Lib.hid HE5.out
    have HM4 := Lib.hid HM5.out
    clear HE5 HM5
    have hm : m5 ≤ 5760 := by omega
    go_wp2_with fail
    with_reducible refine (rall_any _ R _ _ _ _ HE4.out.r HE4.out.d HRR.out (by omega)).mono ?_
    rintro e w6 ⟨A6, n6, c6, rfl, hr6, hb6⟩
    have HE6 := Lib.hid (HE4.out.go hb6)
    have HM6 := Lib.hid (HM4.out.go hb6)
    have HA6 := Lib.hid hr6
    clear hr6 hb6 HE4 HM4
    have hn6 := all_most HE6.out.r HA6.out 60 hn
    go_wp2_with fail
    with_reducible refine (rall_any _ R _ _ _ _ HM6.out HE6.out.d HRM.out (by omega)).mono ?_
    rintro e w7 ⟨A7, n7, c7, rfl, hr7, hb7⟩
    have HE7 := Lib.hid (HE6.out.go hb7)
    have HM7 := Lib.hid (HM6.out.go hb7)
    have HA7 := Lib.hid (HA6.out.go hb7)
    have HB7 := Lib.hid hr7
    clear hr7 hb7 HE6 HM6 HA6
    have hn7 := all_most HM7.out HB7.out 5760 hm
    go_wp2_with fail
    with_reducible refine (same_dec HA7.out HB7.out (by omega) (by omega)).mono ?_
    rintro e w8 ⟨rfl, hs8⟩
    have HE8 := Lib.hid (HE7.out.go hs8.below)
    have HM8 := Lib.hid (HM7.out.go hs8.below)
    clear hs8 HE7 HM7 HA7 HB7
    have HQ1 := Lib.hid (HNF.out.equal _ g _ _ _ _ _ _ _ _ HE8.out.r HM8.out HE8.out.k.t HRR.out HRM.out (by omega) (by omega))
    rw [one_eq] at HQ1
    have HQ2 : Hid (∀ W A2 n2 c2, E9 w g R A n c l W → RowIn W A2 n2 c2 (form5 l) → Calls Tryd.prog 18 #[.pointer (some ⟨g, 0, none⟩), .slice A n c, .slice A2 n2 c2] W fun e w' => e = .returned (.bool true) ∧ Below W.heap.size W w') := Lib.hid fun W A2 n2 c2 h h2 => by
      have := HNF.out.equal W g _ _ _ _ _ _ _ _ h.r h2 h.k.t HRR.out (form_in HRR.out) (by omega) (by have := form_most h.r h2 hn; omega)
      rwa [one_form] at this
    have HQ3 : Hid (∀ W, E9 w g R A n c l W → RowIn W B5 m5 d5 k → Calls Tryd.prog 18 #[.pointer (some ⟨g, 0, none⟩), .slice B5 m5 d5, .slice A n c] W fun e w' => e = .returned (.bool (decide (allF T5 cl5 l = allF T5 cl5 k))) ∧ Below W.heap.size W w') := Lib.hid fun W h h2 => by
      have := HNF.out.equal W g _ _ _ _ _ _ _ _ h2 h.r h.k.t HRM.out HRR.out (by omega) (by omega)
      rwa [one_eq, one_sym] at this
    have HAW := Lib.hid (fun W => awake9 HNF.out W g)
    generalize decide (allF T5 cl5 l = allF T5 cl5 k) = one at *
    have hone : (one == one) = true := by simp
    go_wp2_with fail
    with_reducible refine HQ1.out.mono ?_
    rintro e w9 ⟨rfl, hb9⟩
    have HE9 := Lib.hid (HE8.out.go hb9)
    have HM9 := Lib.hid (HM8.out.go hb9)
    clear hb9 HE8 HM8 HQ1
    go_wp2_with fail
    with_reducible refine (HNF.out.form _ g _ _ _ _ HE9.out.r HE9.out.k.t HRR.out (by omega)).mono ?_
    rintro e w10 ⟨A10, n10, c10, rfl, hr10, hb10⟩
    have HE10 := Lib.hid (HE9.out.go hb10)
    have HM10 := Lib.hid (HM9.out.go hb10)
    have HF10 := Lib.hid hr10
    clear hr10 hb10 HE9 HM9
    go_wp2_with fail
    with_reducible refine (HQ2.out _ _ _ _ HE10.out HF10.out).mono ?_
    rintro e w11 ⟨rfl, hb11⟩
    have HE11 := Lib.hid (HE10.out.go hb11)
    have HM11 := Lib.hid (HM10.out.go hb11)
    clear hb11 HE10 HM10 HF10
    go_wp2_with fail
    with_reducible refine (HQ3.out _ HE11.out HM11.out).mono ?_
    rintro e w12 ⟨rfl, hb12⟩
    have HE12 := Lib.hid (HE11.out.go hb12)
    clear hb12 HE11 HM11
    go_wp2_with fail
    with_reducible refine (HAW.out _ HE12.out.k.t HE12.out.k.tab).mono ?_
    rintro e w13 ⟨rfl, hb13⟩
    have HE13 := Lib.hid (HE12.out.go hb13)
    clear hb13 HE12
    go_wp2
    go_ret
    exact ⟨rfl, HE13.out.k.be⟩
end Go.Proofs.YtdmcidljjfogjaaDoor
