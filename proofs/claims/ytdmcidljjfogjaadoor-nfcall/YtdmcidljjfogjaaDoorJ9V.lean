/- Joined of: N9QuickWalk. -/
import Derived.Test.YtdmcidljjfogjaaDoorJ9S
import Derived.Test.YtdmcidljjfogjaaDoorJ9R
import Derived.Test.YtdmcidljjfogjaaDoorJ9K
/- The walk of NfcQuick. -/
namespace Go.Proofs.YtdmcidljjfogjaaDoor
set_option maxRecDepth 100000
open Go.ChangeShapes Go.WideShapes Go.ChangeAt Go.RowKit
set_option linter.unusedVariables false
set_option linter.unusedSimpArgs false
attribute [local irreducible] P5 S5 C5

theorem form_most {w : World} {A : Option Addr} {n c : Nat} {l : List Int} {B : Option Addr} {m d : Nat} {w' : World} (hA : RowIn w A n c l) (hB : RowIn w' B m d (form5 l)) (hn : n ≤ 60) : m ≤ 5760 := by
  have h1 := hB.len
  have h2 := form_len l
  rw [hA.len] at h2
  omega
theorem quick_facts (l : List Int) (q : Int) (is : Bool) (hq : quickF l = q) (hi : decide (form5 l = l) = is) : (q = 1 ∧ is = true) ∨ (q = 2 ∧ is = false) ∨ q = 3 := by
  have h1 := quick_in l
  rw [hq] at h1
  have : q = 1 ∨ q = 2 ∨ q = 3 := by omega
  rcases this with h | h | h
  · exact .inl ⟨h, by rw [← hi]; exact decide_eq_true (quick_yes (hq.trans h))⟩
  · exact .inr (.inl ⟨h, by rw [← hi]; exact decide_eq_false (quick_no (hq.trans h))⟩)
  · exact .inr (.inr h)

set_option maxHeartbeats 8000000 in
theorem quick_walk (HN : NfcOk) (a0 : Option Addr) (len0 cap0 : Nat) (z0 : List Int) (w : World) (hTab : Tab w) (r0 : ArgRow .i64 w a0 len0 cap0 z0) :
    Calls Tryd.prog 5 #[.slice a0 len0 cap0] w fun e w' => e = .returned (.bool true) ∧ Below w.heap.size w w' := by
  have HR0 := Lib.hid r0
  have HTB := Lib.hid hTab
  have HNF := Lib.hid HN
  clear r0 hTab HN
  go_enter Tryd.func5, Tryd.ntmps5
  go_wp2_with fail
  with_reducible refine (ubuild_any _).mono ?_
  rintro e w1 ⟨g, rfl, ht, hb⟩
  have HK1 : Hid (K9 w g w1) := Lib.hid ⟨ht, HTB.out.below' hb, hb⟩
  clear ht hb HTB
  have HRU := Lib.hid (runes7 (HR0.out.go HK1.out.be))
  go_wp2_with fail
  with_reducible refine HRU.out.mono ?_
  rintro e w3 ⟨A, n, c, l, rfl, hr3, hR3, hn, hb3⟩
  have HK3 := Lib.hid (HK1.out.go hb3)
  have HL3 := Lib.hid hr3
  have HRR := Lib.hid hR3
  clear hr3 hR3 hb3 HK1 HRU HR0
  go_wp2_with fail
  with_reducible refine (HNF.out.quick _ g _ _ _ _ HL3.out HK3.out.t HRR.out (by omega)).mono ?_
  rintro e w4 ⟨rfl, hb4⟩
  have HK4 := Lib.hid (HK3.out.go hb4)
  have HL4 := Lib.hid (HL3.out.go hb4)
  clear hb4 HK3 HL3
  go_wp2_with fail
  with_reducible refine (HNF.out.form _ g _ _ _ _ HL4.out HK4.out.t HRR.out (by omega)).mono ?_
  rintro e w5 ⟨A5, n5, c5, rfl, hr5, hb5⟩
  have HK5 := Lib.hid (HK4.out.go hb5)
  have HL5 := Lib.hid (HL4.out.go hb5)
  have HF5 := Lib.hid hr5
  clear hb5 hr5 HK4 HL4
  have hn5 := form_most HL5.out HF5.out hn
  go_wp2_with fail
  with_reducible refine (same_dec HF5.out HL5.out (by omega) (by omega)).mono ?_
  rintro e w6 ⟨rfl, hs6⟩
  have HK6 := Lib.hid (HK5.out.go hs6.below)
  have HL6 := Lib.hid (HL5.out.go hs6.below)
  have HF6 := Lib.hid (HF5.out.go hs6.below)
  clear hs6 HK5 HL5 HF5
  go_wp2_with fail
  with_reducible refine (HNF.out.is _ g _ _ _ _ HL6.out HK6.out.t HRR.out (by omega)).mono ?_
  rintro e w7 ⟨rfl, hb7⟩
  have HK7 := Lib.hid (HK6.out.go hb7)
  have HF7 := Lib.hid (HF6.out.go hb7)
  clear hb7 HK6 HL6 HF6
  have HQF := Lib.hid (HNF.out.quick _ g _ _ _ _ HF7.out HK7.out.t (form_in HRR.out) (by omega))
  have hne := quick_form l
  have HCS := Lib.hid (quick_facts l _ _ rfl rfl)
  have HFI := Lib.hid (fun W => awake9 HNF.out W g)
  generalize quickF l = q at *
  generalize decide (form5 l = l) = is at *
  change quickF (form5 l) ≠ 2 at hne
  generalize quickF (form5 l) = qf at *
  have hqf : (qf != 2) = true := by simpa using hne
  have his : (is == is) = true := by simp
  clear hne HNF HRR
  rcases HCS.out with ⟨rfl, rfl⟩ | ⟨rfl, rfl⟩ | rfl
  · clear HCS
    go_wp2_with fail
    with_reducible refine HQF.out.mono ?_
    rintro e w8 ⟨rfl, hb8⟩
    have HK8 := Lib.hid (HK7.out.go hb8)
    clear hb8 HK7 HF7
    go_wp2_with fail
    with_reducible refine (HFI.out _ HK8.out.t HK8.out.tab).mono ?_
    rintro e w9 ⟨rfl, hb9⟩
    have HK9 := Lib.hid (HK8.out.go hb9)
    go_wp2
    go_ret
    exact ⟨rfl, HK9.out.be⟩
  · clear HCS
    go_wp2_with fail
    with_reducible refine HQF.out.mono ?_
    rintro e w8 ⟨rfl, hb8⟩
    have HK8 := Lib.hid (HK7.out.go hb8)
    clear hb8 HK7 HF7
    go_wp2_with fail
    with_reducible refine (HFI.out _ HK8.out.t HK8.out.tab).mono ?_
    rintro e w9 ⟨rfl, hb9⟩
    have HK9 := Lib.hid (HK8.out.go hb9)
    go_wp2
    go_ret
    exact ⟨rfl, HK9.out.be⟩
  · clear HCS
    go_wp2_with fail
    with_reducible refine HQF.out.mono ?_
    rintro e w8 ⟨rfl, hb8⟩
    have HK8 := Lib.hid (HK7.out.go hb8)
    clear hb8 HK7 HF7
    go_wp2_with fail
    with_reducible refine (HFI.out _ HK8.out.t HK8.out.tab).mono ?_
    rintro e w9 ⟨rfl, hb9⟩
    have HK9 := Lib.hid (HK8.out.go hb9)
    go_wp2
    go_ret
    exact ⟨rfl, HK9.out.be⟩
end Go.Proofs.YtdmcidljjfogjaaDoor
