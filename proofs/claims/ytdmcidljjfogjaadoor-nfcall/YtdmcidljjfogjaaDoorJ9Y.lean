/- Joined of: N9NumWalk. -/
import Derived.Test.YtdmcidljjfogjaaDoorJ9X
import Derived.Test.YtdmcidljjfogjaaDoorJ9U
/- The walk of NfcNumbers. -/
namespace Go.Proofs.YtdmcidljjfogjaaDoor
set_option maxRecDepth 100000
open Go.ChangeShapes Go.WideShapes Go.ChangeAt Go.RowKit
set_option linter.unusedVariables false
set_option linter.unusedSimpArgs false
attribute [local irreducible] P5 S5 C5

theorem byt_in (c : Int) : Bts (byt c) := by
  intro x hx
  unfold byt at hx
  split at hx
  · rename_i h
    have h := of_decide_eq_true h
    split at hx
    · simp at hx; omega
    · split at hx
      · simp at hx; omega
      · split at hx
        · simp at hx; omega
        · simp at hx; omega
  · simp at hx
theorem txt_in (l : List Int) : Bts (txt l) := by
  intro x hx
  unfold txt at hx
  obtain ⟨c, _, hc⟩ := List.mem_flatMap.1 hx
  exact byt_in c x hc

set_option maxHeartbeats 8000000 in
theorem num_walk (HN : NfcOk) (a0 : Option Addr) (len0 cap0 : Nat) (z0 : List Int) (w : World) (hTab : Tab w) (r0 : ArgRow .i64 w a0 len0 cap0 z0) :
    Calls Tryd.prog 4 #[.slice a0 len0 cap0] w fun e w' => e = .returned (.bool true) ∧ Below w.heap.size w w' := by
  have HR0 := Lib.hid r0
  have HTB := Lib.hid hTab
  have HNF := Lib.hid HN
  clear r0 hTab HN
  go_enter Tryd.func4, Tryd.ntmps4
  go_wp2_with fail
  with_reducible refine (ubuild_any _).mono ?_
  rintro e w1 ⟨g, rfl, ht, hb⟩
  have HK1 : Hid (K9 w g w1) := Lib.hid ⟨ht, HTB.out.below' hb, hb⟩
  clear ht hb HTB
  go_wp2_with fail
  with_reducible refine (dbuild_any _).mono ?_
  rintro e w2 ⟨rfl, hd, hb2⟩
  have HK2 := Lib.hid (HK1.out.go hb2)
  have HD2 : Hid (DT w2 (w1.heap.size + 5)) := Lib.hid ⟨_, rfl, hd⟩
  clear hd hb2 HK1
  generalize w1.heap.size + 5 = R at *
  have HRU := Lib.hid (runes7 (HR0.out.go HK2.out.be))
  go_wp2_with fail
  with_reducible refine HRU.out.mono ?_
  rintro e w3 ⟨A, n, c, l, rfl, hr3, hR3, hn, hb3⟩
  have HE3 : Hid (E9 w g R A n c l w3) := Lib.hid ⟨HK2.out.go hb3, HD2.out.go hb3, hr3⟩
  have HRR := Lib.hid hR3
  clear hr3 hR3 hb3 HK2 HD2 HRU HR0
  go_wp2_with fail
  with_reducible refine (Calls.mono (r_text_any _ _ _ _ _ HE3.out.r.len HE3.out.r.ints (by omega)) (fun _ _ h => RowRes.strOut h)).mono ?_
  rintro e w4 ⟨v4, rfl, hcv, hb4⟩
  have HE4 := Lib.hid (HE3.out.go hb4)
  clear hb4 HE3
  have HBT := Lib.hid (txt_in l)
  have HTL : Hid ((txt l).length ≤ 600) := Lib.hid (by have h1 := txt_len l; rw [HE4.out.r.len] at h1; omega)
  have HT1 := Lib.hid (fun W => HNF.out.text W g (txt l))
  have HT2 := Lib.hid (fun W => rtext_any W R (txt l))
  have HAW := Lib.hid (fun W => awake9 HNF.out W g)
  generalize strOfNums (textF (txt l)) = tx at *
  have HQ1 := Lib.hid (fun W h1 h2 h3 => HNF.out.quick W g A n c l h1 h2 h3 (by omega))
  have HQ2 := Lib.hid (fun W h1 h2 h3 => rquick_any W R A n c l h1 h2 h3 (by omega))
  generalize quickF l = q at *
  have hqq : (q == q) = true := by simp
  generalize hs : strOfNums (txt l) = s at *
  have HSS := Lib.hid hs
  clear hs
  go_wp2_with fail
  with_reducible refine (HNF.out.form _ g _ _ _ _ HE4.out.r HE4.out.k.t HRR.out (by omega)).mono ?_
  rintro e w5 ⟨A5, n5, c5, rfl, hr5, hb5⟩
  have HE5 := Lib.hid (HE4.out.go hb5)
  have HF5 := Lib.hid hr5
  clear hr5 hb5 HE4 hcv
  have hn5 := form_most HE5.out.r HF5.out hn
  go_wp2_with fail
  with_reducible refine (rform_any _ R _ _ _ _ HE5.out.r HE5.out.d HRR.out (by omega)).mono ?_
  rintro e w6 ⟨A6, n6, c6, rfl, hr6, hb6⟩
  have HE6 := Lib.hid (HE5.out.go hb6)
  have HF56 := Lib.hid (HF5.out.go hb6)
  have HF6 := Lib.hid hr6
  clear hr6 hb6 HE5 HF5
  go_wp2_with fail
  with_reducible refine (same_rows HF56.out HF6.out rfl (by omega)).mono ?_
  rintro e w7 ⟨rfl, hs7⟩
  have HE7 := Lib.hid (HE6.out.go hs7.below)
  clear hs7 HE6 HF56 HF6
  go_wp2_with fail
  with_reducible refine (HQ1.out _ HE7.out.r HE7.out.k.t HRR.out).mono ?_
  rintro e w8 ⟨rfl, hb8⟩
  have HE8 := Lib.hid (HE7.out.go hb8)
  clear hb8 HE7
  go_wp2_with fail
  with_reducible refine (HQ2.out _ HE8.out.r HE8.out.d HRR.out).mono ?_
  rintro e w9 ⟨rfl, hb9⟩
  have HE9 := Lib.hid (HE8.out.go hb9)
  clear hb9 HE8
  go_wp2_with fail
  with_reducible refine (HT1.out _ HE9.out.k.tab HE9.out.k.t HBT.out HTL.out).mono ?_
  rintro e w10 ⟨rfl, hb10⟩
  have HE10 := Lib.hid (HE9.out.go hb10)
  clear hb10 HE9
  go_wp2_with fail
  with_reducible refine (HT2.out _ HE10.out.d HBT.out HTL.out).mono ?_
  rintro e w11 ⟨rfl, hb11⟩
  have HE11 := Lib.hid (HE10.out.go hb11)
  clear hb11 HE10
  go_wp2_with fail
  with_reducible refine (HAW.out _ HE11.out.k.t HE11.out.k.tab).mono ?_
  rintro e w12 ⟨rfl, hb12⟩
  have HE12 := Lib.hid (HE11.out.go hb12)
  clear hb12 HE11
  go_wp2
  go_ret
  exact ⟨rfl, HE12.out.k.be⟩
end Go.Proofs.YtdmcidljjfogjaaDoor
