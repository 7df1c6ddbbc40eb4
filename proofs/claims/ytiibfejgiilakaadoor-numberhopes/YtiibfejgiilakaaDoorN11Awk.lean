/- The chapter's examples: awake answers true. -/
import Derived.Test.YtiibfejgiilakaaDoorN11Push
namespace Go.Proofs.YtiibfejgiilakaaDoor
set_option maxRecDepth 100000
open Go.ChangeShapes Go.WideShapes Go.ChangeAt Go.RowKit
set_option linter.unusedVariables false
set_option linter.unusedSimpArgs false

theorem aw1 : feedF [] [57, 48, 48, 55, 49, 57, 57, 50, 53, 52, 55, 52, 48, 57, 57, 51] = ([57, 48, 48, 55, 49, 57, 57, 50, 53, 52, 55, 52, 48, 57, 57], 8) := by kernel_rfl
theorem aw2 : feedF [] [49, 46, 53, 101, 45] = ([49, 46, 53, 101], 7) := by kernel_rfl
theorem aw3 : feedF [] [49, 48, 101, 45, 49] = ([49, 48, 101, 45, 49], 0) := by kernel_rfl
theorem aw4 : stopF [49, 48, 101, 45, 49] = (1, 0) := by kernel_rfl
theorem aw5 : pushF [49, 48, 101, 45, 49] 50 = 7 := by kernel_rfl
theorem aw6 : feedF [] [49, 46, 53] = ([49, 46, 53], 0) := by kernel_rfl
theorem aw7 : stopF [49, 46, 53] = (0, 7) := by kernel_rfl
theorem aw8 : feedF [49, 46, 53] [101, 49] = ([49, 46, 53, 101, 49], 0) := by kernel_rfl
theorem aw9 : stopF [49, 46, 53, 101, 49] = (15, 0) := by kernel_rfl
set_option maxHeartbeats 8000000 in
theorem awake_any (w : World) : Calls Tryd.prog 7 #[] w fun e w' => e = .returned (.bool true) ∧ Below w.heap.size w w' := by
  go_enter Tryd.func7, Tryd.ntmps7
  go_wp2_with fail
  with_reducible refine (new_spec w.heap.size w).mono ?_
  rintro e1 w1 ⟨rfl, hnA, hb1⟩
  have HA1 := Lib.hid hnA
  have HB1 := Lib.hid hb1
  have hA : w.heap.size < w1.heap.size := hnA.lt
  clear hnA hb1
  generalize hgA : w.heap.size = gA at *
  go_wp2_with fail
  with_reducible refine (new_spec gA w1).mono ?_
  rintro e1 w2 ⟨rfl, hnB, hb2⟩
  have HA2 := Lib.hid (HA1.out.go hb2 (Nat.le_refl _))
  have HB2 := Lib.hid (HB1.out.trans (hb2.mono (by have := HB1.out.size; omega)))
  have HBn2 := Lib.hid hnB
  have hBB : w1.heap.size < w2.heap.size := hnB.lt
  clear hnB hb2 HA1 HB1
  generalize hgB : w1.heap.size = gB at *
  go_wp2_with fail
  with_reducible refine (new_spec gA w2).mono ?_
  rintro e1 w3 ⟨rfl, hnC, hb3⟩
  have HA3 := Lib.hid (HA2.out.go hb3 (Nat.le_refl _))
  have HBn3 := Lib.hid (HBn2.out.go hb3 (Nat.le_refl _))
  have HB3 := Lib.hid (HB2.out.trans (hb3.mono (by have := HB2.out.size; omega)))
  have HC3 := Lib.hid hnC
  have hCC : w2.heap.size < w3.heap.size := hnC.lt
  clear hnC hb3 HA2 HB2 HBn2
  generalize hgC : w2.heap.size = gC at *
  go_wp2_with fail
  with_reducible refine (new_spec gA w3).mono ?_
  rintro e1 w4 ⟨rfl, hnD, hb4⟩
  have HA4 := Lib.hid (HA3.out.go hb4 (Nat.le_refl _))
  have HBn4 := Lib.hid (HBn3.out.go hb4 (Nat.le_refl _))
  have HC4 := Lib.hid (HC3.out.go hb4 (Nat.le_refl _))
  have HB4 := Lib.hid (HB3.out.trans (hb4.mono (by have := HB3.out.size; omega)))
  have HD4 := Lib.hid hnD
  have hDD : w3.heap.size < w4.heap.size := hnD.lt
  clear hnD hb4 HA3 HB3 HBn3 HC3
  generalize hgD : w3.heap.size = gD at *
  have hw4 : gA ≤ w4.heap.size := by omega
  have HXw4 := HB4
  clear HB4
  go_wp2_with fail
  refine Calls.mono (push_law gA gA (.slice none 0 0) [] (bs [57, 48, 48, 55, 49, 57, 57, 50, 53, 52, 55, 52, 48, 57, 57, 51]) w4 HA4.out (by have := HXw4.out.size; omega) (by decide)) ?_
  rintro e1 w5 ⟨rfl, v5, hn, hf, hra⟩
  rw [L8_bs, aw1] at hn ⊢
  have HXw5 := Lib.hid (HXw4.out.trans (hf.below (by have := HXw4.out.size; omega) (by omega) HA4.out.low))
  have HA5 := Lib.hid hn
  have HBn5 := Lib.hid (HBn4.out.fresh rfl HA4.out hf (by omega))
  have HC5 := Lib.hid (HC4.out.fresh rfl HA4.out hf (by omega))
  have HD5 := Lib.hid (HD4.out.fresh rfl HA4.out hf (by omega))
  have HV5 := Lib.hid hra
  clear hn hf hra HXw4 HA4 HBn4 HC4 HD4
  go_wp2_with fail
  refine Calls.mono (push_law gA gB (.slice none 0 0) [] (bs [49, 46, 53, 101, 45]) w5 HBn5.out (by have := HXw5.out.size; omega) (by decide)) ?_
  rintro e1 w6 ⟨rfl, v6, hn, hf, hra⟩
  rw [L8_bs, aw2] at hn ⊢
  have HXw6 := Lib.hid (HXw5.out.trans (hf.below (by have := HXw5.out.size; omega) (by omega) HBn5.out.low))
  have HBn6 := Lib.hid hn
  have HC6 := Lib.hid (HC5.out.fresh rfl HBn5.out hf (by omega))
  have HD6 := Lib.hid (HD5.out.fresh rfl HBn5.out hf (by omega))
  have HV6 := Lib.hid hra
  clear hn hf hra HXw5 HBn5 HC5 HD5
  go_wp2_with fail
  refine Calls.mono (push_law gA gC (.slice none 0 0) [] (bs [49, 48, 101, 45, 49]) w6 HC6.out (by have := HXw6.out.size; omega) (by decide)) ?_
  rintro e1 w7 ⟨rfl, v7, hn, hf, hra⟩
  rw [L8_bs, aw3] at hn ⊢
  have HXw7 := Lib.hid (HXw6.out.trans (hf.below (by have := HXw6.out.size; omega) (by omega) HC6.out.low))
  have HC7 := Lib.hid hn
  have HD7 := Lib.hid (HD6.out.fresh rfl HC6.out hf (by omega))
  have HV7 := Lib.hid hra
  clear hn hf hra HXw6 HC6 HD6
  go_wp2_with fail
  refine Calls.mono (end_spec gA gC v7 [49, 48, 101, 45, 49] w7 HC7.out) ?_
  rintro e1 w8 ⟨rfl, hbb⟩
  rw [aw4]
  have HXw8 := Lib.hid (HXw7.out.trans (hbb.mono (by have := HXw7.out.size; omega)))
  have HC8 := Lib.hid (HC7.out.go hbb (Nat.le_refl _))
  have HD8 := Lib.hid (HD7.out.go hbb (Nat.le_refl _))
  clear hbb HXw7 HC7 HD7
  go_wp2_with fail
  refine Calls.mono (push_spec gA gC v7 [49, 48, 101, 45, 49] 50 w8 HC8.out (by decide) (by have := HXw8.out.size; omega)) ?_
  rintro e1 w9 ⟨rfl, v9, hn, hf, hra⟩
  rw [aw5] at hn ⊢
  have HXw9 := Lib.hid (HXw8.out.trans (hf.below (by have := HXw8.out.size; omega) (by omega) HC8.out.low))
  have HD9 := Lib.hid (HD8.out.fresh rfl HC8.out hf (by omega))
  clear hn hf hra HXw8 HC8 HD8
  go_wp2_with fail
  refine Calls.mono (push_law gA gD (.slice none 0 0) [] (bs [49, 46, 53]) w9 HD9.out (by have := HXw9.out.size; omega) (by decide)) ?_
  rintro e1 w10 ⟨rfl, v10, hn, hf, hra⟩
  rw [L8_bs, aw6] at hn ⊢
  have HXw10 := Lib.hid (HXw9.out.trans (hf.below (by have := HXw9.out.size; omega) (by omega) HD9.out.low))
  have HD10 := Lib.hid hn
  have HV10 := Lib.hid hra
  clear hn hf hra HXw9 HD9 
  go_wp2_with fail
  refine Calls.mono (end_spec gA gD v10 [49, 46, 53] w10 HD10.out) ?_
  rintro e1 w11 ⟨rfl, hbb⟩
  rw [aw7]
  have HXw11 := Lib.hid (HXw10.out.trans (hbb.mono (by have := HXw10.out.size; omega)))
  have HD11 := Lib.hid (HD10.out.go hbb (Nat.le_refl _))
  clear hbb HXw10 HD10
  go_wp2_with fail
  refine Calls.mono (push_law gA gD v10 [49, 46, 53] (bs [101, 49]) w11 HD11.out (by have := HXw11.out.size; omega) (by decide)) ?_
  rintro e1 w12 ⟨rfl, v12, hn, hf, hra⟩
  rw [L8_bs, aw8] at hn ⊢
  have HXw12 := Lib.hid (HXw11.out.trans (hf.below (by have := HXw11.out.size; omega) (by omega) HD11.out.low))
  have HD12 := Lib.hid hn
  have HV12 := Lib.hid hra
  clear hn hf hra HXw11 HD11 
  go_wp2_with fail
  refine Calls.mono (end_spec gA gD v12 [49, 46, 53, 101, 49] w12 HD12.out) ?_
  rintro e1 w13 ⟨rfl, hbb⟩
  rw [aw9]
  have HXw13 := Lib.hid (HXw12.out.trans (hbb.mono (by have := HXw12.out.size; omega)))
  have HD13 := Lib.hid (HD12.out.go hbb (Nat.le_refl _))
  clear hbb HXw12 HD12
  go_wp2_with fail
  refine Calls.mono (text_spec gA gD v12 [49, 46, 53, 101, 49] w13 HD13.out) ?_
  rintro e1 w14 ⟨rfl, rfl⟩
  have heq : ((bs [49, 46, 53, 101, 49]).toList == [49, 46, 53, 101, 49]) = true := by kernel_rfl
  go_wp2
  go_ret
  exact ⟨rfl, by rw [hgA]; exact HXw13.out⟩
end Go.Proofs.YtiibfejgiilakaaDoor
