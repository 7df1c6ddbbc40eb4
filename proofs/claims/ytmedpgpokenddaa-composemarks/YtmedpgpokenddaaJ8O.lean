/- Joined of: C8AllWalk. -/
import Derived.Test.YtmedpgpokenddaaJ8N
import Derived.Test.YtmedpgpokenddaaJ8M
/- The walks of ComposeAll, ComposeNumbers and ComposeBack. -/
namespace Go.Proofs.Ytmedpgpokenddaa
set_option maxRecDepth 100000
open Go.ChangeShapes Go.WideShapes Go.ChangeAt Go.RowKit
set_option linter.unusedVariables false
set_option linter.unusedSimpArgs false

theorem comp_le (l : List Int) : (comp cl5 two5 l).length ≤ l.length := crow_len l
set_option maxHeartbeats 4000000 in
theorem call8_walk (HC : ComposeOk) (H2 : TwoOk) (a0 : Option Addr) (len0 cap0 : Nat) (z0 : List Int) (a b : Int) (w : World) (r0 : ArgRow .i32 w a0 len0 cap0 z0) (wa : (Lit.int .i32 a).wf = true) (wb : (Lit.int .i32 b).wf = true) :
    Calls Try.prog 3 #[.slice a0 len0 cap0, .int .i32 a, .int .i32 b] w fun e w' => e = .returned (.bool true) ∧ Below w.heap.size w w' := by
  have HR0 := Lib.hid r0.rowIn
  have HRR := Lib.hid r0.r32
  have HRA := Lib.hid (wf_r32 wa)
  have HRB := Lib.hid (wf_r32 wb)
  have HCO := Lib.hid HC
  have H2O := Lib.hid H2
  have HAW := Lib.hid (awake8 HC H2)
  clear r0 wa wb HC H2
  go_enter Try.func3, Try.ntmps3
  go_wp2_with fail
  with_reducible refine (ubuild_any _).mono ?_
  rintro e w1 ⟨g, rfl, ht, hb⟩
  have HT := Lib.hid ht
  have HB := Lib.hid hb
  clear ht hb
  go_wp2_with fail
  with_reducible refine (dbuild_any _).mono ?_
  rintro e w2 ⟨rfl, hd, hb2⟩
  have HS : Hid (Sit w g (w1.heap.size + 5) a0 len0 cap0 z0 w2) := Lib.hid ⟨HT.out.go hb2, ⟨_, rfl, hd⟩, HR0.out.go (HB.out.trans (hb2.mono HB.out.size)), HB.out.trans (hb2.mono HB.out.size)⟩
  clear hd hb2 HT HB HR0
  generalize w1.heap.size + 5 = R at *
  by_cases hfew : 100 < len0
  · have hfd : decide ((100 : Int) < len0) = true := decide_eq_true (by omega)
    go_wp2_with fail
    with_reducible refine (HAW.out _ _ HS.out.t).mono ?_
    rintro e w12 ⟨rfl, hb12⟩
    have HB12 := Lib.hid (HS.out.go hb12).be
    clear hb12
    go_wp2
    go_ret
    exact ⟨rfl, HB12.out⟩
  · have hfd : decide ((100 : Int) < len0) = false := decide_eq_false (by omega)
    have HT2 := Lib.hid (H2O.out a b w2 g HRA.out HRB.out HS.out.t)
    have HT3 : Hid (∀ W, Sit w g R a0 len0 cap0 z0 W → Calls Try.prog 12 #[.pointer (some ⟨R, 0, none⟩), .int .i32 a, .int .i32 b] W fun e w' => e = .returned (.tuple #[.int .i32 (twoC a b), .bool (twoOk a b)]) ∧ W = w') := Lib.hid fun W h => rtwo_any a b HRA.out HRB.out W R h.d
    generalize twoC a b = tc at *
    generalize twoOk a b = tk at *
    have htc : (tc == tc) = true := by simp
    have htk : (tk == tk) = true := by simp
    go_wp2_with fail
    with_reducible refine HT2.out.mono ?_
    rintro e w3 ⟨rfl, hb3⟩
    have HS3 := Lib.hid (HS.out.go hb3)
    clear hb3 HS HT2
    go_wp2_with fail
    with_reducible refine (HT3.out _ HS3.out).mono ?_
    rintro e w' ⟨rfl, rfl⟩
    have HCC := Lib.hid (HCO.out w3 g _ _ _ _ HS3.out.r HS3.out.t HRR.out (by omega))
    go_wp2_with fail
    with_reducible refine HCC.out.mono ?_
    rintro e w4 ⟨A4, n4, c4, rfl, hr4, hb4⟩
    have HS4 := Lib.hid (HS3.out.go hb4)
    have HR4 := Lib.hid hr4
    have hle4 : n4 ≤ 1000000 := by have h1 := hr4.len; have h2 := comp_le z0; rw [HS4.out.r.len] at h2; omega
    clear hr4 hb4 HS3 HCC HT3
    go_wp2_with fail
    with_reducible refine (rcompose_out _ R _ _ _ _ HS4.out.r HS4.out.d HRR.out (by omega)).mono ?_
    rintro e w5 ⟨A5, n5, c5, rfl, hr5, hb5⟩
    have HS5 := Lib.hid (HS4.out.go hb5)
    have HR4' := Lib.hid (HR4.out.go hb5)
    have HR5 := Lib.hid hr5
    clear hr5 hb5 HS4 HR4
    go_wp2_with fail
    with_reducible refine (same_rows HR4'.out HR5.out rfl hle4).mono ?_
    rintro e w6 ⟨rfl, hs6⟩
    have HS6 := Lib.hid (HS5.out.go hs6.below)
    clear hs6 HS5 HR4' HR5
    go_wp2_with fail
    with_reducible refine (HAW.out _ _ HS6.out.t).mono ?_
    rintro e w12 ⟨rfl, hb12⟩
    have HB12 := Lib.hid (HS6.out.go hb12).be
    clear hb12
    go_wp2
    go_ret
    exact ⟨rfl, HB12.out⟩

set_option maxHeartbeats 4000000 in
theorem cnum_walk (HC : ComposeOk) (H2 : TwoOk) (a0 : Option Addr) (len0 cap0 : Nat) (z0 : List Int) (w : World) (r0 : ArgRow .i64 w a0 len0 cap0 z0) :
    Calls Try.prog 4 #[.slice a0 len0 cap0] w fun e w' => e = .returned (.bool true) ∧ Below w.heap.size w w' := by
  have HR0 := Lib.hid r0
  have HCO := Lib.hid HC
  have HAW := Lib.hid (awake8 HC H2)
  clear r0 HC H2
  go_enter Try.func4, Try.ntmps4
  go_wp2_with fail
  with_reducible refine (ubuild_any _).mono ?_
  rintro e w1 ⟨g, rfl, ht, hb⟩
  have HT := Lib.hid ht
  have HB := Lib.hid hb
  clear ht hb
  go_wp2_with fail
  with_reducible refine (dbuild_any _).mono ?_
  rintro e w2 ⟨rfl, hd, hb2⟩
  have HT2 := Lib.hid (HT.out.go hb2)
  have HD2 : Hid (DT w2 (w1.heap.size + 5)) := Lib.hid ⟨_, rfl, hd⟩
  have HB2 := Lib.hid (HB.out.trans (hb2.mono HB.out.size))
  clear hd hb2 HT HB
  generalize w1.heap.size + 5 = R at *
  have HRU := Lib.hid (runes7 (HR0.out.go HB2.out))
  go_wp2_with fail
  with_reducible refine HRU.out.mono ?_
  rintro e w3 ⟨A, n, c, l, rfl, hr3, hR3, hn, hb3⟩
  have HS3 : Hid (Sit w g R A n c l w3) := Lib.hid ⟨HT2.out.go hb3, HD2.out.go hb3, hr3, HB2.out.trans (hb3.mono HB2.out.size)⟩
  have HRR := Lib.hid hR3
  clear hr3 hR3 hb3 HT2 HD2 HB2 HRU HR0
  go_wp2_with fail
  with_reducible refine (rall_any _ R _ _ _ _ HS3.out.r HS3.out.d HRR.out (by omega)).mono ?_
  rintro e w4 ⟨A4, n4, c4, rfl, hr4, hb4⟩
  have HS4 := Lib.hid (HS3.out.go hb4)
  have HR4 := Lib.hid hr4
  have HRM : Hid (∀ x ∈ allF T5 cl5 l, R32 x) := Lib.hid (all5_in HRR.out)
  have hle4 : n4 ≤ 6000 := by have h1 := hr4.len; have h2 := allF_len (cl := cl5) sy5_len l; rw [HS4.out.r.len] at h2; omega
  clear hr4 hb4 HS3
  generalize allF T5 cl5 l = M at *
  have HCC := Lib.hid (HCO.out w4 g _ _ _ _ HS4.out.r HS4.out.t HRR.out (by omega))
  go_wp2_with fail
  with_reducible refine HCC.out.mono ?_
  rintro e w5 ⟨A5, n5, c5, rfl, hr5, hb5⟩
  have HS5 := Lib.hid (HS4.out.go hb5)
  have HR45 := Lib.hid (HR4.out.go hb5)
  have HR5 := Lib.hid hr5
  have hle5 : n5 ≤ 1000000 := by have h1 := hr5.len; have h2 := comp_le l; rw [HS5.out.r.len] at h2; omega
  clear hr5 hb5 HS4 HCC HR4
  go_wp2_with fail
  with_reducible refine (rcompose_out _ R _ _ _ _ HS5.out.r HS5.out.d HRR.out (by omega)).mono ?_
  rintro e w6 ⟨A6, n6, c6, rfl, hr6, hb6⟩
  have HS6 := Lib.hid (HS5.out.go hb6)
  have HR46 := Lib.hid (HR45.out.go hb6)
  have HR56 := Lib.hid (HR5.out.go hb6)
  have HR6 := Lib.hid hr6
  clear hr6 hb6 HS5 HR5 HR45
  go_wp2_with fail
  with_reducible refine (same_rows HR56.out HR6.out rfl hle5).mono ?_
  rintro e w7 ⟨rfl, hs7⟩
  have HS7 := Lib.hid (HS6.out.go hs7.below)
  have HR47 := Lib.hid (HR46.out.go hs7.below)
  clear hs7 HS6 HR46 HR56 HR6
  have HCC := Lib.hid (HCO.out w7 g _ _ _ _ HR47.out HS7.out.t HRM.out (by omega))
  go_wp2_with fail
  with_reducible refine HCC.out.mono ?_
  rintro e w8 ⟨A8, n8, c8, rfl, hr8, hb8⟩
  have HS8 := Lib.hid (HS7.out.go hb8)
  have HR48 := Lib.hid (HR47.out.go hb8)
  have HR8 := Lib.hid hr8
  have hle8 : n8 ≤ 1000000 := by have h1 := hr8.len; have h2 := comp_le M; rw [HR48.out.len] at h2; omega
  clear hr8 hb8 HS7 HCC HR47
  go_wp2_with fail
  with_reducible refine (rcompose_out _ R _ _ _ _ HR48.out HS8.out.d HRM.out (by omega)).mono ?_
  rintro e w9 ⟨A9, n9, c9, rfl, hr9, hb9⟩
  have HS9 := Lib.hid (HS8.out.go hb9)
  have HR89 := Lib.hid (HR8.out.go hb9)
  have HR9 := Lib.hid hr9
  clear hr9 hb9 HS8 HR8 HR48
  go_wp2_with fail
  with_reducible refine (same_rows HR89.out HR9.out rfl hle8).mono ?_
  rintro e w10 ⟨rfl, hs10⟩
  have HS10 := Lib.hid (HS9.out.go hs10.below)
  clear hs10 HS9 HR89 HR9
  go_wp2_with fail
  with_reducible refine (HAW.out _ _ HS10.out.t).mono ?_
  rintro e w12 ⟨rfl, hb12⟩
  have HB12 := Lib.hid (HS10.out.go hb12).be
  clear hb12
  go_wp2
  go_ret
  exact ⟨rfl, HB12.out⟩

set_option maxHeartbeats 4000000 in
theorem cback_walk (HC : ComposeOk) (H2 : TwoOk) (a0 : Option Addr) (len0 cap0 : Nat) (z0 : List Int) (w : World) (r0 : ArgRow .i64 w a0 len0 cap0 z0) :
    Calls Try.prog 5 #[.slice a0 len0 cap0] w fun e w' => e = .returned (.bool true) ∧ Below w.heap.size w w' := by
  have HR0 := Lib.hid r0
  have HCO := Lib.hid HC
  have HAW := Lib.hid (awake8 HC H2)
  clear r0 HC H2
  go_enter Try.func5, Try.ntmps5
  go_wp2_with fail
  with_reducible refine (ubuild_any _).mono ?_
  rintro e w1 ⟨g, rfl, ht, hb⟩
  have HT := Lib.hid ht
  have HB := Lib.hid hb
  clear ht hb
  have HRU := Lib.hid (runes7 (HR0.out.go HB.out))
  go_wp2_with fail
  with_reducible refine HRU.out.mono ?_
  rintro e w3 ⟨A, n, c, l, rfl, hr3, hR3, hn, hb3⟩
  have HS3 : Hid (Si1 w g A n c l w3) := Lib.hid ⟨HT.out.go hb3, hr3, HB.out.trans (hb3.mono HB.out.size)⟩
  have HRR := Lib.hid hR3
  have HLN := Lib.hid hr3.len
  clear hr3 hR3 hb3 HT HB HRU HR0
  go_wp2_with fail
  with_reducible refine (all_any _ g _ _ _ _ HS3.out.r HS3.out.t HRR.out (by omega)).mono ?_
  rintro e w4 ⟨B, m, d, rfl, hr4, hb4⟩
  have HS4 : Hid (Si1 w g B m d (allF T5 cl5 l) w4) := Lib.hid ⟨HS3.out.t.go hb4, hr4, HS3.out.be.trans (hb4.mono HS3.out.be.size)⟩
  have hle : m ≤ 1000000 := by
    have h1 := hr4.len
    have hal := allF_len (cl := cl5) sy5_len l
    rw [HLN.out] at hal
    omega
  have HPL : Hid (∀ x ∈ allF T5 cl5 l, Plain T5 x) := Lib.hid (allF_plain sy5_plain ends5 l)
  have HNO : Hid (Norm cl5 (allF T5 cl5 l)) := Lib.hid (ordL_norm cl5_nn _)
  have HAR : Hid (∀ x ∈ allF T5 cl5 l, R32 x) := Lib.hid (all5_in HRR.out)
  clear hr4 hb4 HS3 HRR HLN hn
  generalize allF T5 cl5 l = L at *
  have HLL := Lib.hid HS4.out.r.len
  have HBK : Hid (allF T5 cl5 (comp cl5 two5 L) = L) := Lib.hid (comp_back cmp5 HNO.out HPL.out)
  have HAG : Hid (comp cl5 two5 (comp cl5 two5 L) = comp cl5 two5 L) := Lib.hid (comp_again cmp5 HNO.out)
  have HCL := Lib.hid (comp_le L)
  have HCI : Hid (∀ x ∈ comp cl5 two5 L, R32 x) := Lib.hid (comp_in HAR.out)
  have HCC := Lib.hid (HCO.out w4 g _ _ _ _ HS4.out.r HS4.out.t HAR.out (by omega))
  generalize comp cl5 two5 L = K at *
  go_wp2_with fail
  with_reducible refine HCC.out.mono ?_
  rintro e w5 ⟨A5, n5, c5, rfl, hr5, hb5⟩
  have HS5 := Lib.hid (HS4.out.go hb5)
  have HR5 := Lib.hid hr5
  have hle5 : n5 ≤ m := by have h1 := hr5.len; have h2 := HCL.out; rw [HLL.out] at h2; omega
  have hled : decide ((n5 : Int) ≤ m) = true := decide_eq_true (by omega)
  have HALL := Lib.hid (all_any _ g _ _ _ _ hr5 HS5.out.t HCI.out (by omega))
  rw [HBK.out] at HALL
  clear hr5 hb5 HS4 HCC
  go_wp2_with fail
  with_reducible refine HALL.out.mono ?_
  rintro e w6 ⟨A6, n6, c6, rfl, hr6, hb6⟩
  have HS6 := Lib.hid (HS5.out.go hb6)
  have HR56 := Lib.hid (HR5.out.go hb6)
  have HR6 := Lib.hid hr6
  have hle6 : n6 ≤ 1000000 := by have h1 := hr6.len; rw [HLL.out] at h1; omega
  clear hr6 hb6 HS5 HR5 HALL
  go_wp2_with fail
  with_reducible refine (same_rows HR6.out HS6.out.r rfl hle6).mono ?_
  rintro e w7 ⟨rfl, hs7⟩
  have HS7 := Lib.hid (HS6.out.go hs7.below)
  have HR57 := Lib.hid (HR56.out.go hs7.below)
  have HCC := Lib.hid (HCO.out w7 g _ _ _ _ HR57.out HS7.out.t HCI.out (by omega))
  rw [HAG.out] at HCC
  clear hs7 HS6 HR56 HR6 hle6
  go_wp2_with fail
  with_reducible refine HCC.out.mono ?_
  rintro e w8 ⟨A8, n8, c8, rfl, hr8, hb8⟩
  have HS8 := Lib.hid (HS7.out.go hb8)
  have HR58 := Lib.hid (HR57.out.go hb8)
  have HR8 := Lib.hid hr8
  have hle8 : n8 ≤ 1000000 := by have h1 := hr8.len; have h2 := HR58.out.len; omega
  clear hr8 hb8 HS7 HR57 HCC
  go_wp2_with fail
  with_reducible refine (same_rows HR8.out HR58.out rfl hle8).mono ?_
  rintro e w9 ⟨rfl, hs9⟩
  have HS9 := Lib.hid (HS8.out.go hs9.below)
  clear hs9 HS8 HR8 HR58
  go_wp2_with fail
  with_reducible refine (HAW.out _ _ HS9.out.t).mono ?_
  rintro e w12 ⟨rfl, hb12⟩
  have HB12 := Lib.hid (HS9.out.go hb12).be
  clear hb12
  go_wp2
  go_ret
  exact ⟨rfl, HB12.out⟩
end Go.Proofs.Ytmedpgpokenddaa
