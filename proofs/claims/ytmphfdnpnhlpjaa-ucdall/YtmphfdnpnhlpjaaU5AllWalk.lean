/- The walk of UcdAll. -/
import Derived.Test.YtmphfdnpnhlpjaaU5RowsWalk
import Derived.Test.YtmphfdnpnhlpjaaArg
namespace Go.Proofs.Ytmphfdnpnhlpjaa
open Go.ChangeShapes Go.WideShapes Go.ChangeAt Go.RowKit
set_option linter.unusedVariables false
set_option linter.unusedSimpArgs false

def AllLoop5 (w : World) (g N n : Nat) (i : Value) (wr : World) : Prop := ∃ k : Nat, k ≤ n ∧ i = .int .i64 k ∧ Two w g N wr

set_option maxRecDepth 100000 in
set_option maxHeartbeats 4000000 in
theorem ucdAll_walk (a0 : Option Addr) (n cap0 : Nat) (z0 : List Int) (a b : Int) (w : World) (r0 : ArgRow .i32 w a0 n cap0 z0) (wa : (Lit.int .i32 a).wf = true) (wb : (Lit.int .i32 b).wf = true) :
    Calls Try.prog 3 #[.slice a0 n cap0, .int .i32 a, .int .i32 b] w fun e w' => e = .returned (.bool true) ∧ Below w.heap.size w w' := by
  obtain ⟨hz0, hle0, hmx0, _, hI0, hwf0⟩ := r0
  have HN := Lib.hid hz0
  have HI := Lib.hid hI0
  have HF := Lib.hid hwf0
  have HWA := Lib.hid wa
  have HWB := Lib.hid wb
  clear hz0 hI0 hwf0 wa wb
  go_enter Try.func3, Try.ntmps3
  go_wp2_with fail
  with_reducible refine (ubuild_any _).mono ?_
  rintro e w1 ⟨g, rfl, ht, hb⟩
  have HT := Lib.hid ht
  have HB := Lib.hid hb
  clear ht hb
  go_wp2_with fail
  with_reducible refine (dbuild_any _).mono ?_
  rintro e w2 ⟨rfl, hd, hb2⟩
  have HTW : Hid (Two w g w1.heap.size w2) := Lib.hid ⟨HT.out.go hb2, hd, HB.out.trans (hb2.mono HB.out.size)⟩
  clear hd hb2 HT HB
  generalize w1.heap.size = N at *
  generalize hR : N + 5 = R at *
  have HR := Lib.hid hR
  clear hR
  by_cases h40 : n ≤ 40
  · have hn40 : ¬ (40 : Int) < n := by omega
    go_wp2_with fail
    go_loopw [9, 10, 11, 12, 13, 14, 15, 16, 17, 18, 19] (fun i _ _ _ _ _ _ _ _ _ _ wr => AllLoop5 w g N n i wr) (fun i _ _ _ _ _ _ _ _ _ _ _ => n - (intOf i).toNat)
    case atStart => exact ⟨0, by omega, rfl, HTW.out⟩
    case round =>
      obtain ⟨k, hk, rfl, hTW⟩ := hrel
      have HW := Lib.hid hTW
      clear hTW HTW
      by_cases hlt : k < n
      · obtain ⟨bb, o, rfl, hbl, hcc⟩ := HI.out.at (by rw [HN.out]; omega)
        have c0 := hcc k (by rw [HN.out]; omega)
        clear hcc
        have HD : Hid (D32 (z0.getD k 0)) := Lib.hid (HF.out _ (by rw [List.getD_eq_getElem?_getD, List.getElem?_eq_getElem (by rw [HN.out]; omega)]; exact List.getElem_mem _))
        have c0 : wr.cell? ⟨bb, o + k, none⟩ = some (.int .i32 (z0.getD k 0)) := (HW.out.be.cell (p := ⟨bb, o + k, none⟩) hbl).trans c0
        generalize z0.getD k 0 = c at *
        have HPQ : Hid (∀ W, Two w g N W → Calls Try.prog 10 #[.pointer (some ⟨g, 0, none⟩), .int .i32 c] W fun e w' => e = .returned (.tuple #[.int .i32 (pxF P5 c), .int .i32 (pyF P5 c), .bool (pkF P5 c)]) ∧ Below W.heap.size W w') := Lib.hid fun W h => pairQ h.t fine5 _
        have HSQ : Hid (∀ W, Two w g N W → Calls Try.prog 11 #[.pointer (some ⟨g, 0, none⟩), .int .i32 c] W fun e w' => e = .returned (.tuple #[.int .i32 (tab (castE S5) c), .bool (tab (castE S5) c != 0)]) ∧ Still W w') := Lib.hid fun W h => singleQ h.t fine5 _
        have HCQ : Hid (∀ W, Two w g N W → Calls Try.prog 12 #[.pointer (some ⟨g, 0, none⟩), .int .i32 c] W fun e w' => e = .returned (.int .i64 (tab (castE C5) c)) ∧ Still W w') := Lib.hid fun W h => classQ h.t _
        have HPD : Hid (∀ W, Two w g N W → (Instr.lookup 33 (.map (some (N + 1))) (.int .i32 c) true).run Try.prog W = .ok (.tuple #[.agg #[.int .i32 (pxF P5 c), .int .i32 (pyF P5 c)], .bool (pkF P5 c)]) W) := Lib.hid fun W h => pair_look h.d _ HD.out
        have HSD : Hid (∀ W, Two w g N W → (Instr.lookup 34 (.map (some (N + 1 + 1))) (.int .i32 c) true).run Try.prog W = .ok (.tuple #[.int .i32 (tab (castE S5) c), .bool (tab (castE S5) c != 0)]) W) := Lib.hid fun W h => single_look h.d _ HD.out
        have HCD : Hid (∀ W, Two w g N W → (Instr.lookup 32 (.map (some N)) (.int .i32 c) false).run Try.prog W = .ok (.int .i64 (tab (castE C5) c)) W) := Lib.hid fun W h => class_look h.d _ HD.out
        have HQQ : Hid (∀ W, Two w g N W → Calls Try.prog 13 #[.pointer (some ⟨g, 0, none⟩), .int .i32 c] W fun e w' => e = .returned (.bool (tab (castE (scL P5)) c != 0)) ∧ Still W w') := Lib.hid fun W h => secondQ h.t _
        have HQD : Hid (∀ W, Two w g N W → Calls Try.prog 14 #[.pointer (some ⟨R, 0, none⟩), .int .i32 c] W fun e w' => e = .returned (.bool (tab (castE (scL P5)) c != 0)) ∧ W = w') := Lib.hid fun W h => by rw [← HR.out]; exact rsecond_any h.d _ HD.out
        generalize pxF P5 c = px at *
        generalize pyF P5 c = py at *
        generalize pkF P5 c = pk at *
        generalize (tab (castE S5) c != 0) = sk at *
        generalize tab (castE S5) c = sv at *
        generalize tab (castE C5) c = cv at *
        generalize (tab (castE (scL P5)) c != 0) = qk at *
        have hx7 : (qk != qk) = false := by simp
        have hx1 : (px != px) = false := by simp
        have hx2 : (py != py) = false := by simp
        have hx3 : (pk != pk) = false := by simp
        have hx4 : (sv != sv) = false := by simp
        have hx5 : (sk != sk) = false := by simp
        have hx6 : (cv != cv) = false := by simp
        go_wp2_with fail
        with_reducible refine (HPQ.out _ HW.out).mono ?_
        rintro e w3 ⟨rfl, hb3⟩
        have HW3 := Lib.hid (HW.out.go hb3)
        clear hb3 HW
        have hl := HPD.out _ HW3.out
        have c1 : w3.cell? ⟨R, 1, none⟩ = some (.map (some (N + 1))) := by rw [← HR.out]; exact HW3.out.d.blk.cell 1
        go_wp2_with fail
        have HW4 := Lib.hid (HW3.out.new (.cells #[.int .i32 px, .int .i32 py] 30))
        have KT := Lib.hid (Blk.new w3 30 #[.int .i32 px, .int .i32 py])
        clear hl c1 HW3
        generalize w3.alloc (.cells #[.int .i32 px, .int .i32 py] 30) = w4 at *
        generalize w3.heap.size = tw at *
        with_reducible refine (HSQ.out _ HW4.out).mono ?_
        rintro e w5 ⟨rfl, hb5⟩
        have HW5 := Lib.hid (HW4.out.go hb5.below)
        have KT5 : Hid (Blk w5 tw 30 #[.int .i32 px, .int .i32 py]) := Lib.hid (KT.out.below hb5.below KT.out.lt)
        clear hb5 HW4 KT
        have hl := HSD.out _ HW5.out
        have c1 : w5.cell? ⟨R, 2, none⟩ = some (.map (some (N + 1 + 1))) := by rw [← HR.out]; exact HW5.out.d.blk.cell 2
        go_wp2_with fail
        clear hl c1
        have hwq : ∀ q, Two w g N (w5.drewN q) := fun q => HW5.out.go (below_drewN' (Below.refl _ _) q)
        have HCQ5 : Hid (∀ q, Calls Try.prog 12 #[.pointer (some ⟨g, 0, none⟩), .int .i32 c] (w5.drewN q) fun e w'' => e = .returned (.int .i64 cv) ∧ ∃ m, w'' = w5.drewN m) := Lib.hid fun q => quiet_st (HCQ.out _ (hwq q))
        have hcl : ∀ q, (Instr.lookup 32 (.map (some N)) (.int .i32 c) false).run Try.prog (w5.drewN q) = .ok (.int .i64 cv) (w5.drewN q) := fun q => HCD.out _ (hwq q)
        have c1 : w5.cell? ⟨R, 0, none⟩ = some (.map (some N)) := by rw [← HR.out]; exact HW5.out.d.blk.cell 0
        have y0 : w5.cell? ⟨tw, 0, none⟩ = some (.int .i32 px) := KT5.out.cell 0
        have y1 : w5.cell? ⟨tw, 1, none⟩ = some (.int .i32 py) := KT5.out.cell 1
        have HQQ5 : Hid (∀ q, Calls Try.prog 13 #[.pointer (some ⟨g, 0, none⟩), .int .i32 c] (w5.drewN q) fun e w'' => e = .returned (.bool qk) ∧ ∃ m, w'' = w5.drewN m) := Lib.hid fun q => quiet_st (HQQ.out _ (hwq q))
        have HQD5 : Hid (∀ q, Calls Try.prog 14 #[.pointer (some ⟨R, 0, none⟩), .int .i32 c] (w5.drewN q) fun e w'' => e = .returned (.bool qk) ∧ ∃ m, w'' = w5.drewN m) := Lib.hid fun q => quiet_left' (HQD.out _ (hwq q))
        clear hwq
        go_quiet ((first | (go_at_call 12; with_reducible exact HCQ5.out _) | (go_at_call 13; with_reducible exact HQQ5.out _) | (go_at_call 14; with_reducible exact HQD5.out _)))
        go_wp2
        go_roundw
        case rel => exact ⟨k + 1, by omega, by go_num, HW5.out.go (below_drewN' (Below.refl _ _) _)⟩
        case measure => simp [intOf]; omega
      · have hkk : k = n := by omega
        subst hkk
        have hlt' : ¬ (k : Int) < k := by omega
        have HJQ := Lib.hid (joinedQ HW.out.t a b HWA.out HWB.out)
        have hl := join_look HW.out.d a b HWA.out HWB.out
        have c1 : wr.cell? ⟨R, 3, none⟩ = some (.map (some (N + 1 + 1 + 1))) := by rw [← HR.out]; exact HW.out.d.blk.cell 3
        generalize (if [a, b] ∈ (jst P5).1 then (jst P5).2 [a, b] else 0) = jv at *
        generalize decide ([a, b] ∈ (jst P5).1) = jk at *
        have hx1 : (jv == jv) = true := by simp
        have hx2 : (jk == jk) = true := by simp
        go_wp2_with fail
        with_reducible refine HJQ.out.mono ?_
        rintro e w3 ⟨rfl, rfl⟩
        go_wp2_with fail
        with_reducible refine (awake_any _ _ HW.out.t).mono ?_
        rintro e w5 ⟨rfl, hb5⟩
        have HB5 := Lib.hid (HW.out.go hb5).be
        clear hb5
        go_wp2
        go_ret
        exact ⟨rfl, HB5.out⟩
  · have hn40 : (40 : Int) < n := by omega
    go_wp2_with fail
    with_reducible refine (awake_any _ _ HTW.out.t).mono ?_
    rintro e w5 ⟨rfl, hb5⟩
    have HB5 := Lib.hid (HTW.out.go hb5).be
    clear hb5
    go_wp2
    go_ret
    exact ⟨rfl, HB5.out⟩
end Go.Proofs.Ytmphfdnpnhlpjaa
