/- errors.Is at what New made, fault.Is by its contract. -/
import Derived.Test.YtakbbhhhdcnlnaaDoorP14Of
namespace Go.Proofs.YtakbbhhhdcnlnaaDoor
set_option maxRecDepth 100000
open Go.RowKit Go.Extern.Stop Go.Stop Go.Extern
set_option linter.unusedVariables false
set_option linter.unusedSimpArgs false

theorem re_eq (c k : Int) (w : World) : (binOp .eql 26 (.iface 49 (.int .i64 c)) (.iface 49 (.int .i64 k))).run Tryd.prog w = .ok (.bool (c == k)) w := by kernel_rfl
theorem pl_eq (v : Value) (k : Int) (w : World) : (binOp .eql 26 (.iface 48 v) (.iface 49 (.int .i64 k))).run Tryd.prog w = .ok (.bool false) w := by kernel_rfl
theorem gd_eq (x y : Operand) (t t' : TypeId) (v v' : Value) (w : World) : (eqGuard .eql 26 x y (.iface t v) (.iface t' v')).run Tryd.prog w = .ok () w := by simp [eqGuard]
set_option maxHeartbeats 8000000 in
theorem isIn_any (b : Nat) (c a k : Int) (w : World) (hL : Lies w [.pl b c a, .re c]) :
    Calls Tryd.prog 34 #[.iface 48 (.pointer (some ⟨b, 0, none⟩)), .iface 49 (.int .i64 k), .bool true] w fun e w' => e = .returned (.bool (c == k)) ∧ w' = w := by
  have hu := Lib.hid (unwrapP_any b c a w hL.1)
  have nP := noIsP
  have nR := noIsR
  have uP := unP
  have uR := unR
  have nM := noMany
  have mP := meP
  have q1 := pl_eq
  have q2 := re_eq c k w
  have g1 := gd_eq
  have z1 := hd_eql [.re c] w
  have z1G := hd_eqG [.re c] 26
  simp only [hdV, tyL, dyn, ptr, List.isEmpty_cons] at hu z1 z1G
  clear hL
  go_enter Tryd.func34, Tryd.ntmps34
  go_wp2_with fail
  by_cases hck : c = k
  · have hb : (c == k) = true := by rw [beq_iff_eq]; exact hck
    rw [hb] at q2
    clear hck
    refine wp_loop_rounds 2 ?_
    rw [rounds_succ]
    go_wp2_with (go_at_call 61; with_reducible refine (hu.out).mono ?_; rintro e w' ⟨rfl, rfl⟩)
    rw [rounds_succ]
    go_wp2_with fail
    go_ret
    exact ⟨by rw [hb]; rfl, rfl⟩
  · have hb : (c == k) = false := by rw [beq_eq_false_iff_ne]; exact hck
    rw [hb] at q2
    clear hck
    refine wp_loop_rounds 2 ?_
    rw [rounds_succ]
    go_wp2_with (go_at_call 61; with_reducible refine (hu.out).mono ?_; rintro e w' ⟨rfl, rfl⟩)
    rw [rounds_succ]
    go_wp2_with fail
    go_ret
    exact ⟨by rw [hb]; rfl, rfl⟩

theorem cmp_call (w : World) : (callFunc 73 #[.agg #[.pointer (some ⟨2, 49, none⟩)]]).run Tryd.prog w = .ok (Next.value (.bool true)) w := by
  rw [@run_callFunc_extern Tryd.prog 73 _ (ReflectliteType.method fun t => do Rtype.noPackHeld "Comparable" t; pure (.bool (← typeInfo t).comparable)) Tryd.func73 (by kernel_rfl) (by kernel_rfl) (by kernel_rfl) (by kernel_rfl)]
  have h : ((ReflectliteType.method fun t => do Rtype.noPackHeld "Comparable" t; pure (.bool (← typeInfo t).comparable)) #[.agg #[.pointer (some ⟨2, 49, none⟩)]]).run Tryd.prog w = .ok (.bool true) w := by kernel_rfl
  rw [h]
  rfl
theorem errIs_any (b : Nat) (c a k : Int) (w : World) (hL : Lies w [.pl b c a, .re c]) :
    Calls Tryd.prog 27 #[.iface 48 (.pointer (some ⟨b, 0, none⟩)), .iface 49 (.int .i64 k)] w fun e w' => e = .returned (.bool (c == k)) ∧ w' = w := by
  have hTO := @run_callFunc_extern Tryd.prog 33 _ (ReflectliteType.typeOf) Tryd.func33 (by kernel_rfl) (by kernel_rfl) (by kernel_rfl) (by kernel_rfl)
  have hCo := cmp_call
  have tO := typeOfR
  have mC := meComparable
  have hI := Lib.hid (isIn_any b c a k w hL)
  have z1 := hd_eql [.pl b c a, .re c] w
  have z1G := hd_eqG [.pl b c a, .re c] 26
  have z2 := hd_eql [.re k] w
  have z2G := hd_eqG [.re k] 26
  simp only [hdV, tyL, dyn, ptr, List.isEmpty_cons] at z1 z1G z2 z2G
  clear hL
  generalize (c == k) = r at *
  go_enter Tryd.func27, Tryd.ntmps27
  go_wp2_with (go_at_call 34; with_reducible refine (hI.out).mono ?_; rintro e w' ⟨rfl, rfl⟩)
  go_ret
  exact ⟨rfl, rfl⟩

theorem is_nil (k : Int) (w : World) : Calls Tryd.prog 16 #[.nilIface, .int .i64 k] w fun e w' => e = .returned (.bool false) ∧ w' = w := by
  go_enter Tryd.func16, Tryd.ntmps16
  go_wp2
  go_ret
  exact ⟨rfl, rfl⟩
set_option maxHeartbeats 8000000 in
theorem is_any (F : List Lay) (hF : ∀ x ∈ F, isF x) (b : Nat) (c a k : Int) (w : World) (hG : ErT w) (hL : Lies w (Ec F b c a)) :
    Calls Tryd.prog 16 #[hdV (Ec F b c a), .int .i64 k] w fun e w' => e = .returned (.bool (c == k)) ∧ Below w.heap.size w w' := by
  have hP := fP_ec hF b c a
  have hpb := Lib.hid (pl_blk hF hL)
  obtain ⟨x, l, hxl⟩ := Ec.ne F b c a
  have hne : Ec F b c a ≠ [] := by rw [hxl]; simp
  clear hxl
  generalize hE : Ec F b c a = L at *
  clear hE
  have hC := Lib.hid (held_any L hne w hG hL (by rw [hP]; rfl))
  rw [hP] at hC
  obtain ⟨u, hu⟩ : ∃ u, ptrO (fT L) = .pointer u := by cases h : fT L <;> exact ⟨_, rfl⟩
  rw [hu] at hC
  simp only [ptrO, ptr] at hC
  have hq := hd_eql L
  have hqG := hd_eqG L 26
  have h0 : L.isEmpty = false := by simpa using hne
  rw [h0] at hq
  clear h0 hG hL hP hne hF hu
  generalize hdV L = v at *
  go_enter Tryd.func16, Tryd.ntmps16
  go_wp2_with fail
  refine (hC.out).mono ?_
  rintro e w2 ⟨rfl, hB2⟩
  replace hB2 := Lib.hid hB2
  have hI := Lib.hid (errIs_any b c a k w2 (hpb.out.go hB2.out))
  clear hC hpb
  obtain ⟨r, hr⟩ : ∃ r, Hid ((c == k) = r) := ⟨_, Lib.hid rfl⟩
  rw [hr.out] at hI
  go_wp2_with (go_at_call 27; with_reducible refine (hI.out).mono ?_; rintro e w' ⟨rfl, rfl⟩)
  go_ret
  exact ⟨by rw [hr.out]; rfl, hB2.out⟩
end Go.Proofs.YtakbbhhhdcnlnaaDoor
