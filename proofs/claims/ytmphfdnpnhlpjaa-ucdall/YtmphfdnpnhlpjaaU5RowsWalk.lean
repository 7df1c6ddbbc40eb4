/- The walk of UcdRows. -/
import Derived.Test.YtmphfdnpnhlpjaaU5Doc
import Derived.Test.YtmphfdnpnhlpjaaU5Awk
import Derived.Test.YtmphfdnpnhlpjaaLaw00R
import Derived.Deep.QuietTactic
import Derived.BigQuiet
namespace Go.Proofs.Ytmphfdnpnhlpjaa
open Go.ChangeShapes Go.WideShapes Go.ChangeAt Go.RowKit
set_option linter.unusedVariables false
set_option linter.unusedSimpArgs false

theorem quiet_st {P : Program} {f : FuncId} {args : Array Value} {w : World} {n : Nat} {v : Value}
    (h : Calls P f args (w.drewN n) fun e w' => e = .returned v ∧ Still (w.drewN n) w') : Calls P f args (w.drewN n) fun e w'' => e = .returned v ∧ ∃ m, w'' = w.drewN m :=
  h.mono fun _ _ ⟨he, m, hm⟩ => ⟨he, n + m, by rw [hm, World.drewN_drewN]⟩
/-- both tables are there -/
structure Two (w : World) (g N : Nat) (W : World) : Prop where
  t : TblAt W W.heap.size g C5 P5 S5
  d : DTab W N
  be : Below w.heap.size w W
theorem Two.go {w W W' : World} {g N : Nat} (h : Two w g N W) (hb : Below W.heap.size W W') : Two w g N W' := ⟨h.t.go hb, h.d.grow hb, h.be.trans (hb.mono h.be.size)⟩
theorem Two.new {w W : World} {g N : Nat} (h : Two w g N W) (o : Obj) : Two w g N (W.alloc o) := h.go ((Below.refl _ W).alloc (Nat.le_refl _) o)
def RowsLoop (w : World) (g N : Nat) (a : Int) (c : Value) (wr : World) : Prop := ∃ k : Nat, k ≤ 4096 ∧ c = .int .i32 (a + k) ∧ Two w g N wr

set_option maxRecDepth 100000 in
set_option maxHeartbeats 4000000 in
theorem ucdRows_walk (n : Int) (w : World) : Calls Try.prog 4 #[.int .i64 n] w fun e w' => e = .returned (.bool true) ∧ Below w.heap.size w w' := by
  have HPL : Hid (∀ W, Calls Try.prog 16 #[.int .i64 n, .int .i64 272] W fun e w' => e = .returned (.int .i64 (n % 272)) ∧ W = w') := Lib.hid fun W => place_any n 272 W (by omega) (by omega)
  have hp0 : 0 ≤ n % 272 := by omega
  have hp1 : n % 272 ≤ 271 := by omega
  generalize n % 272 = p at HPL hp0 hp1
  go_enter Try.func4, Try.ntmps4
  go_wp2_with fail
  with_reducible refine (ubuild_any _).mono ?_
  rintro e w1 ⟨g, rfl, ht, hb⟩
  have HT := Lib.hid ht
  have HB := Lib.hid hb
  clear ht hb
  go_wp2_with fail
  with_reducible refine (dbuild_any _).mono ?_
  rintro e w2 ⟨rfl, hd, hb2⟩
  have HTW : Hid (Two w g w1.heap.size w2) := Lib.hid ⟨HT.out.go hb2, hd, HB.out.trans (hb2.mono HB.out.size)⟩
  clear hd hb2 HT HB
  generalize w1.heap.size = N at *
  generalize hR : N + 5 = R at *
  have HR := Lib.hid hR
  clear hR
  go_wp2_with fail
  with_reducible refine (HPL.out _).mono ?_
  rintro e w3 ⟨rfl, rfl⟩
  go_wp2_with fail
  go_loopw [6, 7, 8, 9, 10, 11, 12, 13, 14, 15] (fun c _ _ _ _ _ _ _ _ _ wr => RowsLoop w g N (p * 4096) c wr) (fun c _ _ _ _ _ _ _ _ _ _ => (p * 4096 + 4096 - (intOf c)).toNat)
  case atStart => exact ⟨0, by omega, by go_num, HTW.out⟩
  case round =>
    obtain ⟨k, hk, rfl, hTW⟩ := hrel
    have HW := Lib.hid hTW
    clear hTW HTW
    by_cases hlt : k < 4096
    · have HD : Hid (D32 (p * 4096 + k)) := Lib.hid (WalkArith.wf_i32 (by omega))
      have HPQ : Hid (∀ W, Two w g N W → Calls Try.prog 10 #[.pointer (some ⟨g, 0, none⟩), .int .i32 (p * 4096 + k)] W fun e w' => e = .returned (.tuple #[.int .i32 (pxF P5 (p * 4096 + k)), .int .i32 (pyF P5 (p * 4096 + k)), .bool (pkF P5 (p * 4096 + k))]) ∧ Below W.heap.size W w') := Lib.hid fun W h => pairQ h.t fine5 _
      have HSQ : Hid (∀ W, Two w g N W → Calls Try.prog 11 #[.pointer (some ⟨g, 0, none⟩), .int .i32 (p * 4096 + k)] W fun e w' => e = .returned (.tuple #[.int .i32 (tab (castE S5) (p * 4096 + k)), .bool (tab (castE S5) (p * 4096 + k) != 0)]) ∧ Still W w') := Lib.hid fun W h => singleQ h.t fine5 _
      have HCQ : Hid (∀ W, Two w g N W → Calls Try.prog 12 #[.pointer (some ⟨g, 0, none⟩), .int .i32 (p * 4096 + k)] W fun e w' => e = .returned (.int .i64 (tab (castE C5) (p * 4096 + k))) ∧ Still W w') := Lib.hid fun W h => classQ h.t _
      have HPD : Hid (∀ W, Two w g N W → (Instr.lookup 33 (.map (some (N + 1))) (.int .i32 (p * 4096 + k)) true).run Try.prog W = .ok (.tuple #[.agg #[.int .i32 (pxF P5 (p * 4096 + k)), .int .i32 (pyF P5 (p * 4096 + k))], .bool (pkF P5 (p * 4096 + k))]) W) := Lib.hid fun W h => pair_look h.d _ HD.out
      have HSD : Hid (∀ W, Two w g N W → (Instr.lookup 34 (.map (some (N + 1 + 1))) (.int .i32 (p * 4096 + k)) true).run Try.prog W = .ok (.tuple #[.int .i32 (tab (castE S5) (p * 4096 + k)), .bool (tab (castE S5) (p * 4096 + k) != 0)]) W) := Lib.hid fun W h => single_look h.d _ HD.out
      have HCD : Hid (∀ W, Two w g N W → (Instr.lookup 32 (.map (some N)) (.int .i32 (p * 4096 + k)) false).run Try.prog W = .ok (.int .i64 (tab (castE C5) (p * 4096 + k))) W) := Lib.hid fun W h => class_look h.d _ HD.out
      generalize pxF P5 (p * 4096 + k) = px at *
      generalize pyF P5 (p * 4096 + k) = py at *
      generalize pkF P5 (p * 4096 + k) = pk at *
      generalize (tab (castE S5) (p * 4096 + k) != 0) = sk at *
      generalize tab (castE S5) (p * 4096 + k) = sv at *
      generalize tab (castE C5) (p * 4096 + k) = cv at *
      have hx1 : (px != px) = false := by simp
      have hx2 : (py != py) = false := by simp
      have hx3 : (pk != pk) = false := by simp
      have hx4 : (sv != sv) = false := by simp
      have hx5 : (sk != sk) = false := by simp
      have hx6 : (cv != cv) = false := by simp
      go_wp2_with fail
      with_reducible refine (HPQ.out _ HW.out).mono ?_
      rintro e w3 ⟨rfl, hb3⟩
      have HW3 := Lib.hid (HW.out.go hb3)
      clear hb3 HW
      have hl := HPD.out _ HW3.out
      have c1 : w3.cell? ⟨R, 1, none⟩ = some (.map (some (N + 1))) := by rw [← HR.out]; exact HW3.out.d.blk.cell 1
      go_wp2_with fail
      have HW4 := Lib.hid (HW3.out.new (.cells #[.int .i32 px, .int .i32 py] 30))
      have KT := Lib.hid (Blk.new w3 30 #[.int .i32 px, .int .i32 py])
      clear hl c1 HW3
      generalize w3.alloc (.cells #[.int .i32 px, .int .i32 py] 30) = w4 at *
      generalize w3.heap.size = tw at *
      with_reducible refine (HSQ.out _ HW4.out).mono ?_
      rintro e w5 ⟨rfl, hb5⟩
      have HW5 := Lib.hid (HW4.out.go hb5.below)
      have KT5 : Hid (Blk w5 tw 30 #[.int .i32 px, .int .i32 py]) := Lib.hid (KT.out.below hb5.below KT.out.lt)
      clear hb5 HW4 KT
      have hl := HSD.out _ HW5.out
      have c1 : w5.cell? ⟨R, 2, none⟩ = some (.map (some (N + 1 + 1))) := by rw [← HR.out]; exact HW5.out.d.blk.cell 2
      go_wp2_with fail
      clear hl c1
      have hwq : ∀ q, Two w g N (w5.drewN q) := fun q => HW5.out.go (below_drewN' (Below.refl _ _) q)
      have HCQ5 : Hid (∀ q, Calls Try.prog 12 #[.pointer (some ⟨g, 0, none⟩), .int .i32 (p * 4096 + k)] (w5.drewN q) fun e w'' => e = .returned (.int .i64 cv) ∧ ∃ m, w'' = w5.drewN m) := Lib.hid fun q => quiet_st (HCQ.out _ (hwq q))
      have hcl : ∀ q, (Instr.lookup 32 (.map (some N)) (.int .i32 (p * 4096 + k)) false).run Try.prog (w5.drewN q) = .ok (.int .i64 cv) (w5.drewN q) := fun q => HCD.out _ (hwq q)
      have c1 : w5.cell? ⟨R, 0, none⟩ = some (.map (some N)) := by rw [← HR.out]; exact HW5.out.d.blk.cell 0
      have y0 : w5.cell? ⟨tw, 0, none⟩ = some (.int .i32 px) := KT5.out.cell 0
      have y1 : w5.cell? ⟨tw, 1, none⟩ = some (.int .i32 py) := KT5.out.cell 1
      clear hwq
      go_quiet ((go_at_call 12; with_reducible exact HCQ5.out _))
      go_wp2
      go_roundw
      case rel => exact ⟨k + 1, by omega, by go_num, HW5.out.go (below_drewN' (Below.refl _ _) _)⟩
      case measure => simp [intOf]; omega
    · have hkk : k = 4096 := by omega
      subst hkk
      go_wp2_with fail
      with_reducible refine (awake_any _ _ HW.out.t).mono ?_
      rintro e w5 ⟨rfl, hb5⟩
      have HB5 := Lib.hid (HW.out.go hb5).be
      clear hb5
      go_wp2
      go_ret
      exact ⟨rfl, HB5.out⟩
end Go.Proofs.Ytmphfdnpnhlpjaa
