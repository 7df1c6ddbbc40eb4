/- Joined of: D7AllWalk. -/
import Derived.Test.YtjfeibjehkapcaaJ7J
import Derived.Test.YtjfeibjehkapcaaJ7G
/- The walk of DecompAll. -/
namespace Go.Proofs.Ytjfeibjehkapcaa
set_option maxRecDepth 100000
open Go.ChangeShapes Go.WideShapes Go.ChangeAt Go.RowKit
set_option linter.unusedVariables false
set_option linter.unusedSimpArgs false

/-- both tables and a row -/
structure Sit (w : World) (g R : Nat) (A : Option Addr) (n c : Nat) (l : List Int) (W : World) : Prop where
  t : TblAt W W.heap.size g C5 P5 S5
  d : DT W R
  r : RowIn W A n c l
  be : Below w.heap.size w W
theorem Sit.go {w W W' : World} {g R : Nat} {A : Option Addr} {n c : Nat} {l : List Int} (h : Sit w g R A n c l W) (hb : Below W.heap.size W W') : Sit w g R A n c l W' := ⟨h.t.go hb, h.d.go hb, h.r.go hb, h.be.trans (hb.mono h.be.size)⟩
theorem wf_r32 {c : Int} (h : (Lit.int .i32 c).wf = true) : R32 c := by
  simp [Lit.wf, IntKind.min, IntKind.max, IntKind.bits, IntKind.signed] at h
  unfold R32; omega
theorem ArgRow.rowIn {w : World} {a : Option Addr} {len cap : Nat} {z : List Int} (r : ArgRow .i32 w a len cap z) : RowIn w a len cap z := ⟨r.size, r.le, r.max, r.nil, r.row⟩
theorem ArgRow.r32 {w : World} {a : Option Addr} {len cap : Nat} {z : List Int} (r : ArgRow .i32 w a len cap z) : ∀ c ∈ z, R32 c := fun c hc => wf_r32 (r.wf c hc)

set_option maxHeartbeats 4000000 in
theorem all_walk (a0 : Option Addr) (len0 cap0 : Nat) (z0 : List Int) (c0 : Int) (w : World) (r0 : ArgRow .i32 w a0 len0 cap0 z0) (wf0 : (Lit.int .i32 c0).wf = true) :
    Calls Try.prog 3 #[.slice a0 len0 cap0, .int .i32 c0] w fun e w' => e = .returned (.bool true) ∧ Below w.heap.size w w' := by
  have HR0 := Lib.hid r0.rowIn
  have HRR := Lib.hid r0.r32
  have HC0 := Lib.hid (wf_r32 wf0)
  clear r0 wf0
  go_enter Try.func3, Try.ntmps3
  go_wp2_with fail
  with_reducible refine (ubuild_any _).mono ?_
  rintro e w1 ⟨g, rfl, ht, hb⟩
  have HT := Lib.hid ht
  have HB := Lib.hid hb
  clear ht hb
  go_wp2_with fail
  with_reducible refine (dbuild_any _).mono ?_
  rintro e w2 ⟨rfl, hd, hb2⟩
  have HS : Hid (Sit w g (w1.heap.size + 5) a0 len0 cap0 z0 w2) := Lib.hid ⟨HT.out.go hb2, ⟨_, rfl, hd⟩, HR0.out.go (HB.out.trans (hb2.mono HB.out.size)), HB.out.trans (hb2.mono HB.out.size)⟩
  clear hd hb2 HT HB HR0
  generalize w1.heap.size + 5 = R at *
  go_wp2_with fail
  by_cases hfew : len0 ≤ 100
  · have hfd : decide ((len0 : Int) ≤ 100) = true := decide_eq_true (by omega)
    with_reducible refine (few_any _ _ _ _).mono ?_
    rintro e w3 ⟨rfl, rfl⟩
    rw [hfd]
    go_wp2_with fail
    with_reducible refine (full_any _ g c0 HS.out.t HC0.out).mono ?_
    rintro e w3 ⟨A3, n3, c3, rfl, hr3, hb3⟩
    have HS3 := Lib.hid (HS.out.go hb3)
    have HR3 := Lib.hid hr3
    have hle3 : n3 ≤ 1000000 := by
      have hn3 := hr3.len
      have hfl := fullF_len sy5_len c0
      omega
    clear hr3 hb3 HS
    go_wp2_with fail
    with_reducible refine (rfull_any c0 HC0.out _ R HS3.out.d).mono ?_
    rintro e w4 hres
    obtain ⟨A4, n4, c4, rfl, hr4, hb4⟩ := hres.out
    have HS4 := Lib.hid (HS3.out.go hb4)
    have HR3' := Lib.hid (HR3.out.go hb4)
    have HR4 := Lib.hid hr4
    clear hr4 hb4 hres HS3 HR3
    go_wp2_with fail
    with_reducible refine (same_rows HR3'.out HR4.out rfl hle3).mono ?_
    rintro e w5 ⟨rfl, hs5⟩
    have HS5 := Lib.hid (HS4.out.go hs5.below)
    clear hs5 HS4 HR3' HR4
    go_wp2_with fail
    with_reducible refine (order_out _ g _ _ _ _ HS5.out.r HS5.out.t (by omega)).mono ?_
    rintro e w6 ⟨A6, n6, c6, rfl, hr6, hb6⟩
    have HS6 := Lib.hid (HS5.out.go hb6)
    have HR6 := Lib.hid hr6
    have hle6 : n6 ≤ 1000000 := by
      have hn6 := hr6.len
      rw [ordL_len, HS6.out.r.len] at hn6
      omega
    clear hr6 hb6 HS5
    go_wp2_with fail
    with_reducible refine (rorder_out _ R _ _ _ _ HS6.out.r HS6.out.d HRR.out (by omega)).mono ?_
    rintro e w7 ⟨A7, n7, c7, rfl, hr7, hb7⟩
    have HS7 := Lib.hid (HS6.out.go hb7)
    have HR6' := Lib.hid (HR6.out.go hb7)
    have HR7 := Lib.hid hr7
    clear hr7 hb7 HS6 HR6
    go_wp2_with fail
    with_reducible refine (same_rows HR6'.out HR7.out rfl hle6).mono ?_
    rintro e w8 ⟨rfl, hs8⟩
    have HS8 := Lib.hid (HS7.out.go hs8.below)
    clear hs8 HS7 HR6' HR7
    go_wp2_with fail
    with_reducible refine (all_any _ g _ _ _ _ HS8.out.r HS8.out.t HRR.out (by omega)).mono ?_
    rintro e w9 ⟨A9, n9, c9, rfl, hr9, hb9⟩
    have HS9 := Lib.hid (HS8.out.go hb9)
    have HR9 := Lib.hid hr9
    have hle9 : n9 ≤ 1000000 := by
      have hn9 := hr9.len
      have hal := allF_len (cl := cl5) sy5_len z0
      rw [HS9.out.r.len] at hal
      omega
    clear hr9 hb9 HS8
    go_wp2_with fail
    with_reducible refine (rall_any _ R _ _ _ _ HS9.out.r HS9.out.d HRR.out (by omega)).mono ?_
    rintro e w10 ⟨A10, n10, c10, rfl, hr10, hb10⟩
    have HS10 := Lib.hid (HS9.out.go hb10)
    have HR9' := Lib.hid (HR9.out.go hb10)
    have HR10 := Lib.hid hr10
    clear hr10 hb10 HS9 HR9
    go_wp2_with fail
    with_reducible refine (same_rows HR9'.out HR10.out rfl hle9).mono ?_
    rintro e w11 ⟨rfl, hs11⟩
    have HS11 := Lib.hid (HS10.out.go hs11.below)
    clear hs11 HS10 HR9' HR10
    go_wp2_with fail
    with_reducible refine (awake_any _ _ HS11.out.t).mono ?_
    rintro e w12 ⟨rfl, hb12⟩
    have HB12 := Lib.hid (HS11.out.go hb12).be
    clear hb12
    go_wp2
    go_ret
    exact ⟨rfl, HB12.out⟩
  · have hfd : decide ((len0 : Int) ≤ 100) = false := decide_eq_false (by omega)
    with_reducible refine (few_any _ _ _ _).mono ?_
    rintro e w3 ⟨rfl, rfl⟩
    rw [hfd]
    go_wp2_with fail
    with_reducible refine (awake_any _ _ HS.out.t).mono ?_
    rintro e w12 ⟨rfl, hb12⟩
    have HB12 := Lib.hid (HS.out.go hb12).be
    clear hb12
    go_wp2
    go_ret
    exact ⟨rfl, HB12.out⟩
end Go.Proofs.Ytjfeibjehkapcaa
