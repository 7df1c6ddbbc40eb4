/- Joined of: D7NumWalk. -/
import Derived.Test.YtjfeibjehkapcaaJ7K
import Derived.Test.YtjfeibjehkapcaaJ7L
/- The walk of DecompNumbers; what Runes hands on. -/
namespace Go.Proofs.Ytjfeibjehkapcaa
set_option maxRecDepth 100000
open Go.ChangeShapes Go.WideShapes Go.ChangeAt Go.RowKit
set_option linter.unusedVariables false
set_option linter.unusedSimpArgs false

/-- at most 60 scalars -/
def RunesOut (w : World) (e : Ending) (w' : World) : Prop := ∃ A n c l, e = .returned (.slice A n c) ∧ RowIn w' A n c l ∧ (∀ x ∈ l, R32 x) ∧ n ≤ 60 ∧ Below w.heap.size w w'
theorem isB_r32 {c : Int} (h : isB c = true) : R32 c := by
  unfold isB at h
  simp at h
  unfold R32; omega
theorem SomeRow.out {w w' : World} {e : Ending} (h : SomeRow w e w') : RunesOut w e w' := by
  obtain ⟨v, l, rfl, hO, hs, hl, hb⟩ := h
  obtain ⟨A, c, rfl, hc, hcm⟩ := own_form hO
  exact ⟨A, _, c, l, rfl, RowIn.ofOwn hO, fun x hx => isB_r32 (hs x hx), hl, hb⟩
theorem ArgRow.go {k : IntKind} {w w' : World} {a : Option Addr} {len cap : Nat} {z : List Int} (r : ArgRow k w a len cap z) (hb : Below w.heap.size w w') : ArgRow k w' a len cap z := ⟨r.size, r.le, r.max, r.nil, r.row.go hb, r.wf⟩
theorem runes7 {w : World} {a : Option Addr} {len cap : Nat} {z : List Int} (r : ArgRow .i64 w a len cap z) : Calls Try.prog 19 #[.slice a len cap] w (RunesOut w) := (runes_any a len cap z w r).mono fun _ _ h => h.out

set_option maxHeartbeats 4000000 in
theorem num_walk (a0 : Option Addr) (len0 cap0 : Nat) (z0 : List Int) (w : World) (r0 : ArgRow .i64 w a0 len0 cap0 z0) :
    Calls Try.prog 4 #[.slice a0 len0 cap0] w fun e w' => e = .returned (.bool true) ∧ Below w.heap.size w w' := by
  have HR0 := Lib.hid r0
  clear r0
  go_enter Try.func4, Try.ntmps4
  go_wp2_with fail
  with_reducible refine (ubuild_any _).mono ?_
  rintro e w1 ⟨g, rfl, ht, hb⟩
  have HT := Lib.hid ht
  have HB := Lib.hid hb
  clear ht hb
  go_wp2_with fail
  with_reducible refine (dbuild_any _).mono ?_
  rintro e w2 ⟨rfl, hd, hb2⟩
  have HT2 := Lib.hid (HT.out.go hb2)
  have HD2 : Hid (DT w2 (w1.heap.size + 5)) := Lib.hid ⟨_, rfl, hd⟩
  have HB2 := Lib.hid (HB.out.trans (hb2.mono HB.out.size))
  clear hd hb2 HT HB
  generalize w1.heap.size + 5 = R at *
  have HRU := Lib.hid (runes7 (HR0.out.go HB2.out))
  go_wp2_with fail
  with_reducible refine HRU.out.mono ?_
  rintro e w3 ⟨A, n, c, l, rfl, hr3, hR3, hn, hb3⟩
  have HS3 : Hid (Sit w g R A n c l w3) := Lib.hid ⟨HT2.out.go hb3, HD2.out.go hb3, hr3, HB2.out.trans (hb3.mono HB2.out.size)⟩
  have HRR := Lib.hid hR3
  clear hr3 hR3 hb3 HT2 HD2 HB2 HRU HR0
  go_wp2_with fail
  with_reducible refine (all_any _ g _ _ _ _ HS3.out.r HS3.out.t HRR.out (by omega)).mono ?_
  rintro e w9 ⟨A9, n9, c9, rfl, hr9, hb9⟩
  have HS9 := Lib.hid (HS3.out.go hb9)
  have HR9 := Lib.hid hr9
  have hle9 : n9 ≤ 1000000 := by
    have hn9 := hr9.len
    have hal := allF_len (cl := cl5) sy5_len l
    rw [HS9.out.r.len] at hal
    omega
  clear hr9 hb9 HS3
  go_wp2_with fail
  with_reducible refine (rall_any _ R _ _ _ _ HS9.out.r HS9.out.d HRR.out (by omega)).mono ?_
  rintro e w10 ⟨A10, n10, c10, rfl, hr10, hb10⟩
  have HS10 := Lib.hid (HS9.out.go hb10)
  have HR9' := Lib.hid (HR9.out.go hb10)
  have HR10 := Lib.hid hr10
  clear hr10 hb10 HS9 HR9
  go_wp2_with fail
  with_reducible refine (same_rows HR9'.out HR10.out rfl hle9).mono ?_
  rintro e w11 ⟨rfl, hs11⟩
  have HS11 := Lib.hid (HS10.out.go hs11.below)
  clear hs11 HS10 HR9' HR10
  go_wp2_with fail
  with_reducible refine (order_out _ g _ _ _ _ HS11.out.r HS11.out.t (by omega)).mono ?_
  rintro e w6 ⟨A6, n6, c6, rfl, hr6, hb6⟩
  have HS6 := Lib.hid (HS11.out.go hb6)
  have HR6 := Lib.hid hr6
  have hle6 : n6 ≤ 1000000 := by
    have hn6 := hr6.len
    rw [ordL_len, HS6.out.r.len] at hn6
    omega
  clear hr6 hb6 HS11
  go_wp2_with fail
  with_reducible refine (rorder_out _ R _ _ _ _ HS6.out.r HS6.out.d HRR.out (by omega)).mono ?_
  rintro e w7 ⟨A7, n7, c7, rfl, hr7, hb7⟩
  have HS7 := Lib.hid (HS6.out.go hb7)
  have HR6' := Lib.hid (HR6.out.go hb7)
  have HR7 := Lib.hid hr7
  clear hr7 hb7 HS6 HR6
  go_wp2_with fail
  with_reducible refine (same_rows HR6'.out HR7.out rfl hle6).mono ?_
  rintro e w8 ⟨rfl, hs8⟩
  have HS8 := Lib.hid (HS7.out.go hs8.below)
  clear hs8 HS7 HR6' HR7
  go_wp2_with fail
  with_reducible refine (awake_any _ _ HS8.out.t).mono ?_
  rintro e w12 ⟨rfl, hb12⟩
  have HB12 := Lib.hid (HS8.out.go hb12).be
  clear hb12
  go_wp2
  go_ret
  exact ⟨rfl, HB12.out⟩
end Go.Proofs.Ytjfeibjehkapcaa
