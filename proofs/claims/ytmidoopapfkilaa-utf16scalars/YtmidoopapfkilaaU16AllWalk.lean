/- The walk of Utf16All. -/
import Derived.Test.YtmidoopapfkilaaU16Awake
import Derived.Test.YtmidoopapfkilaaArg
namespace Go.Proofs.Ytmidoopapfkilaa
open Go.ChangeShapes Go.WideShapes Go.ChangeAt Go.RowKit
set_option linter.unusedVariables false

theorem u16_of {z : List Int} (h : ∀ n ∈ z, (Lit.int .u16 n).wf = true) : U16s z := fun n hn => by
  have := bounds_u16 (h n hn); omega
/-- what Scalars hands back, its row told by its cells -/
def ScSl (w : World) (xs : List Int) (e : Ending) (w' : World) : Prop :=
  ∃ A c, e = .returned (.tuple #[.slice A (scS xs).1.length c, .int .i64 ((scS xs).2.1 : Int), .bool (scS xs).2.2]) ∧ Ints w' w'.heap.size .i32 A (scS xs).1 ∧ Below w.heap.size w w'
theorem ScRes.sl {w w' : World} {xs : List Int} {e : Ending} (h : ScRes w xs e w') : ScSl w xs e w' := by
  obtain ⟨v, rfl, hO, hb⟩ := h
  obtain ⟨A, c, rfl, hc, hcm⟩ := own_form hO
  exact ⟨A, c, rfl, Ints.own hO, hb⟩
/-- a row, told by its cells -/
def RowSl (k : IntKind) (w : World) (zs : List Int) (e : Ending) (w' : World) : Prop :=
  ∃ A c, e = .returned (.slice A zs.length c) ∧ Ints w' w'.heap.size k A zs ∧ (zs.length ≤ c ∧ c ≤ maxLen) ∧ Below w.heap.size w w'
theorem RowRes.sl {t : TypeId} {k : IntKind} {w w' : World} {zs : List Int} {e : Ending} (h : RowRes t k w zs e w') : RowSl k w zs e w' := by
  obtain ⟨v, rfl, hO, hb⟩ := h
  obtain ⟨A, c, rfl, hc, hcm⟩ := own_form hO
  exact ⟨A, c, rfl, Ints.own hO, ⟨hc, hcm⟩, hb⟩
theorem scA_len (u : List Int) : ∀ (f n : Nat) (l : List Int), l.length ≤ n → n ≤ u.length → (scA u f n l).1.length ≤ u.length
  | 0, n, l, h1, h2 => by simp only [scA]; omega
  | f + 1, n, l, h1, h2 => by
    rw [scA]
    split
    · split
      · exact scA_len u f _ _ (by simp; omega) (by omega)
      · split
        · exact scA_len u f _ _ (by simp; omega) (by omega)
        · simp
    · simp only; omega
theorem scS_len (u : List Int) : (scS u).1.length ≤ u.length := scA_len u _ 0 [] (by simp) (by omega)

theorem Ints.go {w w' : World} {k : IntKind} {A : Option Addr} {xs : List Int} (h : Ints w w.heap.size k A xs) (hb : Below w.heap.size w w') : Ints w' w'.heap.size k A xs := (h.below hb (Nat.le_refl _)).more hb.size

set_option maxHeartbeats 4000000 in
theorem all_walk (a0 : Option Addr) (len0 cap0 : Nat) (z0 : List Int) (a1 : Option Addr) (len1 cap1 : Nat) (z1 : List Int) (a2 : Option Addr) (len2 cap2 : Nat) (z2 : List Int) (w : World)
    (r0 : ArgRow .i32 w a0 len0 cap0 z0) (r1 : ArgRow .i32 w a1 len1 cap1 z1) (r2 : ArgRow .u16 w a2 len2 cap2 z2) :
    Calls Try.prog 3 #[.slice a0 len0 cap0, .slice a1 len1 cap1, .slice a2 len2 cap2] w fun e w' => e = .returned (.bool true) ∧ Below w.heap.size w w' := by
  have hU := u16_of r2.wf
  obtain ⟨hz0, hle0, hmx0, _, hI0, _⟩ := r0
  obtain ⟨hz1, hle1, hmx1, _, hI1, _⟩ := r1
  obtain ⟨hz2, hle2, hmx2, _, hI2, _⟩ := r2
  have HZ0 := Lib.hid hz0
  have HZ1 := Lib.hid hz1
  have HZ2 := Lib.hid hz2
  have HI0 := Lib.hid hI0
  have HI1 := Lib.hid hI1
  have HI2 := Lib.hid hI2
  have HU := Lib.hid hU
  clear hI0 hI1 hI2 hU hz0 hz1 hz2
  by_cases hg : (200 < len0 ∨ 200 < len1) ∨ 200 < len2
  · by_cases g0 : 200 < len0
    · have d0 : decide (200 < (len0 : Int)) = true := decide_eq_true (by omega)
      go_enter Try.func3, Try.ntmps3
      go_wp2_with fail
      with_reducible refine (awake_any _).mono ?_
      rintro e w2 ⟨rfl, hb2⟩
      go_wp2
      go_ret
      exact ⟨rfl, hb2⟩
    have d0 : decide (200 < (len0 : Int)) = false := decide_eq_false (by omega)
    by_cases g1 : 200 < len1
    · have d1 : decide (200 < (len1 : Int)) = true := decide_eq_true (by omega)
      go_enter Try.func3, Try.ntmps3
      go_wp2_with fail
      with_reducible refine (awake_any _).mono ?_
      rintro e w2 ⟨rfl, hb2⟩
      go_wp2
      go_ret
      exact ⟨rfl, hb2⟩
    have d1 : decide (200 < (len1 : Int)) = false := decide_eq_false (by omega)
    have d2 : decide (200 < (len2 : Int)) = true := decide_eq_true (by omega)
    go_enter Try.func3, Try.ntmps3
    go_wp2_with fail
    with_reducible refine (awake_any _).mono ?_
    rintro e w2 ⟨rfl, hb2⟩
    go_wp2
    go_ret
    exact ⟨rfl, hb2⟩
  have d0 : decide (200 < (len0 : Int)) = false := decide_eq_false (by omega)
  have d1 : decide (200 < (len1 : Int)) = false := decide_eq_false (by omega)
  have d2 : decide (200 < (len2 : Int)) = false := decide_eq_false (by omega)
  have l0 : len0 ≤ 200 := by omega
  have l1 : len1 ≤ 200 := by omega
  have l2 : len2 ≤ 200 := by omega
  have hsl := scS_len z2
  rw [HZ2.out] at hsl
  have hul := uns_len z0
  rw [HZ0.out] at hul
  clear hg
  go_enter Try.func3, Try.ntmps3
  go_wp2_with fail
  with_reducible refine (Calls.mono (scalars_any a2 len2 cap2 z2 w HZ2.out HI2.out HU.out (by omega) hle2 hmx2) (fun _ _ h => ScRes.sl h)).mono ?_
  rintro e w1 ⟨A1, c1, rfl, hJ1, hb1⟩
  go_wp2_with fail
  with_reducible refine (Calls.mono (r_scalars_any a2 len2 cap2 z2 w1 HZ2.out (HI2.out.go hb1) HU.out (by omega)) (fun _ _ h => ScRes.sl h)).mono ?_
  rintro e w2 ⟨A2, c2, rfl, hJ2, hb2'⟩
  have HJ1 := Lib.hid (hJ1.go hb2')
  have HJ2 := Lib.hid hJ2
  have hb2 := hb1.trans (hb2'.mono hb1.size)
  clear hJ1 hJ2 hb1 hb2'
  generalize (scS z2).1 = s at *
  generalize ((scS z2).2.1 : Int) = k at *
  generalize (scS z2).2.2 = ok at *
  generalize hsn : s.length = sn at *
  have HSN := Lib.hid hsn
  clear hsn
  have t1 : (k == k) = true := by simp
  have t2 : (ok == ok) = true := by simp
  go_wp2_with fail
  with_reducible refine (Calls.mono (unitsL_any a0 len0 cap0 z0 w2 HZ0.out (HI0.out.go hb2) (by omega)) (fun _ _ h => RowRes.sl h)).mono ?_
  rintro e w3 ⟨A3, c3, rfl, hJ3, _, hb3'⟩
  have hb3 := hb2.trans (hb3'.mono hb2.size)
  have HJ13 := Lib.hid (HJ1.out.go hb3')
  have HJ23 := Lib.hid (HJ2.out.go hb3')
  clear hb3' HJ1 HJ2
  go_wp2_with fail
  with_reducible refine (Calls.mono (r_unitsL_any a0 len0 cap0 z0 w3 HZ0.out (HI0.out.go hb3) (by omega)) (fun _ _ h => RowRes.sl h)).mono ?_
  rintro e w4 ⟨A4, c4, rfl, hJ4, _, hb4'⟩
  have hb4 := hb3.trans (hb4'.mono hb3.size)
  have HJ34 := Lib.hid (hJ3.go hb4')
  have HJ4 := Lib.hid hJ4
  have HJ14 := Lib.hid (HJ13.out.go hb4')
  have HJ24 := Lib.hid (HJ23.out.go hb4')
  clear hb4' hJ3 hJ4 HJ13 HJ23
  generalize uns z0 = u at *
  generalize hun : u.length = un at *
  have HUN := Lib.hid hun
  clear hun
  go_wp2_with fail
  with_reducible refine (sameU_any A3 A4 un un c3 c4 u u w4 HUN.out HUN.out HJ34.out HJ4.out (by omega) (by omega)).mono ?_
  rintro e w5 ⟨rfl, hs5⟩
  have hb5 := hb4.trans (hs5.lower _)
  have HJ15 := Lib.hid (HJ14.out.go hs5.below)
  have HJ25 := Lib.hid (HJ24.out.go hs5.below)
  have e1 : decide (u = u) = true := by simp
  rw [e1]
  clear hs5 HJ14 HJ24 HJ34 HJ4 e1
  go_wp2_with fail
  with_reducible refine (same_any A1 A2 sn sn c1 c2 s s w5 HSN.out HSN.out HJ15.out HJ25.out (by omega) (by omega)).mono ?_
  rintro e w6 ⟨rfl, hs6⟩
  have hb6 := hb5.trans (hs6.lower _)
  have e2 : decide (s = s) = true := by simp
  rw [e2]
  clear hs6 HJ15 HJ25 e2
  go_wp2_with fail
  with_reducible refine (compare_any a0 a1 len0 len1 cap0 cap1 z0 z1 w6 HZ0.out HZ1.out (HI0.out.go hb6) (HI1.out.go hb6) (by omega) (by omega)).mono ?_
  rintro e w7 ⟨rfl, hb7'⟩
  have hb7 := hb6.trans (hb7'.mono hb6.size)
  clear hb7'
  go_wp2_with fail
  with_reducible refine (r_compare_any a0 a1 len0 len1 cap0 cap1 z0 z1 w7 HZ0.out HZ1.out (HI0.out.go hb7) (HI1.out.go hb7) (by omega) (by omega)).mono ?_
  rintro e w8 ⟨rfl, hb8'⟩
  have hb8 := hb7.trans (hb8'.mono hb7.size)
  clear hb8'
  generalize cmpL (uns z0) (uns z1) = r at *
  have t3 : (r == r) = true := by simp
  go_wp2_with fail
  with_reducible refine (awake_any _).mono ?_
  rintro e w9 ⟨rfl, hb9'⟩
  have hb9 := hb8.trans (hb9'.mono hb8.size)
  go_wp2
  go_ret
  exact ⟨rfl, hb9⟩
end Go.Proofs.Ytmidoopapfkilaa
