/- The laws' awake of layer 14. -/
import Derived.Test.YtakbbhhhdcnlnaaDoorR14
namespace Go.Proofs.YtakbbhhhdcnlnaaDoor
set_option maxRecDepth 100000
open Go.RowKit
set_option linter.unusedVariables false
set_option linter.unusedSimpArgs false

/-- what stays: the two variables, and errors that lie there -/
structure Vs (w : World) : Prop where
  e : ErT w
  n : NmT w
theorem Vs.go {w w' : World} (h : Vs w) (hb : Below w.heap.size w w') : Vs w' := ⟨h.e.go hb, h.n.go hb⟩
theorem new_l (c a : Int) (hc : ¬ c = 0) (w : World) : Calls Tryd.prog 8 #[.int .i64 c, .int .i64 a] w fun e w' => ∃ b, e = .returned (hdV (Ec [] b c a)) ∧ Lies w' (Ec [] b c a) ∧ Below w.heap.size w w' :=
  (new_any c a hc w).mono fun e w' ⟨h1, h2⟩ => ⟨w.heap.size, h1, by rw [h2]; exact ⟨Blk.new w _ _, rfl⟩, by rw [h2]; exact (Below.refl _ _).alloc (Nat.le_refl _) _⟩
theorem wrap_l (L : List Lay) (hL : L ≠ []) (s : ByteArray) (w : World) (h : Lies w L) : Calls Tryd.prog 10 #[hdV L, .string s] w fun e w' => ∃ b, e = .returned (hdV (.wr b s :: L)) ∧ Lies w' (.wr b s :: L) ∧ Below w.heap.size w w' :=
  (wrap_any L hL s w).mono fun e w' ⟨h1, h2⟩ => ⟨w.heap.size, h1, by rw [h2]; exact ⟨Blk.new w _ _, h.go ((Below.refl _ _).alloc (Nat.le_refl _) _)⟩, by rw [h2]; exact (Below.refl _ _).alloc (Nat.le_refl _) _⟩
theorem input_l (L : List Lay) (hL : L ≠ []) (n : Int) (w : World) (h : Lies w L) : Calls Tryd.prog 12 #[hdV L, .int .i64 n] w fun e w' => ∃ b, e = .returned (hdV (.inp b n :: L)) ∧ Lies w' (.inp b n :: L) ∧ Below w.heap.size w w' :=
  (input_any L hL n w).mono fun e w' ⟨h1, h2⟩ => ⟨w.heap.size, h1, by rw [h2]; exact ⟨Blk.new w _ _, h.go ((Below.refl _ _).alloc (Nat.le_refl _) _)⟩, by rw [h2]; exact (Below.refl _ _).alloc (Nat.le_refl _) _⟩
theorem of_nil' (w : World) : Calls Tryd.prog 14 #[.nilIface] w fun e w' => e = .returned (.agg #[.int .i64 0, .int .i64 0, .int .i64 0]) ∧ Below w.heap.size w w' := of_nil w
def patchB : ByteArray := ⟨#[112, 97, 116, 99, 104]⟩
theorem patch_txt (b p : Nat) : bs (txt (Ec [.wr b patchB] p 11 7)) = ⟨#[112, 97, 116, 99, 104, 58, 32, 100, 101, 112, 116, 104, 32, 55]⟩ := by
  have h : printF 7 = [55] := by
    unfold printF
    rw [if_neg (by decide), List.nil_append]
    exact dig_lo (by decide)
  unfold Ec txt wdS txt wdS
  simp only [List.cons_append, List.nil_append, txt, wdS]
  rw [h]
  rfl
set_option maxHeartbeats 8000000 in
theorem awake_any (w : World) (hV : Vs w) : Calls Tryd.prog 7 #[] w fun e w' => e = .returned (.bool true) ∧ Below w.heap.size w w' := by
  go_enter Tryd.func7, Tryd.ntmps7
  go_wp2_with fail
  refine (new_l 11 7 (by decide) _).mono ?_
  rintro e w1 ⟨b1, rfl, hl1, hw1⟩
  have hV1 := Lib.hid (hV.go hw1)
  have hc1 := Lib.hid (fun W h => wrap_l (Ec [] b1 11 7) (by simp [Ec]) patchB W h)
  replace hl1 := Lib.hid hl1
  replace hw1 := Lib.hid hw1
  have es : (⟨#[112, 97, 116, 99, 104]⟩ : ByteArray) = patchB := rfl
  generalize hv1 : hdV (Ec [] b1 11 7) = v1 at *
  clear hv1
  go_wp2_with fail
  refine (hc1.out _ hl1.out).mono ?_
  rintro e w2 ⟨b2, rfl, hl2, hw2⟩
  have hV2 := Lib.hid (hV1.out.go hw2)
  have hS2 := Lib.hid (hw1.out.trans (hw2.mono hw1.out.size))
  have eL : Lay.wr b2 patchB :: Ec [] b1 11 7 = Ec [.wr b2 patchB] b1 11 7 := rfl
  rw [eL] at hl2
  have hF2 : ∀ x ∈ [Lay.wr b2 patchB], isF x := by intro x hx; rw [List.mem_singleton.1 hx]; exact trivial
  have hI := Lib.hid (fun W h => input_l (Ec [.wr b2 patchB] b1 11 7) (by simp [Ec]) 1 W h)
  have hT := Lib.hid (fun W (hv : Vs W) h => text_any (Ec [.wr b2 patchB] b1 11 7) W h (by
    intro x hx
    simp [Ec] at hx
    rcases hx with rfl | rfl | rfl
    · show patchB.size ≤ 1000000
      decide
    · exact ⟨by decide, by decide⟩
    · exact trivial) hv.n (by intro h0; have := congrArg bs h0; rw [patch_txt] at this; cases this) (by have := congrArg ByteArray.size (patch_txt b2 b1); rw [bs_size] at this; rw [this]; decide))
  have hK := Lib.hid (fun k W (hv : Vs W) h => is_any [.wr b2 patchB] hF2 b1 11 7 k W hv.e h)
  rw [patch_txt] at hT
  rw [eL]
  replace hl2 := Lib.hid hl2
  clear hw2 hV1 hl1 hw1 hc1 eL es hF2
  generalize hv2 : hdV (Ec [.wr b2 patchB] b1 11 7) = v2 at *
  clear hv2
  go_wp2_with fail
  refine (hI.out _ hl2.out).mono ?_
  rintro e w3 ⟨b3, rfl, hl3, hw3⟩
  have hV3 := Lib.hid (hV2.out.go hw3)
  have hS3 := Lib.hid (hS2.out.trans (hw3.mono hS2.out.size))
  have hl23 := Lib.hid (hl2.out.go hw3)
  have hO := Lib.hid (of_any [.inp b3 1, .wr b2 patchB] (by intro x hx; simp at hx; rcases hx with rfl | rfl <;> exact trivial) b1 11 7 w3 hV3.out.e hl3)
  have eL : Lay.inp b3 1 :: Ec [.wr b2 patchB] b1 11 7 = Ec [.inp b3 1, .wr b2 patchB] b1 11 7 := rfl
  have eN : inN (Ec [.inp b3 1, .wr b2 patchB] b1 11 7) = 1 := rfl
  rw [eN] at hO
  rw [eL]
  clear hw3 hV2 hl2 hS2 hI eL eN hl3
  generalize hv3 : hdV (Ec [.inp b3 1, .wr b2 patchB] b1 11 7) = v3 at *
  clear hv3
  go_wp2_with fail
  refine (hO.out).mono ?_
  rintro e w4 ⟨rfl, hw4⟩
  have hV4 := Lib.hid (hV3.out.go hw4)
  have hS4 := Lib.hid (hS3.out.trans (hw4.mono hS3.out.size))
  have hl24 := Lib.hid (hl23.out.go hw4)
  clear hw4 hV3 hS3 hl23 hO
  go_upto_region 3 with fail
  have hw5 := (Below.refl w4.heap.size w4).alloc (Nat.le_refl _) (.cells #[.int .i64 11, .int .i64 7, .int .i64 1] 30)
  have hV5 := Lib.hid (hV4.out.go hw5)
  have hS5 := Lib.hid (hS4.out.trans (hw5.mono hS4.out.size))
  have hl25 := Lib.hid (hl24.out.go hw5)
  have hX5 := Lib.hid (Blk.new w4 30 #[.int .i64 11, .int .i64 7, .int .i64 1])
  clear hw5 hV4 hS4 hl24
  generalize hx : w4.heap.size = x4 at *
  generalize w4.alloc (.cells #[.int .i64 11, .int .i64 7, .int .i64 1] 30) = w5 at *
  clear hx
  have hK1 := Lib.hid (fun W hv h => hK.out 11 W hv h)
  have hK2 := Lib.hid (fun W hv h => hK.out 12 W hv h)
  have i1 : ((11 : Int) == 11) = true := rfl
  have i2 : ((11 : Int) == 12) = false := rfl
  rw [i1] at hK1
  rw [i2] at hK2
  clear i1 i2 hK
  go_wp2_with fail
  refine (hT.out _ hV5.out hl25.out).mono ?_
  rintro e w6 ⟨rfl, hw6⟩
  have hV6 := Lib.hid (hV5.out.go hw6)
  have hS6 := Lib.hid (hS5.out.trans (hw6.mono hS5.out.size))
  have hl26 := Lib.hid (hl25.out.go hw6)
  have hX6 := Lib.hid (hX5.out.go' hw6)
  clear hw6 hV5 hS5 hl25 hX5
  have hc0 := hX6.out.cell 0
  have hc1 := hX6.out.cell 1
  have hc2 := hX6.out.cell 2
  simp only [List.getElem?_toArray, List.getElem?_cons_zero, List.getElem?_cons_succ] at hc0 hc1 hc2
  have q1 : ∀ w, (binOp .eql 30 (.agg #[.int .i64 11, .int .i64 7, .int .i64 1]) (.agg #[.int .i64 11, .int .i64 7, .int .i64 1])).run Tryd.prog w = .ok (.bool true) w := fun w => by rw [eq_ft]; rfl
  have q2 : ∀ w, (binOp .eql 30 (.agg #[.int .i64 0, .int .i64 0, .int .i64 0]) (.agg #[.int .i64 0, .int .i64 0, .int .i64 0])).run Tryd.prog w = .ok (.bool true) w := fun w => by rw [eq_ft]; rfl
  go_wp2_with fail
  refine (hK1.out _ hV6.out hl26.out).mono ?_
  rintro e w7 ⟨rfl, hw7⟩
  have hV7 := Lib.hid (hV6.out.go hw7)
  have hS7 := Lib.hid (hS6.out.trans (hw7.mono hS6.out.size))
  have hl27 := Lib.hid (hl26.out.go hw7)
  have hX7 := Lib.hid (hX6.out.go' hw7)
  clear hw7 hV6 hS6 hl26 hX6
  clear hc0 hc1 hc2
  go_wp2_with fail
  refine (hK2.out _ hV7.out hl27.out).mono ?_
  rintro e w8 ⟨rfl, hw8⟩
  have hV8 := Lib.hid (hV7.out.go hw8)
  have hS8 := Lib.hid (hS7.out.trans (hw8.mono hS7.out.size))
  have hl28 := Lib.hid (hl27.out.go hw8)
  have hX8 := Lib.hid (hX7.out.go' hw8)
  clear hw8 hV7 hS7 hl27 hX7
  go_wp2_with fail
  refine (new_ok _ _).mono ?_
  rintro e w9 ⟨rfl, rfl⟩
  go_wp2_with fail
  refine (name_any 19 _ hV8.out.n).mono ?_
  rintro e w9 ⟨rfl, rfl⟩
  have nl : bs (nmF 19) = ⟨#[108, 105, 110, 101]⟩ := rfl
  rw [nl]
  clear nl
  go_wp2_with fail
  refine (of_nil _).mono ?_
  rintro e w9 ⟨rfl, hw9⟩
  have hV9 := Lib.hid (hV8.out.go hw9)
  have hS9 := Lib.hid (hS8.out.trans (hw9.mono hS8.out.size))
  have hl29 := Lib.hid (hl28.out.go hw9)
  have hX9 := Lib.hid (hX8.out.go' hw9)
  clear hw9 hV8 hS8 hl28 hX8
  go_wp2_with fail
  refine (text_nil _).mono ?_
  rintro e w10 ⟨rfl, hw10⟩
  have hV10 := Lib.hid (hV9.out.go hw10)
  have hS10 := Lib.hid (hS9.out.trans (hw10.mono hS9.out.size))
  have hl210 := Lib.hid (hl29.out.go hw10)
  have hX10 := Lib.hid (hX9.out.go' hw10)
  clear hw10 hV9 hS9 hl29 hX9
  go_wp2_with fail
  refine (is_nil _ _).mono ?_
  rintro e w11 ⟨rfl, rfl⟩
  go_wp2_with fail
  go_ret
  exact ⟨rfl, hS10.out⟩
end Go.Proofs.YtakbbhhhdcnlnaaDoor
