/- What the walks of DigitsOrder, DigitsNorms, DigitsAll share: fits by its contract; blocks of memory that stay. -/
import Derived.Test.YtadbnajodpfpgaaDoorG10Awk
import Derived.Test.YtadbnajodpfpgaaDoorReg
namespace Go.Proofs.YtadbnajodpfpgaaDoor
set_option maxRecDepth 100000
open Go.ChangeShapes Go.WideShapes Go.ChangeAt Go.RowKit
set_option linter.unusedVariables false
set_option linter.unusedSimpArgs false

def fitsF (x : Dc) : Bool := checkF x && decide (x.d.length ≤ 400)
theorem fits_is {x : Dc} (h : fitsF x = true) : checkF x = true ∧ x.d.length ≤ 400 := by
  unfold fitsF at h
  simpa using h
set_option maxHeartbeats 2000000 in
theorem fits_any (x : Dc) (w : World) (hx : x.d.length ≤ 9223372036854775807) : Calls Tryd.prog 15 #[dcV x] w fun e w' => e = .returned (.bool (fitsF x)) ∧ Below w.heap.size w w' := by
  have HC := Lib.hid (fun W => rcheck_any x W hx)
  have HR : Hid (fitsF x = (checkF x && decide (x.d.length ≤ 400))) := Lib.hid rfl
  generalize fitsF x = r at *
  generalize checkF x = c at *
  obtain ⟨n, d, e⟩ := x
  unfold dcV at HC ⊢
  dsimp only at *
  obtain ⟨s, rfl⟩ : ∃ s, d = L8 s := ⟨bs d, rfl⟩
  rw [bs_L8] at HC ⊢
  rw [L8_len] at hx HR
  go_enter Tryd.func15, Tryd.ntmps15
  go_wp2_with fail
  have HX0 : Hid (DcBlk (w.alloc (.cells #[.bool n, .string s, .int .i64 e] 23)) w.heap.size n s e) := Lib.hid (Blk.new w 23 _)
  have HB0 : Hid (Below w.heap.size w (w.alloc (.cells #[.bool n, .string s, .int .i64 e] 23))) := Lib.hid ((Below.refl _ _).alloc (Nat.le_refl _) _)
  generalize w.alloc (.cells #[.bool n, .string s, .int .i64 e] 23) = w0 at *
  with_reducible refine (HC.out _).mono ?_
  rintro e1 w1 ⟨rfl, hb⟩
  have HX1 := Lib.hid (HX0.out.below hb HX0.out.lt)
  have HB1 := Lib.hid (HB0.out.trans (hb.mono HB0.out.size))
  have k1 : w1.cell? ⟨w.heap.size, 1, none⟩ = some (.string s) := HX1.out.cell 1
  clear hb HB0 HX0
  cases c with
  | false =>
    have hr : r = false := by rw [HR.out, Bool.false_and]
    subst hr
    clear HR
    go_wp2
    go_ret
    exact ⟨rfl, HB1.out⟩
  | true =>
    rw [Bool.true_and] at HR
    by_cases hl : s.size ≤ 400
    · have hr : r = true := by rw [HR.out]; exact decide_eq_true hl
      have hl' : decide ((s.size : Int) ≤ 400) = true := decide_eq_true (by omega)
      subst hr
      clear HR
      go_wp2
      go_ret
      exact ⟨rfl, HB1.out⟩
    · have hr : r = false := by rw [HR.out]; exact decide_eq_false hl
      have hl' : decide ((s.size : Int) ≤ 400) = false := decide_eq_false (by omega)
      subst hr
      clear HR
      go_wp2
      go_ret
      exact ⟨rfl, HB1.out⟩
/-- 2 numbers in blocks of their own, and nothing else that was there has turned -/
structure St2 (w : World) (ga gb : Nat) (na : Bool) (sa : ByteArray) (ea : Int) (nb : Bool) (sb : ByteArray) (eb : Int) (W : World) : Prop where
  a : DcBlk W ga na sa ea
  b : DcBlk W gb nb sb eb
  was : Below w.heap.size w W
section
variable {w W W2 : World} {ga gb : Nat} {na : Bool} {sa : ByteArray} {ea : Int} {nb : Bool} {sb : ByteArray} {eb : Int}
theorem St2.go (h : St2 w ga gb na sa ea nb sb eb W) (hb : Below W.heap.size W W2) : St2 w ga gb na sa ea nb sb eb W2 := ⟨h.a.below hb h.a.lt, h.b.below hb h.b.lt, h.was.trans (hb.mono h.was.size)⟩
theorem St2.a0 (h : St2 w ga gb na sa ea nb sb eb W) : W.cell? ⟨ga, 0, none⟩ = some (.bool na) := h.a.cell 0
theorem St2.a1 (h : St2 w ga gb na sa ea nb sb eb W) : W.cell? ⟨ga, 1, none⟩ = some (.string sa) := h.a.cell 1
theorem St2.a2 (h : St2 w ga gb na sa ea nb sb eb W) : W.cell? ⟨ga, 2, none⟩ = some (.int .i64 ea) := h.a.cell 2
theorem St2.b0 (h : St2 w ga gb na sa ea nb sb eb W) : W.cell? ⟨gb, 0, none⟩ = some (.bool nb) := h.b.cell 0
theorem St2.b1 (h : St2 w ga gb na sa ea nb sb eb W) : W.cell? ⟨gb, 1, none⟩ = some (.string sb) := h.b.cell 1
theorem St2.b2 (h : St2 w ga gb na sa ea nb sb eb W) : W.cell? ⟨gb, 2, none⟩ = some (.int .i64 eb) := h.b.cell 2
end
/-- 3 numbers in blocks of their own, and nothing else that was there has turned -/
structure St3 (w : World) (ga gb gc : Nat) (na : Bool) (sa : ByteArray) (ea : Int) (nb : Bool) (sb : ByteArray) (eb : Int) (nc : Bool) (sc : ByteArray) (ec : Int) (W : World) : Prop where
  a : DcBlk W ga na sa ea
  b : DcBlk W gb nb sb eb
  c : DcBlk W gc nc sc ec
  was : Below w.heap.size w W
section
variable {w W W2 : World} {ga gb gc : Nat} {na : Bool} {sa : ByteArray} {ea : Int} {nb : Bool} {sb : ByteArray} {eb : Int} {nc : Bool} {sc : ByteArray} {ec : Int}
theorem St3.go (h : St3 w ga gb gc na sa ea nb sb eb nc sc ec W) (hb : Below W.heap.size W W2) : St3 w ga gb gc na sa ea nb sb eb nc sc ec W2 := ⟨h.a.below hb h.a.lt, h.b.below hb h.b.lt, h.c.below hb h.c.lt, h.was.trans (hb.mono h.was.size)⟩
theorem St3.a0 (h : St3 w ga gb gc na sa ea nb sb eb nc sc ec W) : W.cell? ⟨ga, 0, none⟩ = some (.bool na) := h.a.cell 0
theorem St3.a1 (h : St3 w ga gb gc na sa ea nb sb eb nc sc ec W) : W.cell? ⟨ga, 1, none⟩ = some (.string sa) := h.a.cell 1
theorem St3.a2 (h : St3 w ga gb gc na sa ea nb sb eb nc sc ec W) : W.cell? ⟨ga, 2, none⟩ = some (.int .i64 ea) := h.a.cell 2
theorem St3.b0 (h : St3 w ga gb gc na sa ea nb sb eb nc sc ec W) : W.cell? ⟨gb, 0, none⟩ = some (.bool nb) := h.b.cell 0
theorem St3.b1 (h : St3 w ga gb gc na sa ea nb sb eb nc sc ec W) : W.cell? ⟨gb, 1, none⟩ = some (.string sb) := h.b.cell 1
theorem St3.b2 (h : St3 w ga gb gc na sa ea nb sb eb nc sc ec W) : W.cell? ⟨gb, 2, none⟩ = some (.int .i64 eb) := h.b.cell 2
theorem St3.c0 (h : St3 w ga gb gc na sa ea nb sb eb nc sc ec W) : W.cell? ⟨gc, 0, none⟩ = some (.bool nc) := h.c.cell 0
theorem St3.c1 (h : St3 w ga gb gc na sa ea nb sb eb nc sc ec W) : W.cell? ⟨gc, 1, none⟩ = some (.string sc) := h.c.cell 1
theorem St3.c2 (h : St3 w ga gb gc na sa ea nb sb eb nc sc ec W) : W.cell? ⟨gc, 2, none⟩ = some (.int .i64 ec) := h.c.cell 2
end
/-- 4 numbers in blocks of their own, and nothing else that was there has turned -/
structure St4 (w : World) (ga gb gc gd : Nat) (na : Bool) (sa : ByteArray) (ea : Int) (nb : Bool) (sb : ByteArray) (eb : Int) (nc : Bool) (sc : ByteArray) (ec : Int) (nd : Bool) (sd : ByteArray) (ed : Int) (W : World) : Prop where
  a : DcBlk W ga na sa ea
  b : DcBlk W gb nb sb eb
  c : DcBlk W gc nc sc ec
  d : DcBlk W gd nd sd ed
  was : Below w.heap.size w W
section
variable {w W W2 : World} {ga gb gc gd : Nat} {na : Bool} {sa : ByteArray} {ea : Int} {nb : Bool} {sb : ByteArray} {eb : Int} {nc : Bool} {sc : ByteArray} {ec : Int} {nd : Bool} {sd : ByteArray} {ed : Int}
theorem St4.go (h : St4 w ga gb gc gd na sa ea nb sb eb nc sc ec nd sd ed W) (hb : Below W.heap.size W W2) : St4 w ga gb gc gd na sa ea nb sb eb nc sc ec nd sd ed W2 := ⟨h.a.below hb h.a.lt, h.b.below hb h.b.lt, h.c.below hb h.c.lt, h.d.below hb h.d.lt, h.was.trans (hb.mono h.was.size)⟩
theorem St4.a0 (h : St4 w ga gb gc gd na sa ea nb sb eb nc sc ec nd sd ed W) : W.cell? ⟨ga, 0, none⟩ = some (.bool na) := h.a.cell 0
theorem St4.a1 (h : St4 w ga gb gc gd na sa ea nb sb eb nc sc ec nd sd ed W) : W.cell? ⟨ga, 1, none⟩ = some (.string sa) := h.a.cell 1
theorem St4.a2 (h : St4 w ga gb gc gd na sa ea nb sb eb nc sc ec nd sd ed W) : W.cell? ⟨ga, 2, none⟩ = some (.int .i64 ea) := h.a.cell 2
theorem St4.b0 (h : St4 w ga gb gc gd na sa ea nb sb eb nc sc ec nd sd ed W) : W.cell? ⟨gb, 0, none⟩ = some (.bool nb) := h.b.cell 0
theorem St4.b1 (h : St4 w ga gb gc gd na sa ea nb sb eb nc sc ec nd sd ed W) : W.cell? ⟨gb, 1, none⟩ = some (.string sb) := h.b.cell 1
theorem St4.b2 (h : St4 w ga gb gc gd na sa ea nb sb eb nc sc ec nd sd ed W) : W.cell? ⟨gb, 2, none⟩ = some (.int .i64 eb) := h.b.cell 2
theorem St4.c0 (h : St4 w ga gb gc gd na sa ea nb sb eb nc sc ec nd sd ed W) : W.cell? ⟨gc, 0, none⟩ = some (.bool nc) := h.c.cell 0
theorem St4.c1 (h : St4 w ga gb gc gd na sa ea nb sb eb nc sc ec nd sd ed W) : W.cell? ⟨gc, 1, none⟩ = some (.string sc) := h.c.cell 1
theorem St4.c2 (h : St4 w ga gb gc gd na sa ea nb sb eb nc sc ec nd sd ed W) : W.cell? ⟨gc, 2, none⟩ = some (.int .i64 ec) := h.c.cell 2
theorem St4.d0 (h : St4 w ga gb gc gd na sa ea nb sb eb nc sc ec nd sd ed W) : W.cell? ⟨gd, 0, none⟩ = some (.bool nd) := h.d.cell 0
theorem St4.d1 (h : St4 w ga gb gc gd na sa ea nb sb eb nc sc ec nd sd ed W) : W.cell? ⟨gd, 1, none⟩ = some (.string sd) := h.d.cell 1
theorem St4.d2 (h : St4 w ga gb gc gd na sa ea nb sb eb nc sc ec nd sd ed W) : W.cell? ⟨gd, 2, none⟩ = some (.int .i64 ed) := h.d.cell 2
end
end Go.Proofs.YtadbnajodpfpgaaDoor
