/- The program's number by the text that it has: New, Push, End, Text, Copy. -/
import Derived.Test.YtiibfejgiilakaaDoorP11Obj
import Derived.Test.YtiibfejgiilakaaDoorG11Hope
namespace Go.Proofs.YtiibfejgiilakaaDoor
set_option maxRecDepth 100000
open Go.ChangeShapes Go.WideShapes Go.ChangeAt Go.RowKit
set_option linter.unusedVariables false
set_option linter.unusedSimpArgs false

/-- a number of the text s lies in block g, its row is v -/
structure NumIs (w : World) (base g : Nat) (v : Value) (s : List UInt8) : Prop where
  len : s.length ≤ 1000
  ex : ∃ t, goF t0 s = some t ∧ NumBlk w g v (rgOf t)
  own : U8s w base v (nums s)
theorem NumIs.lt {w : World} {base g : Nat} {v : Value} {s : List UInt8} (h : NumIs w base g v s) : g < w.heap.size := by
  obtain ⟨t, _, hb⟩ := h.ex
  exact hb.lt
theorem NumIs.go {w w' : World} {base g B : Nat} {v : Value} {s : List UInt8} (h : NumIs w base g v s) (hb : Below B w w') (hB : w.heap.size ≤ B) : NumIs w' base g v s := by
  obtain ⟨t, ht, hk⟩ := h.ex
  exact ⟨h.len, ⟨t, ht, hk.below hb (Nat.lt_of_lt_of_le hk.lt hB)⟩, own_below h.own hb hB⟩
/-- what happens to another number leaves this one as it is -/
theorem NumIs.far {w w' : World} {base g g2 : Nat} {v v2 : Value} {s : List UInt8} (h : NumIs w base g v s) (hf : NFr g2 v2 w w') (hg : g ≠ g2) (hv : v2.ownBlock ≠ some g) (hr : ∀ k, v.ownBlock = some k → k ≠ g2 ∧ v2.ownBlock ≠ some k) : NumIs w' base g v s := by
  obtain ⟨t, ht, hk⟩ := h.ex
  refine ⟨h.len, ⟨t, ht, (hf.block g hk.lt hg hv).trans hk⟩, ?_⟩
  have ho := h.own
  refine ⟨ho.1, ?_⟩
  rcases ho.2 with h2 | ⟨b, cap, cur, hv', hb, hh, h3⟩
  · exact .inl h2
  · have hlt : b < w.heap.size := (Array.getElem?_eq_some_iff.1 hh).1
    obtain ⟨r1, r2⟩ := hr b (by rw [hv']; rfl)
    exact .inr ⟨b, cap, cur, hv', hb, (hf.block b hlt r1 r2).trans hh, h3⟩
theorem rg_ok {s : List UInt8} {t : Nt} (h : Good s t) (hs : s.length ≤ 1000) : RgOk (rgOf t) ∧ (rgOf t).d.length + 100 ≤ 100000 ∧ (rgOf t).z + 100 ≤ 100000 ∧ (rgOf t).b + 100 ≤ 100000 := by
  have h1 := front_len t.d
  have h2 := h.ld
  have h3 := h.lb
  have h4 : exF t.x ≤ 1000000000 := by rw [exF_num]; omega
  have e1 : (rgOf t).d.length = (nrm t.d).length := rfl
  have e2 : (rgOf t).z = (frontL t.d).length - (nrm t.d).length := rfl
  have e3 : (rgOf t).b = t.b := rfl
  refine ⟨⟨h.p, fun c hc => h.d c (front_mem (end_mem hc)), by omega, by omega, by omega, h4⟩, by omega, by omega, by omega⟩
theorem nums_snoc (s : List UInt8) (c : UInt8) : nums s ++ [(c.toNat : Int)] = nums (s ++ [c]) := by simp [nums]
/-- where the row that a number has now lies -/
def RowAt (w : World) (v v' : Value) : Prop := v'.ownBlock = v.ownBlock ∨ ∀ k, v'.ownBlock = some k → w.heap.size ≤ k
theorem push_spec (base g : Nat) (v : Value) (s : List UInt8) (c : UInt8) (w : World) (h : NumIs w base g v s) (hs : s.length + 1 ≤ 1000) (hbase : base ≤ w.heap.size) :
    Calls Tryd.prog 8 #[.pointer (some ⟨g, 0, none⟩), .int .u8 (c.toNat : Int)] w fun e w' => e = .returned (.int .i64 (pushF s c)) ∧ ∃ v', NumIs w' base g v' (if pushF s c = 0 then s ++ [c] else s) ∧ NFr g v w w' ∧ RowAt w v v' := by
  obtain ⟨t, ht, hb⟩ := h.ex
  have hgood := good_go ht
  obtain ⟨ho, h1, h2, h3⟩ := rg_ok hgood h.len
  have hgo : goF t0 (s ++ [c]) = (nextF t.p c).map (withF t c) := by
    rw [go_snoc, ht]
    rfl
  have hstay : ∀ w', Below w.heap.size w w' → ∃ v', NumIs w' base g v' s ∧ NFr g v w w' ∧ RowAt w v v' := fun w' hbw => ⟨v, h.go hbw (Nat.le_refl _), NFr.of_below hbw, .inl rfl⟩
  cases hq : nextF t.p c with
  | none =>
    rw [hq] at hgo
    have hp : pushF s c = 2 := by unfold pushF; rw [hgo]; rfl
    rw [hp]
    refine (push_text g v (rgOf t) c w hb ho hq).mono fun e w' ⟨h1, h2⟩ => ⟨h1, ?_⟩
    rw [if_neg (by decide)]
    exact hstay w' h2
  | some q =>
    rw [hq] at hgo
    have hp : pushF s c = if mayF (withF t c q) = true then 0 else if wholeF (decF (withF t c q)) = true then 8 else 7 := by unfold pushF; rw [hgo]; rfl
    have hq' : nextF (rgOf t).p c = some q := hq
    have hno : mayR (withR (rgOf t) c q) = false → mayF (withF t c q) = false → wholeF (asR (withR (rgOf t) c q)) = wholeF (decF (withF t c q)) → Calls Tryd.prog 8 #[.pointer (some ⟨g, 0, none⟩), .int .u8 (c.toNat : Int)] w fun e w' => e = .returned (.int .i64 (pushF s c)) ∧ ∃ v', NumIs w' base g v' (if pushF s c = 0 then s ++ [c] else s) ∧ NFr g v w w' ∧ RowAt w v v' := by
      intro m1 m2 m3
      rw [hp, m2, if_neg Bool.false_ne_true]
      cases hw : wholeF (decF (withF t c q)) with
      | true =>
        refine (push_no_true g v (rgOf t) c q w hb ho h1 h2 h3 hq' m1 (by rw [m3, hw])).mono fun e w' ⟨h1, h2⟩ => ⟨h1, ?_⟩
        rw [if_pos rfl, if_neg (by decide)]
        exact hstay w' h2
      | false =>
        refine (push_no_false g v (rgOf t) c q w hb ho h1 h2 h3 hq' m1 (by rw [m3, hw])).mono fun e w' ⟨h1, h2⟩ => ⟨h1, ?_⟩
        rw [if_neg Bool.false_ne_true, if_neg (by decide)]
        exact hstay w' h2
    rcases with_rg hgood hq with he | ⟨m1, m2, m3⟩
    · cases hm : mayF (withF t c q) with
      | false => exact hno (by rw [he]; exact hm) hm (by rw [he, as_whole])
      | true =>
        have hm' : mayR (withR (rgOf t) c q) = true := by rw [he]; exact hm
        have hp0 : pushF s c = 0 := by rw [hp, hm, if_pos rfl]
        rw [hp0, if_pos rfl]
        refine (push_ok base g v (nums s) (rgOf t) c q w hb h.own (by unfold nums; rw [List.length_map]; omega) hbase ho h1 h2 h3 hq' hm').mono ?_
        rintro e w' ⟨h4, v', h5, h6, h7, h8⟩
        rw [he] at h5
        rw [nums_snoc] at h6
        refine ⟨h4, v', ⟨by simp; omega, ⟨withF t c q, hgo, h5⟩, h6⟩, h7, h8⟩
    · exact hno m1 m2 m3
theorem end_spec (base g : Nat) (v : Value) (s : List UInt8) (w : World) (h : NumIs w base g v s) : Calls Tryd.prog 11 #[.pointer (some ⟨g, 0, none⟩)] w fun e w' => e = .returned (.tuple #[.int .i64 (stopF s).1, .int .i64 (stopF s).2]) ∧ Below w.heap.size w w' := by
  obtain ⟨t, ht, hb⟩ := h.ex
  have ho := (rg_ok (good_go ht) h.len).1
  have hr : readF s = finF t := by rw [read_go, ht]; rfl
  cases he : endsF t.p with
  | false =>
    have e : stopF s = (0, 3) := by unfold stopF; rw [hr]; unfold finF; rw [if_neg (by rw [he]; decide)]
    rw [e]
    exact end_no g v (rgOf t) w hb ho he
  | true =>
    have e : stopF s = intF (asR (rgOf t)) := by unfold stopF; rw [hr]; unfold finF; rw [if_pos he, as_int]; exact int_norm _
    rw [e]
    exact end_yes g v (rgOf t) w hb ho he
theorem text_spec (base g : Nat) (v : Value) (s : List UInt8) (w : World) (h : NumIs w base g v s) : Calls Tryd.prog 10 #[.pointer (some ⟨g, 0, none⟩)] w fun e w' => e = .returned (.string (bs s)) ∧ w = w' := by
  obtain ⟨t, ht, hb⟩ := h.ex
  exact text_any base g v s (rgOf t) w hb h.own
theorem copy_spec (base g : Nat) (v : Value) (s : List UInt8) (w : World) (h : NumIs w base g v s) : Calls Tryd.prog 13 #[.pointer (some ⟨g, 0, none⟩)] w fun e w' => ∃ g' v', e = .returned (.pointer (some ⟨g', 0, none⟩)) ∧ w.heap.size ≤ g' ∧ NumIs w' w.heap.size g' v' s ∧ Below w.heap.size w w' := by
  obtain ⟨t, ht, hb⟩ := h.ex
  refine (copy_any base g v (nums s) (rgOf t) w hb h.own (by unfold nums; rw [List.length_map]; have := h.len; omega)).mono ?_
  rintro e w' ⟨g', v', h1, h2, h3, h4, h5⟩
  exact ⟨g', v', h1, h2, ⟨h.len, ⟨t, ht, h3⟩, h4⟩, h5⟩
theorem new_spec (base : Nat) (w : World) : Calls Tryd.prog 6 #[] w fun e w' => e = .returned (.pointer (some ⟨w.heap.size, 0, none⟩)) ∧ NumIs w' base w.heap.size (.slice none 0 0) [] ∧ Below w.heap.size w w' := by
  refine (new_any w).mono ?_
  rintro e w' ⟨h1, h2, h3⟩
  exact ⟨h1, ⟨by simp, ⟨t0, rfl, h2⟩, own_none w' base⟩, h3⟩
end Go.Proofs.YtiibfejgiilakaaDoor
