/- Contracts of cmp.Compare at units and of utf16.Compare: a loop over the iterator that may return. -/
import Derived.Test.YtmidoopapfkilaaU16Units
namespace Go.Proofs.Ytmidoopapfkilaa
open Go.RowKit Go.Shelf
set_option linter.unusedVariables false
attribute [local go_sem] Oper.semAt_some

theorem isNaN_any (x : Int) (w : World) : Calls Try.prog 37 #[.int .u16 x] w fun e w' => e = .returned (.bool false) ∧ w = w' := by
  have h : (x != x) = false := by simp
  go_enter Try.func37, Try.ntmps37
  go_wp2
  go_ret
  exact ⟨rfl, rfl⟩
theorem cmpU_any (x y : Int) (w : World) : Calls Try.prog 30 #[.int .u16 x, .int .u16 y] w fun e w' => e = .returned (.int .i64 (cmpI x y)) ∧ w = w' := by
  by_cases h1 : x < y
  · have e : cmpI x y = -1 := by unfold cmpI; rw [if_pos h1]
    rw [e]; clear e
    go_enter Try.func30, Try.ntmps30
    go_wp2_with fail
    with_reducible refine (isNaN_any _ _).mono ?_
    rintro e w' ⟨rfl, rfl⟩
    go_wp2_with fail
    with_reducible refine (isNaN_any _ _).mono ?_
    rintro e w' ⟨rfl, rfl⟩
    go_wp2
    go_ret
    exact ⟨rfl, rfl⟩
  · by_cases h2 : y < x
    · have e : cmpI x y = 1 := by unfold cmpI; rw [if_neg h1, if_pos h2]
      rw [e]; clear e
      go_enter Try.func30, Try.ntmps30
      go_wp2_with fail
      with_reducible refine (isNaN_any _ _).mono ?_
      rintro e w' ⟨rfl, rfl⟩
      go_wp2_with fail
      with_reducible refine (isNaN_any _ _).mono ?_
      rintro e w' ⟨rfl, rfl⟩
      go_wp2
      go_ret
      exact ⟨rfl, rfl⟩
    · have e : cmpI x y = 0 := by unfold cmpI; rw [if_neg h1, if_neg h2]
      rw [e]; clear e
      go_enter Try.func30, Try.ntmps30
      go_wp2_with fail
      with_reducible refine (isNaN_any _ _).mono ?_
      rintro e w' ⟨rfl, rfl⟩
      go_wp2_with fail
      with_reducible refine (isNaN_any _ _).mono ?_
      rintro e w' ⟨rfl, rfl⟩
      go_wp2
      go_ret
      exact ⟨rfl, rfl⟩

/-- a row that is read stays where only what is no cells has turned -/
theorem Ints.kept {W W' : World} {row : Option Nat} {B : Nat} {k : IntKind} {A : Option Addr} {xs : List Int} (h : Ints W B k A xs) (hg : W.grownBy W' row) (hr : ∀ r, row = some r → ∃ o : Obj, W.heap[r]? = some o ∧ o.isCells = false) : Ints W' B k A xs := by
  rcases h with h | ⟨b, o, e, hl, hc⟩
  · exact .inl h
  · exact .inr ⟨b, o, e, hl, fun j hj => cell_kept (hc j hj) hg hr⟩
/-- a store elsewhere leaves the row -/
theorem Ints.far {W : World} {B : Nat} {k : IntKind} {A : Option Addr} {xs : List Int} (h : Ints W B k A xs) {g : Nat} (hg : B ≤ g) (v : Value) : Ints (W.setCell ⟨g, 0, none⟩ v) B k A xs :=
  h.below ((Below.refl B W).setCell (p := ⟨g, 0, none⟩) hg v) (Nat.le_refl _)

/-- between two rounds: what is left of b's units -/
def Rest (B0 B1 n1 : Nat) (vs : List Int) (pre : List Int) (W : World) : Prop :=
  Boxed W B0 3 (.int .i64 0) ∧ (∃ A c, Boxed W B1 23 (.slice A (vs.length - pre.length) c) ∧ (vs.length - pre.length ≤ c ∧ c ≤ maxLen) ∧ Ints W n1 .u16 A (vs.drop pre.length)) ∧ pre <+: vs
theorem Rest.own (B0 B1 n1 : Nat) (vs : List Int) : Go.Own (Rest B0 B1 n1 vs) := by
  rintro s X Y row ⟨h1, ⟨A, c, h2, h3, h4⟩, h5⟩ hg hr
  exact ⟨boxed_own B0 3 (fun _ : List Int => .int .i64 0) s X Y row h1 hg hr, ⟨A, c, boxed_own B1 23 (fun _ : List Int => .slice A (vs.length - s.length) c) s X Y row h2 hg hr, h3, h4.kept hg hr⟩, h5⟩
/-- a round has returned -/
def Left (B0 : Nat) (vs : List Int) (c : Code) (pre : List Int) (W : World) : Prop :=
  c = .ret ∧ ∃ r, Boxed W B0 3 (.int .i64 r) ∧ ∀ s, cmpL (pre ++ s) vs = r
theorem Left.own (B0 : Nat) (vs : List Int) (c : Code) : Go.Own (Left B0 vs c) := by
  rintro s X Y row ⟨h1, r, h2, h3⟩ hg hr
  exact ⟨h1, r, boxed_own B0 3 (fun _ : List Int => .int .i64 r) s X Y row h2 hg hr, h3⟩

theorem drop_cons (vs : List Int) (k : Nat) (hk : k < vs.length) : vs.drop k = vs.getD k 0 :: vs.drop (k + 1) := by
  rw [List.getD_eq_getElem?_getD, List.getElem?_eq_getElem hk]; simp
theorem pre_at {vs pre : List Int} (h : pre <+: vs) (hk : pre.length < vs.length) : vs = pre ++ vs.getD pre.length 0 :: vs.drop (pre.length + 1) := by
  rw [← drop_cons vs _ hk]
  obtain ⟨r, hr⟩ := h
  subst hr; simp
theorem pre_all {vs pre : List Int} (h : pre <+: vs) (hk : ¬ pre.length < vs.length) : vs = pre := by
  obtain ⟨r, hr⟩ := h
  subst hr
  have : r.length = 0 := by rw [List.length_append] at hk; omega
  rw [List.length_eq_zero_iff] at this; subst this; simp

theorem Rest.next {W : World} {B0 B1 n1 : Nat} {vs pre : List Int} {x : Int} {A : Option Addr} {m c : Nat} (h : Rest B0 B1 n1 vs pre W) (hne : B0 ≠ B1) (hn : n1 ≤ B1) (hx : pre ++ [x] <+: vs) (hm : m = vs.length - (pre ++ [x]).length)
    (hc : m ≤ c ∧ c ≤ maxLen) (hI : Ints W n1 .u16 A (vs.drop (pre ++ [x]).length)) : Rest B0 B1 n1 vs (pre ++ [x]) (W.setCell ⟨B1, 0, none⟩ (.slice A m c)) := by
  obtain ⟨h1, ⟨A0, c0, h2, _, _⟩, _⟩ := h
  exact ⟨h1.other hne _, ⟨A, c, by rw [← hm]; exact h2.set _, by rw [← hm]; exact hc, hI.far hn _⟩, hx⟩

set_option maxRecDepth 100000 in
set_option maxHeartbeats 4000000 in
theorem compare_in (F : Fence) (hF : Wide F) (n : Nat) (hn : 3 ≤ n) (a b : Option Addr) (ca cb : Nat) (xs ys : List Int) (hx : xs.length ≤ 65536) (hy : ys.length ≤ 65536) (w : World) (hA : Ints w w.heap.size .i32 a xs) (hB : Ints w w.heap.size .i32 b ys) :
    CallsIn F n Try.prog 15 #[.slice a xs.length ca, .slice b ys.length cb] w fun e W' => e = .returned (.int .i64 (cmpL (uns xs) (uns ys))) ∧ Below w.heap.size w W' := by
  have h1 : 1 ≤ n := by omega
  have h2 : 1 ≤ n - 1 - 1 := by omega
  have hro := hF.round
  have h15 := hF.fn 15
  have h12 := hF.fn 12
  have h28 := hF.fn 28
  have h35 := hF.fn 35
  have h30 := hF.fn 30
  have hulx := uns_len xs
  have huly := uns_len ys
  have HA := Lib.hid hA
  have HB := Lib.hid hB
  clear hA hB
  generalize hres : cmpL (uns xs) (uns ys) = R0
  have HRES := Lib.hid hres
  clear hres
  refine callsIn_of_wp_marks Try.func15 rfl h15 ?_ hro
  simp only [Try.ntmps15, List.size_toArray, List.length_cons, List.length_nil, Nat.reduceAdd, Nat.reduceSub, Array.replicate_succ, Array.replicate_zero, List.push_toArray, List.append_toArray, List.nil_append, List.cons_append]
  have hb0 : Below w.heap.size w (w.alloc (.cells #[.int .i64 0] 3)) := (Below.refl _ w).alloc (Nat.le_refl _) _
  have hcu := hF.calls (n := n - 1) (unitsL_any b ys.length cb ys (w.alloc (.cells #[.int .i64 0] 3)) rfl ((HB.out.below hb0 (Nat.le_refl _)).more hb0.size) hy)
  gi_wp2_with (gi_at_call 12; refine hcu.mono ?_; clear hcu; rintro e w1 ⟨v, rfl, hO, hbb⟩; obtain ⟨A2, c2, rfl, hc2, hcm2⟩ := own_form hO)
  refine (units_in F hF (n - 1) _ _ _ _).mono ?_
  rintro e w' ⟨rfl, rfl⟩
  have hsz : w.heap.size < w1.heap.size := by have := hbb.size; rw [World.size_alloc] at this; omega
  have bR1 : Boxed w1 w.heap.size 3 (.int .i64 0) := (Boxed.new w 3 (.int .i64 0)).kept (row := none) ⟨hbb.os, hbb.tape, hbb.output, hbb.size, fun i hi _ => hbb.block i hi⟩ (by simp)
  have bS := Boxed.new w1 23 (.slice A2 (uns ys).length c2)
  have bN := Boxed.new (w1.alloc (.cells #[.slice A2 (uns ys).length c2] 23)) 22 (.slice a xs.length ca)
  rw [World.size_alloc] at bN
  have hB1 : Below w.heap.size w w1 := hb0.trans (hbb.mono hb0.size)
  have hB2 : Below w1.heap.size w1 ((w1.alloc (.cells #[.slice A2 (uns ys).length c2] 23)).alloc (.cells #[.slice a xs.length ca] 22)) := ((Below.refl _ w1).alloc (Nat.le_refl _) _).alloc (by simp) _
  have hIv := (Ints.own hO).below hB2 (Nat.le_refl _)
  have hB0 := hB1.trans (hB2.mono hB1.size)
  have hIx := HA.out.below hB0 (Nat.le_refl _)
  have bR := (bR1.alloc (.cells #[.slice A2 (uns ys).length c2] 23)).alloc (.cells #[.slice a xs.length ca] 22)
  have bS' := bS.alloc (.cells #[.slice a xs.length ca] 22)
  obtain ⟨W0, hW0⟩ : ∃ W0, (w1.alloc (.cells #[.slice A2 (uns ys).length c2] 23)).alloc (.cells #[.slice a xs.length ca] 22) = W0 := ⟨_, rfl⟩
  have hsz0 : W0.heap.size = w1.heap.size + 1 + 1 := by rw [← hW0]; simp
  rw [hW0] at bN bR bS' hB0 hIv hIx ⊢
  clear hW0 hB2 bS bR1 hbb hO hb0
  generalize hvs : uns ys = vs at *
  gi_wp2
  refine wpIn_rangeFunc_ownG hro h1 (gf := 35) (lb := #[.pointer (some ⟨w1.heap.size + 1, 0, none⟩)]) (by simp [Act.eval]) h35 (enters_of Try.func35 (by kernel_rfl) rfl)
    (units_stops F hF (n - 1) (w1.heap.size + 1) w.heap.size a ca xs hx W0 (by omega) (by omega) bN.cell hIx) belowK_t (belowK_b (by omega)) (Below.refl _ _) (fun _ => rfl)
    (fun (pre : List Int) W => Rest w.heap.size w1.heap.size w1.heap.size vs pre W ∧ Below w.heap.size w W)
    (fun c (pre : List Int) W => Left w.heap.size vs c pre W ∧ Below w.heap.size w W)
    (OwnFrom.and (Go.Own.from (Rest.own _ _ _ _) _) (ownFrom_below (Nat.le_refl _) (by omega)))
    (fun c => OwnFrom.and (Go.Own.from (Left.own _ _ c) _) (ownFrom_below (Nat.le_refl _) (by omega)))
    ⟨⟨bR, ⟨A2, c2, bS', ⟨hc2, hcm2⟩, hIv⟩, List.nil_prefix⟩, hB0⟩
    (fun x => { tmps := #[.slice a xs.length ca, .slice b ys.length cb, undef, undef, .pointer (some ⟨w.heap.size, 0, none⟩), .pointer (some ⟨w1.heap.size, 0, none⟩), .int .u16 x, .slice b ys.length cb, .slice A2 vs.length c2, .slice a xs.length ca, .func (.func 35) #[] #[.pointer (some ⟨w1.heap.size + 1, 0, none⟩)], .int .u16 x, undef, undef, undef, undef, undef, undef, undef, undef, undef, undef, undef, undef, undef, undef, undef, undef, undef, undef], defers := [] }) ?assign ?body ?done ?stop
  case assign =>
    intro l x W K hK
    gi_wp2
    exact hK
  case body =>
    rintro l pre x W ⟨hR, hb⟩ hlt
    have hR' := hR
    obtain ⟨hr, ⟨A, c, hs, ⟨hcc, hcm⟩, hI⟩, hp⟩ := hR'
    have hcr := hr.cell
    have hfr := hr.frozen
    have hcs := hs.cell
    have hfs := hs.frozen
    by_cases hk : pre.length < vs.length
    · obtain ⟨g, o, rfl, hg, hcl⟩ := hI.at (by rw [List.length_drop]; omega)
      have hcell : W.cell? ⟨g, o, none⟩ = some (.int .u16 (vs.getD pre.length 0)) := by
        have := hcl 0 (by rw [List.length_drop]; omega)
        rw [drop_cons vs _ hk] at this
        simpa using this
      have hpa := pre_at hp hk
      have HPA := Lib.hid hpa
      have HI := Lib.hid (hI.drop 1)
      have hvl : vs.length ≤ 131072 := by omega
      clear hcl hpa hvs hI
      generalize hY : vs.getD pre.length 0 = y at *
      have HY := Lib.hid hY
      clear hY
      generalize hM : vs.length - pre.length = m at *
      have hm0 : 0 < m := by omega
      have hne : ((m : Int) == 0) = false := beq_eq_false_iff_ne.2 (by omega)
      have HM := Lib.hid hM
      have HR := Lib.hid hR
      clear hM hR
      by_cases hxy : x = y
      · subst hxy
        have hxx : (x != x) = false := by simp
        have hpx : pre ++ [x] <+: vs := ⟨vs.drop (pre.length + 1), by conv => rhs; rw [HPA.out]
                                                                      simp⟩
        have HPX := Lib.hid hpx
        clear hpx
        by_cases hc1 : c = 1
        · subst hc1
          gi_wp2
          have hml := HM.out
          refine ⟨(KeepsOthers.setCell _ _ _).from _, (Below.refl _ W).setCell (p := ⟨w1.heap.size, 0, none⟩) (by show w.heap.size ≤ w1.heap.size; omega) _, ?_, hb.setCell (p := ⟨w1.heap.size, 0, none⟩) (by show w.heap.size ≤ w1.heap.size; omega) _⟩
          refine Rest.next HR.out (by omega) (Nat.le_refl _) HPX.out (by simp; omega) ⟨Nat.le_refl _, by simp⟩ ?_
          rw [List.drop_eq_nil_of_le (by simp; omega)]
          exact .inl rfl
        · have hc1' : (c : Int) ≠ 1 := by omega
          gi_wp2
          have hml := HM.out
          refine ⟨(KeepsOthers.setCell _ _ _).from _, (Below.refl _ W).setCell (p := ⟨w1.heap.size, 0, none⟩) (by show w.heap.size ≤ w1.heap.size; omega) _, ?_, hb.setCell (p := ⟨w1.heap.size, 0, none⟩) (by show w.heap.size ≤ w1.heap.size; omega) _⟩
          refine Rest.next HR.out (by omega) (Nat.le_refl _) HPX.out (by simp; omega) ⟨by omega, by omega⟩ ?_
          have := HI.out
          rw [List.drop_drop] at this
          simpa using this
      · have hxx : (x != y) = true := by simp [hxy]
        gi_wp2_with (gi_at_call 30; refine (CallsIn.inRound l (hF.calls (cmpU_any x y _))).mono ?_; rintro e W2 ⟨rfl, rfl⟩)
        refine ⟨(KeepsOthers.setCell _ _ _).from _, ⟨rfl, _, hr.set _, fun s => ?_⟩, hb.setCell (p := ⟨w.heap.size, 0, none⟩) (Nat.le_refl _) _⟩
        rw [HPA.out, List.append_assoc, cmpL_pre]
        exact cmpL_ne hxy _ _
    · have hva := pre_all hp hk
      have h0 : vs.length - pre.length = 0 := by omega
      rw [h0] at hcs
      clear hI
      gi_wp2
      refine ⟨(KeepsOthers.setCell _ _ _).from _, ⟨rfl, _, hr.set _, fun s => ?_⟩, hb.setCell (p := ⟨w.heap.size, 0, none⟩) (Nat.le_refl _) _⟩
      rw [hva, List.append_assoc]
      have := cmpL_pre pre ([x] ++ s) []
      rw [List.append_nil] at this
      exact this
  case done =>
    rintro D us W hD hus ⟨⟨hr, ⟨A, c, hs, ⟨hcc, hcm⟩, hI⟩, hp⟩, hb⟩ hK
    have hcr := hr.cell
    have hfr := hr.frozen
    have hcs := hs.cell
    have hvl : vs.length ≤ 131072 := by omega
    by_cases hk : us.length < vs.length
    · have hv : R0 = -1 := by
        rw [← HRES.out, ← hus, pre_at hp hk]
        have := cmpL_pre us [] (vs.getD us.length 0 :: vs.drop (us.length + 1))
        rw [List.append_nil] at this
        exact this
      have hm0 : 0 < vs.length - us.length := by omega
      generalize vs.length - us.length = m at *
      have hm1 : (0 : Int) < m := by omega
      gi_wp2
      have hK' := (KeepsOthers.setCell W ⟨w.heap.size, 0, none⟩ (.int .i64 (-1))).same D _ hK rfl
      refine ⟨by simp, .inl ⟨_, _, rfl, run_takeDeferred hK', ?_⟩⟩
      have hc5 := cell_kept (hr.set (.int .i64 (-1))).cell (grownBy_putObj' _ D (.deferred none)) (fun r e => by cases e; exact ⟨_, hK', rfl⟩)
      refine ⟨.int .i64 (-1), ?_, by rw [hv], (hb.setCell (p := ⟨w.heap.size, 0, none⟩) (Nat.le_refl _) _).trans (belowK_b (w := w) (Nat.le_refl _) _ D _ _ (by omega) hK' rfl rfl)⟩
      simp [results, Try.f15, go_sem, hc5]
    · have hv : R0 = 0 := by rw [← HRES.out, ← hus, pre_all hp hk]; exact cmpL_refl us
      have h0 : vs.length - us.length = 0 := by omega
      rw [h0] at hcs
      gi_wp2
      have hK' := (KeepsOthers.setCell W ⟨w.heap.size, 0, none⟩ (.int .i64 0)).same D _ hK rfl
      refine ⟨by simp, .inl ⟨_, _, rfl, run_takeDeferred hK', ?_⟩⟩
      have hc5 := cell_kept (hr.set (.int .i64 0)).cell (grownBy_putObj' _ D (.deferred none)) (fun r e => by cases e; exact ⟨_, hK', rfl⟩)
      refine ⟨.int .i64 0, ?_, by rw [hv], (hb.setCell (p := ⟨w.heap.size, 0, none⟩) (Nat.le_refl _) _).trans (belowK_b (w := w) (Nat.le_refl _) _ D _ _ (by omega) hK' rfl rfl)⟩
      simp [results, Try.f15, go_sem, hc5]
  case stop =>
    rintro D c pre W hD ⟨s, hs⟩ ⟨⟨rfl, r, hr, hcmp⟩, hb⟩ hK
    have hv : R0 = r := by rw [← HRES.out, ← hs]; exact hcmp s
    have hcr := hr.cell
    gi_wp2
    refine ⟨by simp, .inl ⟨_, _, rfl, run_takeDeferred hK, ?_⟩⟩
    have hc5 := cell_kept hcr (grownBy_putObj' _ D (.deferred none)) (fun r e => by cases e; exact ⟨_, hK, rfl⟩)
    refine ⟨.int .i64 r, ?_, by rw [hv], hb.trans (belowK_b (w := w) (Nat.le_refl _) W D _ _ (by omega) hK rfl rfl)⟩
    simp [results, Try.f15, go_sem, hc5]

theorem compare_any (a b : Option Addr) (n m ca cb : Nat) (xs ys : List Int) (w : World) (hn : xs.length = n) (hm : ys.length = m) (hA : Ints w w.heap.size .i32 a xs) (hB : Ints w w.heap.size .i32 b ys) (hx : n ≤ 65536) (hy : m ≤ 65536) :
    Calls Try.prog 15 #[.slice a n ca, .slice b m cb] w fun e W' => e = .returned (.int .i64 (cmpL (uns xs) (uns ys))) ∧ Below w.heap.size w W' := by
  subst hn hm
  exact callsIn_wide.1 (compare_in Fence.wide wide_is 3 (by omega) a b ca cb xs ys hx hy w hA hB)
end Go.Proofs.Ytmidoopapfkilaa
