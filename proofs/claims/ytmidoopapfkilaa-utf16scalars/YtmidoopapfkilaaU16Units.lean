/- Contract of utf16.Units: a loop over the iterator. -/
import Derived.Test.YtmidoopapfkilaaU16It
namespace Go.Proofs.Ytmidoopapfkilaa
open Go.RowKit Go.Shelf
set_option linter.unusedVariables false
attribute [local go_sem] Oper.semAt_some

/-- a row of the call's own, these numbers -/
def RowRes (t : TypeId) (k : IntKind) (w : World) (zs : List Int) (e : Ending) (w' : World) : Prop :=
  ∃ v, e = .returned v ∧ Own w' w.heap.size t k v zs ∧ Below w.heap.size w w'
theorem info_u16 : (Try.prog.info? 43).map (fun i => (i.zero, i.size, i.bytes)) = some (some (.int .u16 0), 1, 2) := by kernel_rfl
theorem info_i32 : (Try.prog.info? 21).map (fun i => (i.zero, i.size, i.bytes)) = some (some (.int .i32 0), 1, 4) := by kernel_rfl

set_option maxRecDepth 100000 in
set_option maxHeartbeats 2000000 in
theorem unitsL_in (F : Fence) (hF : Wide F) (n : Nat) (hn : 3 ≤ n) (a : Option Addr) (cap : Nat) (zs : List Int) (hm : zs.length ≤ 65536) (w : World) (hI : Ints w w.heap.size .i32 a zs) :
    CallsIn F n Try.prog 12 #[.slice a zs.length cap] w (RowRes 43 .u16 w (uns zs)) := by
  have h1 : 1 ≤ n := by omega
  have hro := hF.round
  have h28 := hF.fn 28
  have h35 := hF.fn 35
  have h12 := hF.fn 12
  have hul := uns_len zs
  obtain ⟨i0, hi, hz0, hz1, hz2⟩ := info_parts info_u16
  refine callsIn_of_wp_marks Try.func12 rfl h12 ?_ hro
  simp only [Try.ntmps12, List.size_toArray, List.length_cons, List.length_nil, Nat.reduceAdd, Nat.reduceSub, Array.replicate_succ, Array.replicate_zero, List.push_toArray, List.append_toArray, List.nil_append, List.cons_append]
  gi_wp2_with (gi_at_call 28; refine (units_in F hF (n - 1) _ _ _ _).mono ?_; rintro e w' ⟨rfl, rfl⟩)
  have bO := Boxed.new w 23 (.slice none 0 0)
  have bN := Boxed.new (w.alloc (.cells #[.slice none 0 0] 23)) 22 (.slice a zs.length cap)
  rw [World.size_alloc] at bN
  have hB0 : Below w.heap.size w ((w.alloc (.cells #[.slice none 0 0] 23)).alloc (.cells #[.slice a zs.length cap] 22)) := ((Below.refl _ w).alloc (Nat.le_refl _) _).alloc (by simp) _
  refine wpIn_rangeFunc_ownG hro h1 (gf := 35) (lb := #[.pointer (some ⟨w.heap.size + 1, 0, none⟩)]) rfl h35 (enters_of Try.func35 (by kernel_rfl) rfl)
    (units_stops F hF (n - 1) (w.heap.size + 1) w.heap.size a cap zs hm _ (by simp) (by simp; omega) bN.cell (hI.below hB0 (Nat.le_refl _))) belowK_t (belowK_b (by simp; omega)) (Below.refl _ _) (fun _ => rfl)
    (fun (pre : List Int) W => (∃ v, Boxed W w.heap.size 23 v ∧ W.ownsRow w.heap.size 43 1 v pre.length (pre.map (Value.int .u16)) ∧ True) ∧ Below w.heap.size w W)
    (fun _ _ _ => False)
    (OwnFrom.and (Go.Own.from (holdsRow_own w.heap.size w.heap.size 23 43 1 (fun pre : List Int => pre.length) (fun pre : List Int => pre.map (Value.int .u16)) (fun _ _ => True)) _) (ownFrom_below (Nat.le_refl _) (by simp; omega)))
    (fun _ _ _ _ _ hs _ _ => hs)
    ⟨⟨_, bO.alloc _, World.ownsRow_nil _ _ _ _, trivial⟩, hB0⟩
    (fun x => { tmps := #[.slice a zs.length cap, undef, .slice none 0 0, .pointer (some ⟨w.heap.size, 0, none⟩), .int .u16 x, .slice a zs.length cap, .func (.func 35) #[] #[.pointer (some ⟨w.heap.size + 1, 0, none⟩)], .int .u16 x, undef, undef, undef, undef, undef], defers := [] }) ?assign ?body ?done ?stop
  case assign =>
    intro l x W K hK
    gi_wp2
    exact hK
  case body =>
    rintro l pre x W ⟨⟨v, hv, hrow, _⟩, hB⟩ hlt
    have hc := hv.cell
    gi_wp2_with (gi_at_builtin; refine wpListIn_append_own _ rfl _ _ 23 rfl w.heap.size 43 i0 (.int .u16 0) 1 2 Try.underlying23 hi hz0 hz1 hz2 rfl (by decide) _ _ _ rfl (hrow.alloc _) ⟨W.heap.size, 0, none⟩ 1 1 [.int .u16 x] rfl rfl (cell_one_new _ _ _) (by simp [Value.oneCell']) (by simp only [maxLen]; omega) (by omega) (by have := hB.size; simp; omega) ?_; intro v' w1 hown' hgrow _; obtain ⟨g', cap', rfl⟩ := ownsRow_succ hown'; obtain ⟨hv1, hv2, hr2, hk2, hb2⟩ := hv.appended (by decide) hrow hB.size (Nat.le_refl _) hown' hgrow; have hc1 := hv1.cell; have hf1 := hv1.frozen)
    exact ⟨hk2.from _, hb2, ⟨_, hv2, by simpa using hr2, trivial⟩, hB.trans hb2⟩
  case done =>
    rintro D ys W hD rfl ⟨⟨v, hv, hrow, _⟩, hB⟩ hK
    have hc := hv.cell
    gi_wp2
    refine ⟨by simp, .inl ⟨_, _, rfl, run_takeDeferred hK, ?_⟩⟩
    exact ⟨_, results_tmp rfl _ _ _, v, rfl, ownsRow_putObj hrow _ hK rfl, hB.trans (belowK_b (w := w) (Nat.le_refl _) W D _ _ (by simp at hD; omega) hK rfl rfl)⟩
  case stop =>
    rintro D c pre W _ _ h _
    exact h.elim

theorem unitsL_any (a : Option Addr) (n cap : Nat) (zs : List Int) (w : World) (hn : zs.length = n) (hI : Ints w w.heap.size .i32 a zs) (hm : n ≤ 65536) :
    Calls Try.prog 12 #[.slice a n cap] w (RowRes 43 .u16 w (uns zs)) := by
  subst hn
  exact callsIn_wide.1 (unitsL_in Fence.wide wide_is 3 (by omega) a cap zs hm w hI)
end Go.Proofs.Ytmidoopapfkilaa
