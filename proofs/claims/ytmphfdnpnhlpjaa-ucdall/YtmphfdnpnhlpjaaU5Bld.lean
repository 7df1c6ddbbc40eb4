/- ucd.Build by its contract. -/
import Derived.Test.YtmphfdnpnhlpjaaU5Rf0
import Derived.Test.YtmphfdnpnhlpjaaU5Rf1
import Derived.Test.YtmphfdnpnhlpjaaU5Rf2
import Derived.Test.YtmphfdnpnhlpjaaU5Tbl
import Derived.Scope
namespace Go.Proofs.Ytmphfdnpnhlpjaa
open Go.RowKit Go.Shelf
set_option linter.unusedVariables false
set_option linter.unusedSimpArgs false
attribute [local go_sem] Oper.semAt_some

theorem ix_txt0 (A B C : ByteArray) (w : World) : (Instr.index 54 (.agg #[.string A, .string B, .string C]) (.int .i64 0)).run Try.prog w = .ok (.string A) w := by kernel_rfl
theorem ix_txt1 (A B C : ByteArray) (w : World) : (Instr.index 54 (.agg #[.string A, .string B, .string C]) (.int .i64 1)).run Try.prog w = .ok (.string B) w := by kernel_rfl
theorem ix_txt2 (A B C : ByteArray) (w : World) : (Instr.index 54 (.agg #[.string A, .string B, .string C]) (.int .i64 2)).run Try.prog w = .ok (.string C) w := by kernel_rfl

/-- nothing is gathered yet -/
def gzero (N : Nat) : Array Value := #[.slice none 0 0, .slice none 0 0, .slice none 0 0, .slice none 0 0, .slice none 0 0, .map (some N), .int .i64 0]
abbrev gW (w : World) : World := ((w.alloc (.map #[] 0)).alloc (.cells (gzero w.heap.size) 53)).alloc (.cells #[.pointer (some ⟨w.heap.size + 1, 0, none⟩)] 48)
theorem GAt.start (w : World) (lo up : Nat) : GAt (gW w) (w.heap.size + 1) w.heap.size (w.heap.size + 1 + 1 + 1) lo up [] [] [] := by
  refine ⟨.slice none 0 0, .slice none 0 0, .slice none 0 0, .slice none 0 0, .slice none 0 0, ⟨?_, ?_, ?_, by omega, by simp, ?_⟩, ?_, by omega, by omega⟩
  · have := (Blk.new (w.alloc (.map #[] 0)) 53 (gzero w.heap.size)).alloc (.cells #[.pointer (some ⟨w.heap.size + 1, 0, none⟩)] 48)
    rw [World.size_alloc] at this
    exact this
  · intro i r hi
    match i, hi with
    | 0, hi => simp at hi; subst hi; exact World.ownsRow_nil _ _ _ _
    | 1, hi => simp at hi; subst hi; exact World.ownsRow_nil _ _ _ _
    | 2, hi => simp at hi; subst hi; exact World.ownsRow_nil _ _ _ _
    | 3, hi => simp at hi; subst hi; exact World.ownsRow_nil _ _ _ _
    | 4, hi => simp at hi; subst hi; exact World.ownsRow_nil _ _ _ _
    | n + 5, hi => simp at hi
  · intro i j r s hij hi hj k hk
    match i, hi with
    | 0, hi => simp at hi; subst hi; cases hk
    | 1, hi => simp at hi; subst hi; cases hk
    | 2, hi => simp at hi; subst hi; cases hk
    | 3, hi => simp at hi; subst hi; cases hk
    | 4, hi => simp at hi; subst hi; cases hk
    | n + 5, hi => simp at hi
  · intro i r k hi hk
    match i, hi with
    | 0, hi => simp at hi; subst hi; cases hk
    | 1, hi => simp at hi; subst hi; cases hk
    | 2, hi => simp at hi; subst hi; cases hk
    | 3, hi => simp at hi; subst hi; cases hk
    | 4, hi => simp at hi; subst hi; cases hk
    | n + 5, hi => simp at hi
  · exact ((MapIs.made w (arrV .i32) (Value.int .i32) DD (fun _ => (0 : Int))).alloc _).alloc _

abbrev rW (W : World) (k : Int) (T : ByteArray) : World := ((W.alloc (.cells #[.int .i64 k] 3)).alloc (.cells #[.int .i32 0] 21)).alloc (.cells #[.string T] 9)
/-- a loop begins -/
theorem rst_begin {w W : World} {gb mb base lo up gx : Nat} {Ds : List Nat} {C : List (Nat × Nat)} {P : List Pr5} {S : List (Nat × Nat)} (k : Int) (T : ByteArray) (hg : GAt W gb mb base lo up C P S) (hx : Blk W gx 48 #[.pointer (some ⟨gb, 0, none⟩)]) (hb : Below w.heap.size w W) (hd : ∀ D ∈ Ds, W.heap[D]? = some (.deferred (some []))) :
    Rst w (rW W k T) gb mb base (W.heap.size + 1 + 1 + 1) (W.heap.size + 1 + 1 + 1 + 3) gx W.heap.size (W.heap.size + 1) Ds k 0 C P S ∧ Blk (rW W k T) (W.heap.size + 1 + 1) 9 #[.string T] ∧ (rW W k T).heap.size = W.heap.size + 1 + 1 + 1 := by
  have hsz : (rW W k T).heap.size = W.heap.size + 1 + 1 + 1 := by simp
  have b1 := Blk.new W 3 #[.int .i64 k]
  have b2 := Blk.new (W.alloc (.cells #[.int .i64 k] 3)) 21 #[.int .i32 0]
  have b3 := Blk.new ((W.alloc (.cells #[.int .i64 k] 3)).alloc (.cells #[.int .i32 0] 21)) 9 #[.string T]
  simp only [World.size_alloc] at b2 b3
  have hgr : Below W.heap.size W (rW W k T) := (((Below.refl _ W).alloc (Nat.le_refl _) _).alloc (by simp) _).alloc (by simp; omega) _
  exact ⟨⟨(hg.grow hgr).renew (by rw [hsz]; exact Nat.le_refl _), b2.alloc _, (b1.alloc _).alloc _, hx.below hgr hx.lt, hb.trans (hgr.mono hb.size), fun D hD => (hgr.block D (Array.getElem?_eq_some_iff.1 (hd D hD)).1).trans (hd D hD)⟩, b3, hsz⟩

/-- the turn of a block for deferred calls -/
theorem cell_put {W : World} {D : Nat} {x : Option (List Deferred)} (o : Obj) (hD : W.heap[D]? = some (.deferred x)) {p : Addr} {v : Value} (h : W.cell? p = some v) : (W.putObj D o).cell? p = some v := by
  refine (World.cell?_of_block (World.putObj_heap_other (fun e => ?_))).trans h
  unfold World.cell? at h
  rw [e, hD] at h
  cases h
theorem blk_put {W : World} {D : Nat} {x : Option (List Deferred)} (o : Obj) (hD : W.heap[D]? = some (.deferred x)) {g : Nat} {t : TypeId} {cs : Array Value} (h : Blk W g t cs) : Blk (W.putObj D o) g t cs := by
  refine (World.putObj_heap_other (fun e => ?_)).trans h
  unfold Blk at h
  rw [e, hD] at h
  cases h
theorem TabAt.put {W : World} {D : Nat} {x : Option (List Deferred)} (o : Obj) (hD : W.heap[D]? = some (.deferred x)) {B g n : Nat} {f : Int → Int} (h : TabAt W B g f n) : TabAt (W.putObj D o) B g f n := by
  obtain ⟨hg, a, cap, N, ha, h1, h2, h3, h4⟩ := h
  refine ⟨hg, a, cap, N, ha, h1, h2, cell_put o hD h3, fun i hi => ?_⟩
  obtain ⟨k1, k2, k3⟩ := h4 i hi
  exact ⟨k1, cell_put o hD k2, fun j hj => cell_put o hD (k3 j hj)⟩
theorem TblAt.put {W : World} {D : Nat} {x : Option (List Deferred)} (o : Obj) (hD : W.heap[D]? = some (.deferred x)) {B g : Nat} {C : List (Nat × Nat)} {P : List Pr5} {S : List (Nat × Nat)} (h : TblAt W B g C P S) : TblAt (W.putObj D o) B g C P S := by
  obtain ⟨g0, g1, g2, g3, mb, A4, cap4, k0, k1, k2, k3, h⟩ := h
  refine ⟨g0, g1, g2, g3, mb, A4, cap4, k0, k1, k2, k3, h.low, h.mlow, blk_put o hD h.blk, h.cap, h.t0.put o hD, h.t1.put o hD, h.t2.put o hD, h.t3.put o hD, ?_, ?_⟩
  · rcases h.tw with h | ⟨b, e, hl, hc⟩
    · exact .inl h
    · exact .inr ⟨b, e, hl, fun j p hj => ⟨cell_put o hD (hc j p hj).1, cell_put o hD (hc j p hj).2⟩⟩
  · refine h.map.block (World.putObj_heap_other (fun e => ?_))
    obtain ⟨es, clock, hb, _⟩ := h.map
    rw [e, hD] at hb
    cases hb

set_option maxRecDepth 100000 in
set_option maxHeartbeats 8000000 in
theorem ubuild_in (F : Fence) (hF : Wide F) (n : Nat) (hn : 3 ≤ n) (H1 : Txt tUcdBuild1) (H2 : Txt tUcdBuild2) (H3 : Txt tUcdBuild3) (b1 : endC 0 (esOf tUcdBuild1) ≤ 100000000) (b2 : endP 0 (esOf tUcdBuild2) ≤ 100000000) (b3 : endP 0 (esOf tUcdBuild3) ≤ 100000000)
    (f0 : FitE (castE (clsE 0 (esOf tUcdBuild1)))) (f1 : FitE (castE (prI 0 (prE 0 (esOf tUcdBuild2))))) (f2 : FitE (castE (sgE 0 (esOf tUcdBuild3)))) (f3 : FitE (castE (scL (prE 0 (esOf tUcdBuild2))))) (w : World) :
    CallsIn F n Try.prog 7 #[] w (TPost w (clsE 0 (esOf tUcdBuild1)) (prE 0 (esOf tUcdBuild2)) (sgE 0 (esOf tUcdBuild3))) := by
  have h1 : 1 ≤ n := by omega
  have hro := hF.round
  have hd := hF.depth
  have hdd : ∀ k : Nat, (F.depth.isSome = true → 1 ≤ k) := fun k h => by rw [hd] at h; cases h
  have hf1 := hF.fn 19
  have hf2 := hF.fn 27
  have hf6 := hF.fn 23
  have hmm := @run_makeMap Try.prog
  have hi0 := ix_txt0
  have hi1 := ix_txt1
  have hi2 := ix_txt2
  refine callsIn_of_wp_marks Try.func7 bodyUcdBuild (hF.fn _) ?_ hro
  simp only [Try.ntmps7, List.size_toArray, List.length_cons, List.length_nil, Nat.reduceAdd, Nat.reduceSub, Array.replicate_succ, Array.replicate_zero, List.push_toArray, List.append_toArray, List.nil_append, List.cons_append]
  unfold cUcdBuild
  have FITS := Lib.hid (And.intro f0 (And.intro f1 (And.intro f2 f3)))
  clear f0 f1 f2 f3
  generalize tUcdBuild1 = T1 at *
  generalize tUcdBuild2 = T2 at *
  generalize tUcdBuild3 = T3 at *
  gi_wp2
  refine wpIn_loop_rounds 4 ?_
  rw [roundsIn_succ]
  gi_wp2
  refine hF.wp ?_
  refine wp_scope_straight ?_
  refine hF.out (n := n) ?_
  gi_wp2
  refine wpIn_label ?_
  gi_wp2_with (gi_at_call 19; refine (entries_in F hF (n - 1) _ _).mono ?_; rintro e w' ⟨rfl, rfl⟩)
  obtain ⟨hst, hsb, hsz⟩ := rst_begin (w := w) (Ds := []) 0 T1 (GAt.start w 0 0) (Blk.new ((w.alloc (.map #[] 0)).alloc (.cells (gzero w.heap.size) 53)) 48 #[.pointer (some ⟨w.heap.size + 1, 0, none⟩)]) ((((Below.refl _ w).alloc (Nat.le_refl _) _).alloc (by simp) _).alloc (by simp; omega) _) (by simp)
  simp only [World.size_alloc] at hst hsb hsz
  refine rf0_in F hF n hn T1 H1 b1 w _ (w.heap.size + 1) w.heap.size (w.heap.size + 1 + 1 + 1) (w.heap.size + 1 + 1) (w.heap.size + 1 + 1 + 1) (w.heap.size + 1 + 1 + 1 + 1) (w.heap.size + 1 + 1 + 1 + 1 + 1) (w.heap.size + 1 + 1 + 1 + 1 + 1 + 1) [] (by simp) ⟨by omega, by omega, by omega, by omega, by omega, by omega, by omega, by omega, by simp⟩ hst hsb (by omega) (by omega) (by omega) (by omega) _ _ _ _ _ _ _ _ _ _ _ _ _ _ _ _ _ _ _ _ _ _ _ _ _ _ _ _ _ _ _ _ _ _ _ _ _ _ _ _ ?_
  intro Wa hRa hKa
  gi_wp2
  change Exit.inBlock 1 _ Exit.normal _ _
  gi_wp2
  rw [roundsIn_succ]
  gi_wp2
  refine hF.wp ?_
  refine wp_scope_straight ?_
  refine hF.out (n := n) ?_
  gi_wp2
  refine wpIn_label ?_
  gi_wp2_with (gi_at_call 19; refine (entries_in F hF (n - 1) _ _).mono ?_; rintro e w' ⟨rfl, rfl⟩)
  have hsa := (Array.getElem?_eq_some_iff.1 hKa).1
  obtain ⟨hst1, hsb1, hsz1⟩ := rst_begin (Ds := [w.heap.size + 1 + 1 + 1 + 1 + 1 + 1]) 1 T2 hRa.g hRa.gx hRa.be (by intro D hD; simp only [List.mem_cons, List.not_mem_nil, or_false] at hD; rw [hD]; exact hKa)
  clear hst hsb
  refine rf1_in F hF n hn T2 H2 b2 (clsE 0 (esOf T1)) w _ (w.heap.size + 1) w.heap.size (w.heap.size + 1 + 1 + 1) (w.heap.size + 1 + 1) Wa.heap.size (Wa.heap.size + 1) (Wa.heap.size + 1 + 1) (Wa.heap.size + 1 + 1 + 1) [w.heap.size + 1 + 1 + 1 + 1 + 1 + 1] hsz1 ⟨by omega, by omega, by omega, by omega, by omega, by omega, by omega, by omega, by intro D hD; simp only [List.mem_cons, List.not_mem_nil, or_false] at hD; omega⟩ hst1 hsb1 (by omega) (by omega) (by omega) (by omega) _ _ _ _ _ _ _ _ _ _ _ _ _ _ _ _ _ _ _ _ _ _ _ _ _ _ _ _ _ _ _ _ _ _ _ _ _ _ _ _ ?_
  intro Wb hRb hKb
  gi_wp2
  change Exit.inBlock 1 _ Exit.normal _ _
  gi_wp2
  rw [roundsIn_succ]
  gi_wp2
  refine hF.wp ?_
  refine wp_scope_straight ?_
  refine hF.out (n := n) ?_
  gi_wp2
  refine wpIn_label ?_
  gi_wp2_with (gi_at_call 19; refine (entries_in F hF (n - 1) _ _).mono ?_; rintro e w' ⟨rfl, rfl⟩)
  have hsc := (Array.getElem?_eq_some_iff.1 hKb).1
  obtain ⟨hst2, hsb2, hsz2⟩ := rst_begin (Ds := [Wa.heap.size + 1 + 1 + 1, w.heap.size + 1 + 1 + 1 + 1 + 1 + 1]) 2 T3 hRb.g hRb.gx hRb.be (by
    intro D hD
    simp only [List.mem_cons, List.not_mem_nil, or_false] at hD
    rcases hD with rfl | rfl
    · exact hKb
    · exact hRb.ds _ (by simp))
  clear hst1 hsb1 hRa
  refine rf2_in F hF n hn T3 H3 b3 (clsE 0 (esOf T1)) (prE 0 (esOf T2)) w _ (w.heap.size + 1) w.heap.size (w.heap.size + 1 + 1 + 1) (w.heap.size + 1 + 1) Wb.heap.size (Wb.heap.size + 1) (Wb.heap.size + 1 + 1) (Wb.heap.size + 1 + 1 + 1) [Wa.heap.size + 1 + 1 + 1, w.heap.size + 1 + 1 + 1 + 1 + 1 + 1] hsz2 ⟨by omega, by omega, by omega, by omega, by omega, by omega, by omega, by omega, by intro D hD; simp only [List.mem_cons, List.not_mem_nil, or_false] at hD; omega⟩ hst2 hsb2 (by omega) (by omega) (by omega) (by omega) _ _ _ _ _ _ _ _ _ _ _ _ _ _ _ _ _ _ _ _ _ _ _ _ _ _ _ _ _ _ _ _ _ _ _ _ _ _ _ _ ?_
  intro Wc hRc hKc
  clear hst2 hsb2 hRb
  have hK0 : Wc.heap[w.heap.size + 1 + 1 + 1 + 1 + 1 + 1]? = some (.deferred (some [])) := hRc.ds _ (by simp)
  have hK1 : Wc.heap[Wa.heap.size + 1 + 1 + 1]? = some (.deferred (some [])) := hRc.ds _ (by simp)
  have cg : Wc.cell? ⟨w.heap.size + 1 + 1, 0, none⟩ = some (.pointer (some ⟨w.heap.size + 1, 0, none⟩)) := hRc.gx.cell 0
  have l1 := clsE_len (esOf T1) 0
  have l2 := prE_len (esOf T2) 0
  have l3 := sgE_len (esOf T3) 0
  have l4 := H2.len
  have l5 := H3.len
  obtain ⟨f0, f1, f2, f3⟩ := FITS.out
  have hT := Lib.hid (tables_any Wc (w.heap.size + 1) w.heap.size (w.heap.size + 1 + 1 + 1) _ _ _ _ _ hRc.g (by omega) (by omega) (by omega) f0 f1 f2 f3)
  have HBE := Lib.hid hRc.be
  have HK0 := Lib.hid hK0
  have HK1 := Lib.hid hK1
  have HK2 := Lib.hid hKc
  have hs3 := (Array.getElem?_eq_some_iff.1 hKc).1
  have hs4 := (Array.getElem?_eq_some_iff.1 hK0).1
  have hs5 := (Array.getElem?_eq_some_iff.1 hK1).1
  clear hRc hK0 hK1 hKc hKa hKb f0 f1 f2 f3
  gi_wp2
  change Exit.inBlock 1 _ Exit.normal _ _
  gi_wp2
  rw [roundsIn_succ]
  gi_wp2_with ((try refine ⟨hdd _, ?_⟩); gi_at_call 23; refine (hF.calls hT.out).mono ?_; rintro e Wd ⟨g, rfl, htb, hbd⟩)
  have hs6 := hbd.size
  have k2 : Wd.heap[Wb.heap.size + 1 + 1 + 1]? = some (.deferred (some [])) := (hbd.block _ hs3).trans HK2.out
  have k1 : Wd.heap[Wa.heap.size + 1 + 1 + 1]? = some (.deferred (some [])) := (hbd.block _ hs5).trans HK1.out
  have k0 : Wd.heap[w.heap.size + 1 + 1 + 1 + 1 + 1 + 1]? = some (.deferred (some [])) := (hbd.block _ hs4).trans HK0.out
  have k1' : (Wd.putObj (Wb.heap.size + 1 + 1 + 1) (.deferred none)).heap[Wa.heap.size + 1 + 1 + 1]? = some (.deferred (some [])) := (World.putObj_heap_other (by omega)).trans k1
  have k0' : (Wd.putObj (Wb.heap.size + 1 + 1 + 1) (.deferred none)).heap[w.heap.size + 1 + 1 + 1 + 1 + 1 + 1]? = some (.deferred (some [])) := (World.putObj_heap_other (by omega)).trans k0
  have k0'' : ((Wd.putObj (Wb.heap.size + 1 + 1 + 1) (.deferred none)).putObj (Wa.heap.size + 1 + 1 + 1) (.deferred none)).heap[w.heap.size + 1 + 1 + 1 + 1 + 1 + 1]? = some (.deferred (some [])) := (World.putObj_heap_other (by omega)).trans k0'
  refine ⟨by simp, .inl ⟨_, _, rfl, run_takeDeferred k2, ?_⟩⟩
  refine ⟨by simp, .inl ⟨_, _, rfl, run_takeDeferred k1', ?_⟩⟩
  refine ⟨by simp, .inl ⟨_, _, rfl, run_takeDeferred k0'', ?_⟩⟩
  refine ⟨_, results_tmp rfl _ _ _, g, rfl, ?_, ?_⟩
  · have := ((htb.put (.deferred none) k2).put (.deferred none) k1').put (.deferred none) k0''
    simpa using this
  · have hb1 := HBE.out.trans (hbd.mono HBE.out.size)
    have s1 := hb1.size
    exact ((hb1.trans ((but_put Wd _ _).below (by omega) s1)).trans ((but_put _ _ _).below (by omega) (by simpa using s1))).trans ((but_put _ _ _).below (by omega) (by simpa using s1))
end Go.Proofs.Ytmphfdnpnhlpjaa
