/- Layer 5: what the document's tables answer. -/
import Derived.Test.YtmphfdnpnhlpjaaU5K2
namespace Go.Proofs.Ytmphfdnpnhlpjaa
open Go.ChangeShapes Go.WideShapes Go.ChangeAt Go.RowKit
set_option linter.unusedVariables false
set_option linter.unusedSimpArgs false

/-- the document's tables of these texts -/
abbrev DTab (W : World) (N : Nat) : Prop := DAt W N (castE C5) (pk5 P5) (castE S5) (jL P5) (castE (scL P5)) (outs P5)
theorem zero_int (w : World) : (zeroValue 3).run Try.prog w = .ok (.int .i64 0) w := by kernel_rfl
theorem zero_two (w : World) : (zeroValue 30).run Try.prog w = .ok (.agg #[.int .i32 0, .int .i32 0]) w := by kernel_rfl
theorem pk5_look (P : List Pr5) : ∀ c : Int, look (pk5 P) c = (lastP P c).map key5 := by
  refine snoc_ind (p := fun P => ∀ c : Int, look (pk5 P) c = (lastP P c).map key5) (fun c => rfl) (fun P p ih c => ?_) P
  rw [pk5_snoc, look_snoc, lastP_snoc, ih]
  dsimp only
  split <;> rfl
theorem pl_cast {l : List (Nat × Nat)} (h : ∀ e ∈ l, e.1 ≤ 1114111) : ∀ e ∈ castE l, isPl e.1 = true := fun e he => by
  obtain ⟨x, hx, rfl⟩ := castE_mem.1 he
  exact isPl_iff.2 ⟨by dsimp only; omega, by have := h x hx; dsimp only; omega⟩
theorem plC : ∀ e ∈ castE C5, isPl e.1 = true := pl_cast fun e he => (fine5.c e he).1
theorem plS : ∀ e ∈ castE S5, isPl e.1 = true := pl_cast fun e he => (fine5.s e he).1
theorem plQ : ∀ e ∈ castE (scL P5), isPl e.1 = true := pl_cast fun e he => by
  obtain ⟨p, hp, _, rfl⟩ := scL_mem.1 he
  exact (fine5.p p hp).2.2
theorem int_look {l : List (Int × Int)} (hl : ∀ e ∈ l, isPl e.1 = true) (q : IntKind) (c : Int) : (if c ∈ (mst 0 l).1 then Value.int q ((mst 0 l).2 c) else .int q 0) = .int q (tab l c) := by
  obtain ⟨h1, h2⟩ := mst_look (0 : Int) l c
  rw [tab_look l hl c, h2]
  cases hh : look l c with
  | none => rw [if_neg (by rw [h1, hh]; simp)]; rfl
  | some v => rw [if_pos (by rw [h1, hh]; rfl)]
theorem sgl_in (c : Int) : decide (c ∈ (mst 0 (castE S5)).1) = (tab (castE S5) c != 0) := by
  obtain ⟨h1, h2⟩ := mst_look (0 : Int) (castE S5) c
  rw [tab_look _ plS c]
  cases hh : look (castE S5) c with
  | none =>
    have : ¬ c ∈ (mst 0 (castE S5)).1 := by rw [h1, hh]; simp
    simp [this]
  | some v =>
    have hin : c ∈ (mst 0 (castE S5)).1 := by rw [h1, hh]; rfl
    obtain ⟨x, hx, he⟩ := castE_mem.1 (look_mem _ _ _ hh)
    have e2 : (x.2 : Int) = v := congrArg Prod.snd he
    have := snz5 hx
    clear he h1 h2 hh
    have hv : v ≠ 0 := by omega
    rw [decide_eq_true hin]
    show true = (v != 0)
    simp [hv]
section
variable {W : World} {N : Nat}
theorem class_look (h : DTab W N) (c : Int) (hc : D32 c) : (Instr.lookup 32 (.map (some N)) (.int .i32 c) false).run Try.prog W = .ok (.int .i64 (tab (castE C5) c)) W := by
  have := h.c.look kvI Try.underlying32 (zero_int W) c hc false
  rw [this]
  simp only [Bool.false_eq_true, if_false]
  rw [int_look plC]
theorem sec_look (h : DTab W N) (c : Int) (hc : D32 c) : (Instr.lookup 32 (.map (some (N + 1 + 1 + 1 + 1))) (.int .i32 c) false).run Try.prog W = .ok (.int .i64 (tab (castE (scL P5)) c)) W := by
  have := h.q.look kvI Try.underlying32 (zero_int W) c hc false
  refine Eq.trans this ?_
  simp only [Bool.false_eq_true, if_false]
  rw [int_look plQ]
theorem single_look (h : DTab W N) (c : Int) (hc : D32 c) : (Instr.lookup 34 (.map (some (N + 1 + 1))) (.int .i32 c) true).run Try.prog W = .ok (.tuple #[.int .i32 (tab (castE S5) c), .bool (tab (castE S5) c != 0)]) W := by
  have := h.s.look kvI Try.underlying34 (zero_i32 W) c hc true
  refine Eq.trans this ?_
  simp only [if_true]
  rw [int_look plS, sgl_in]
theorem pair_look (h : DTab W N) (c : Int) (hc : D32 c) : (Instr.lookup 33 (.map (some (N + 1))) (.int .i32 c) true).run Try.prog W = .ok (.tuple #[.agg #[.int .i32 (pxF P5 c), .int .i32 (pyF P5 c)], .bool (pkF P5 c)]) W := by
  have := h.k.look kvI Try.underlying33 (zero_two W) c hc true
  refine Eq.trans this ?_
  simp only [if_true]
  obtain ⟨h1, h2⟩ := mst_look ([0, 0] : List Int) (pk5 P5) c
  rw [pk5_look] at h1 h2
  unfold pxF pyF pkF
  rw [h2]
  cases hh : lastP P5 c with
  | none =>
    have hn : ¬ c ∈ (mst [0, 0] (pk5 P5)).1 := by rw [h1, hh]; simp
    rw [if_neg hn, decide_eq_false hn]; rfl
  | some p =>
    have hy : c ∈ (mst [0, 0] (pk5 P5)).1 := by rw [h1, hh]; rfl
    rw [if_pos hy, decide_eq_true hy]; rfl
theorem join_look (h : DTab W N) (a b : Int) (ha : (Lit.int .i32 a).wf = true) (hb : (Lit.int .i32 b).wf = true) : (Instr.lookup 35 (.map (some (N + 1 + 1 + 1))) (.agg #[.int .i32 a, .int .i32 b]) true).run Try.prog W = .ok (.tuple #[.int .i32 (if [a, b] ∈ (jst P5).1 then (jst P5).2 [a, b] else 0), .bool (decide ([a, b] ∈ (jst P5).1))]) W := by
  have := h.j.look kv2 Try.underlying35 (zero_i32 W) [a, b] ⟨rfl, fun x hx => by
    rcases List.mem_cons.1 hx with rfl | hx
    · exact ha
    · simp at hx; subst hx; exact hb⟩ true
  refine Eq.trans this ?_
  simp only [if_true]
  rw [jst_jL]
  by_cases hm : [a, b] ∈ (mst 0 (jL P5)).1 <;> simp [hm]
theorem rsecond_any (h : DTab W N) (c : Int) (hc : D32 c) : Calls Try.prog 14 #[.pointer (some ⟨N + 1 + 1 + 1 + 1 + 1, 0, none⟩), .int .i32 c] W fun e w' => e = .returned (.bool (tab (castE (scL P5)) c != 0)) ∧ W = w' := by
  have hl := sec_look h c hc
  have c0 : W.cell? ⟨N + 1 + 1 + 1 + 1 + 1, 4, none⟩ = some (.map (some (N + 1 + 1 + 1 + 1))) := h.blk.cell 4
  have hbd := (tab_castE_bd (l := scL P5) (m := 100000000) (fun e he => by obtain ⟨p, hp, _, rfl⟩ := scL_mem.1 he; dsimp only; omega) c).1
  have hgt : decide (0 < tab (castE (scL P5)) c) = (tab (castE (scL P5)) c != 0) := by
    by_cases hz : tab (castE (scL P5)) c = 0
    · simp [hz]
    · have : 0 < tab (castE (scL P5)) c := by omega
      simp [this, hz]
  rw [← hgt]
  clear hgt hbd h
  generalize tab (castE (scL P5)) c = x at *
  go_enter Try.func14, Try.ntmps14
  go_wp2
  go_ret
  exact ⟨rfl, rfl⟩
end
end Go.Proofs.Ytmphfdnpnhlpjaa
