/- The loops over the entries of a text in ucd.Build. -/
import Derived.Test.YtmphfdnpnhlpjaaU5Cls
import Derived.Test.YtmphfdnpnhlpjaaU5Sgl
import Derived.Test.YtmphfdnpnhlpjaaU5Par
import Derived.Test.YtmphfdnpnhlpjaaTxtUcdBuild
namespace Go.Proofs.Ytmphfdnpnhlpjaa
open Go.RowKit Go.Shelf
set_option linter.unusedVariables false
set_option linter.unusedSimpArgs false
attribute [local go_sem] Oper.semAt_some

/-- the entries of a text, but for the empty one behind them -/
def esOf (s : ByteArray) : List Ent := ems (bytesOf s) zeroE
/-- a text that can be read to its end -/
structure Txt (s : ByteArray) : Prop where
  size : s.size ≤ 65536
  ok : okAll (bytesOf s) zeroE = true
  last : cur (bytesOf s) zeroE = zeroE
  none : ∀ e ∈ esOf s, e.isZ = false
  small : ∀ e ∈ esOf s, e.n1 ≤ 100000000 ∧ e.n2 ≤ 100000000
  len : (esOf s).length ≤ 100000000
theorem Txt.ents {s : ByteArray} (h : Txt s) : ents (bytesOf s) = esOf s ++ [zeroE] := by unfold Go.Proofs.Ytmphfdnpnhlpjaa.ents; rw [h.last]; rfl
/-- what is told and not empty -/
theorem Txt.pre {s : ByteArray} (h : Txt s) {q : List Ent} {e : Ent} (hp : q ++ [e] <+: Go.Proofs.Ytmphfdnpnhlpjaa.ents (bytesOf s)) (he : e.isZ = false) : q ++ [e] <+: esOf s := by
  rw [h.ents] at hp
  rcases List.prefix_concat_iff.1 hp with h1 | h1
  · have : e = zeroE := by
      have := congrArg List.getLast? h1
      simpa using this
    rw [this] at he
    exact absurd he (by decide)
  · exact h1
/-- the first empty one is the last of all -/
theorem Txt.all {s : ByteArray} (h : Txt s) {q : List Ent} (hp : q ++ [zeroE] <+: Go.Proofs.Ytmphfdnpnhlpjaa.ents (bytesOf s)) : q = esOf s := by
  rw [h.ents] at hp
  rcases List.prefix_concat_iff.1 hp with h1 | h1
  · exact List.append_cancel_right h1
  · have := h.none zeroE (h1.subset (by simp))
    exact absurd this (by decide)

/-- three numbers held against nought -/
theorem eq3 (a b c : Nat) (ha : a ≤ 100000000) (hb : b ≤ 100000000) (hc : c ≤ 100000000) (w : World) :
    (Op.equalIn 9999 58 (.agg #[.int .i32 a, .int .i32 b, .int .i32 c]) (.agg #[.int .i32 0, .int .i32 0, .int .i32 0])).run Try.prog w = .ok (Nat.beq a 0 && (Nat.beq b 0 && Nat.beq c 0)) w := by
  have wf : ∀ x ∈ [(a : Int), (b : Int), (c : Int)], (Lit.int .i32 x).wf = true := fun x hx => by
    simp only [List.mem_cons, List.not_mem_nil, or_false] at hx
    rcases hx with rfl | rfl | rfl <;> exact WalkArith.wf_i32 (by omega)
  have wz : ∀ x ∈ [(0 : Int), 0, 0], (Lit.int .i32 x).wf = true := fun x hx => by
    simp only [List.mem_cons, List.not_mem_nil, or_false] at hx
    rcases hx with rfl | rfl | rfl <;> decide
  have hrow : 58 < Try.prog.types.size := of_decide_eq_true (by kernel_rfl)
  have l1 := arr_lits hrow Try.underlying58 Try.underlying21 (by kernel_rfl) (by kernel_rfl) [(a : Int), (b : Int), (c : Int)] rfl wf
  have l2 := arr_lits hrow Try.underlying58 Try.underlying21 (by kernel_rfl) (by kernel_rfl) [(0 : Int), 0, 0] rfl wz
  have hcl : Try.prog.cellsOf 58 = 3 := by kernel_rfl
  have hf : ∀ l : List Int, l.length = 3 → (arrV .i32 l).formed Try.prog 58 = true := fun l hl => by simp [arrV, Value.formed, Try.underlying58, hcl, hl]
  obtain ⟨r, hr, hr2⟩ := run_equalIn_deep (P := Try.prog) 9989 10 58 (by kernel_rfl) w _ _ (arrV .i32 [(a : Int), (b : Int), (c : Int)]) (arrV .i32 [(0 : Int), 0, 0]) _ _ (hf _ rfl) (hf _ rfl) l1 l2
  have e : r = (Nat.beq a 0 && (Nat.beq b 0 && Nat.beq c 0)) := by
    rw [Bool.eq_iff_iff, hr2]
    simp [List.range_succ, Nat.beq_eq]
  rw [← e]
  simpa [arrV] using hr
theorem ent_eq (e : Ent) (h0 : e.n0 ≤ 100000000) (h1 : e.n1 ≤ 100000000) (h2 : e.n2 ≤ 100000000) (w : World) : (binOp .eql 60 (entV e) (entV zeroE)).run Try.prog w = .ok (.bool e.isZ) w := by
  obtain ⟨n0, n1, n2, li, o⟩ := e
  dsimp only at h0 h1 h2
  have h3 := eq3 n0 n1 n2 h0 h1 h2
  unfold entV entC zeroE Ent.isZ
  dsimp only
  cases hb : (Nat.beq n0 0 && (Nat.beq n1 0 && Nat.beq n2 0))
  · rw [hb] at h3
    have e1 : (Nat.beq n0 0 && (Nat.beq n1 0 && (Nat.beq n2 0 && (Nat.beq li 0 && !o)))) = false := by
      cases x0 : Nat.beq n0 0 <;> cases x1 : Nat.beq n1 0 <;> cases x2 : Nat.beq n2 0 <;> simp_all
    rw [e1]
    simp [go_sem, h3]
  · rw [hb] at h3
    have e1 : (Nat.beq n0 0 && (Nat.beq n1 0 && (Nat.beq n2 0 && (Nat.beq li 0 && !o)))) = (Nat.beq li 0 && !o) := by
      cases x0 : Nat.beq n0 0 <;> cases x1 : Nat.beq n1 0 <;> cases x2 : Nat.beq n2 0 <;> simp_all
    rw [e1]
    by_cases hl : li = 0
    · subst hl
      cases o <;> simp [go_sem, h3]
    · have : Nat.beq li 0 = false := by rw [Bool.eq_false_iff]; simpa [Nat.beq_eq] using hl
      rw [this]
      simp [go_sem, h3, hl]
/-- an operation that only yields, in a walk within a fence -/
theorem wpListIn_run {F : Fence} {n : Nat} {P : Program} {ops : Array Oper} {rest : List Oper} {o : Oper} {a : Act} {w : World} {Q : Exit → Act → World → Prop} (hg : o.guard = none) (hc : ∀ c, o.op ≠ .call c) (hd : ∀ c, o.op ≠ .defer c) (v : Value)
    (hrun : (execOp a.eval o).run P w = .ok (.value v) w) (h : wpListIn F n P ops Q rest (a.put o.dst v) w) : wpListIn F n P ops Q (o :: rest) a w :=
  wpListIn_plain hg fun K hK => by
    refine ⟨fun f hf => ?_, ?_⟩
    · unfold Oper.about at hf
      split at hf
      · rename_i c ho; exact absurd ho (hc c)
      · cases hf
    · rw [Oper.semAt_eq _ _ _ hd, hrun]
      exact hK _ _ h
theorem wpListIn_ent {F : Fence} {n : Nat} {ops : Array Oper} {rest : List Oper} {o : Oper} {a : Act} {w : World} {Q : Exit → Act → World → Prop} (x y : Operand) (ho : o.op = .binOp .eql 60 x y 60) (hg : o.guard = none) (e : Ent) (h0 : e.n0 ≤ 100000000) (h1 : e.n1 ≤ 100000000) (h2 : e.n2 ≤ 100000000)
    (hx : a.eval x = entV e) (hy : a.eval y = entV zeroE) (h : wpListIn F n Try.prog ops Q rest (a.put o.dst (.bool e.isZ)) w) : wpListIn F n Try.prog ops Q (o :: rest) a w :=
  wpListIn_run hg (fun c h => by rw [ho] at h; cases h) (fun c h => by rw [ho] at h; cases h) (.bool e.isZ) (by
    have h3 := ent_eq e h0 h1 h2 w
    have h4 : (eqGuard .eql 60 x y (entV e) (entV zeroE)).run Try.prog w = .ok () w := run_eqGuard_agg _ _ _ _ _ _ _ (by kernel_rfl)
    simp only [execOp, ho, hx, hy, Sem.run_bind, h3, h4, Result.andThen_ok]
    rfl) h
/-- where the blocks lie -/
structure Lay (w : World) (gb mb base gx nb ab B : Nat) (Ds : List Nat) : Prop where
  q1 : w.heap.size ≤ mb
  q2 : mb < gb
  q3 : gb < gx
  q4 : gx < base
  q5 : gx < nb
  q6 : nb < ab
  q7 : ab < B
  q8 : base ≤ B
  q9 : ∀ D ∈ Ds, gx < D ∧ D < B ∧ D ≠ nb ∧ D ≠ ab
/-- where a loop over entries stands -/
structure Rst (w W : World) (gb mb base lo up gx nb ab : Nat) (Ds : List Nat) (k : Int) (a : Nat) (C : List (Nat × Nat)) (P : List Pr5) (S : List (Nat × Nat)) : Prop where
  g : GAt W gb mb base lo up C P S
  at0 : Blk W ab 21 #[.int .i32 a]
  nu : Blk W nb 3 #[.int .i64 k]
  gx : Blk W gx 48 #[.pointer (some ⟨gb, 0, none⟩)]
  be : Below w.heap.size w W
  ds : ∀ D ∈ Ds, W.heap[D]? = some (.deferred (some []))
section
variable {w W W' : World} {gb mb base gx nb ab B : Nat} {Ds : List Nat} {k : Int} {a : Nat} {C : List (Nat × Nat)} {P : List Pr5} {S : List (Nat × Nat)}
theorem Rst.but (h : Rst w W gb mb base B (B + 3) gx nb ab Ds k a C P S) (L : Lay w gb mb base gx nb ab B Ds) {r : Nat} (hb : But r W W') (h1 : B ≤ r) (h2 : r < B + 3) : Rst w W' gb mb base B (B + 3) gx nb ab Ds k a C P S := by
  obtain ⟨l1, l2, l3, l4, l5, l6, l7, l8, l9⟩ := L
  exact ⟨h.g.but hb (by omega) (by omega) h1 h2, hb.blk h.at0 (by omega), hb.blk h.nu (by omega), hb.blk h.gx (by omega), h.be.trans (hb.below (by omega) (by have := h.be.size; omega)), fun D hD => by
    have := l9 D hD
    have hh := h.ds D hD
    exact (hb.block D (Array.getElem?_eq_some_iff.1 hh).1 (fun e => by injection e with e; omega)).trans hh⟩
theorem Rst.grow {lo up : Nat} (h : Rst w W gb mb base lo up gx nb ab Ds k a C P S) (L : Lay w gb mb base gx nb ab B Ds) (hb : Below W.heap.size W W') : Rst w W' gb mb base lo up gx nb ab Ds k a C P S :=
  ⟨h.g.grow hb, h.at0.below hb h.at0.lt, h.nu.below hb h.nu.lt, h.gx.below hb h.gx.lt, h.be.trans (hb.mono h.be.size), fun D hD => (hb.block D (Array.getElem?_eq_some_iff.1 (h.ds D hD)).1).trans (h.ds D hD)⟩
/-- behind a method, its answer stored -/
theorem Rst.next {a' : Nat} {C' : List (Nat × Nat)} {P' : List Pr5} {S' : List (Nat × Nat)} (h : Rst w W gb mb base B (B + 3) gx nb ab Ds k a C P S) (L : Lay w gb mb base gx nb ab B Ds) (hg : GAt W' gb mb base B (B + 3) C' P' S') (hf : Fr rowTs [gb, mb] base W W') :
    W'.cell? ⟨ab, 0, none⟩ = some (.int .i32 a) ∧ W'.frozen? ⟨ab, 0, none⟩ = false ∧ Rst w (W'.setCell ⟨ab, 0, none⟩ (.int .i32 a')) gb mb base B (B + 3) gx nb ab Ds k a' C' P' S' := by
  obtain ⟨l1, l2, l3, l4, l5, l6, l7, l8, l9⟩ := L
  have hat := hf.blk h.at0 (by simp; omega) (by decide)
  have hnu := hf.blk h.nu (by simp; omega) (by decide)
  have hgx := hf.blk h.gx (by simp; omega) (by decide)
  refine ⟨hat.cell 0, hat.frozen 0, hg.cell hat (by decide) (by omega) (by omega) 0 _, ?_, hnu.far (p := ⟨ab, 0, none⟩) (show nb ≠ ab by omega) _, hgx.far (p := ⟨ab, 0, none⟩) (show gx ≠ ab by omega) _, ?_, fun D hD => ?_⟩
  · have := hat.set 0 (.int .i32 a')
    simpa using this
  · exact (h.be.trans ((hf.below (by omega) (by simp; omega) h.be.size))).setCell (p := ⟨ab, 0, none⟩) (show w.heap.size ≤ ab by omega) _
  · have hd := l9 D hD
    refine (Below.heap_setCell W' ⟨ab, 0, none⟩ _ D (show D ≠ ab by omega)).trans ?_
    exact hf.keep D _ (h.ds D hD) (by simp; omega) (.inr (fun cs t m e => by cases e))
end
end Go.Proofs.Ytmphfdnpnhlpjaa
