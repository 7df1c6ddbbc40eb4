/- Joined of: U5Rnd, U5Rf0, U5Rf1, U5Rf2, U5Bld. -/
import Derived.Test.YtdmcidljjfogjaaDoorJ9D
import Derived.Test.YtdmcidljjfogjaaDoorJ9C
import Derived.Scope
/- The loops over the entries of a text in ucd.Build. -/
namespace Go.Proofs.YtdmcidljjfogjaaDoor
set_option maxRecDepth 100000
open Go.RowKit Go.Shelf
set_option linter.unusedVariables false
set_option linter.unusedSimpArgs false
attribute [local go_sem] Oper.semAt_some

/-- the entries of a text, but for the empty one behind them -/
def esOf (s : ByteArray) : List Ent := ems (bytesOf s) zeroE
/-- a text that can be read to its end -/
structure Txt (s : ByteArray) : Prop where
  size : s.size ≤ 65536
  ok : okAll (bytesOf s) zeroE = true
  last : cur (bytesOf s) zeroE = zeroE
  none : ∀ e ∈ esOf s, e.isZ = false
  small : ∀ e ∈ esOf s, e.n1 ≤ 100000000 ∧ e.n2 ≤ 100000000
  len : (esOf s).length ≤ 100000000
theorem Txt.ents {s : ByteArray} (h : Txt s) : ents (bytesOf s) = esOf s ++ [zeroE] := by unfold Go.Proofs.YtdmcidljjfogjaaDoor.ents; rw [h.last]; rfl
/-- what is told and not empty -/
theorem Txt.pre {s : ByteArray} (h : Txt s) {q : List Ent} {e : Ent} (hp : q ++ [e] <+: Go.Proofs.YtdmcidljjfogjaaDoor.ents (bytesOf s)) (he : e.isZ = false) : q ++ [e] <+: esOf s := by
  rw [h.ents] at hp
  rcases List.prefix_concat_iff.1 hp with h1 | h1
  · have : e = zeroE := by
      have := congrArg List.getLast? h1
      simpa using this
    rw [this] at he
    exact absurd he (by decide)
  · exact h1
/-- the first empty one is the last of all -/
theorem Txt.all {s : ByteArray} (h : Txt s) {q : List Ent} (hp : q ++ [zeroE] <+: Go.Proofs.YtdmcidljjfogjaaDoor.ents (bytesOf s)) : q = esOf s := by
  rw [h.ents] at hp
  rcases List.prefix_concat_iff.1 hp with h1 | h1
  · exact List.append_cancel_right h1
  · have := h.none zeroE (h1.subset (by simp))
    exact absurd this (by decide)

/-- three numbers held against nought -/
theorem eq3 (a b c : Nat) (ha : a ≤ 100000000) (hb : b ≤ 100000000) (hc : c ≤ 100000000) (w : World) :
    (Op.equalIn 9999 58 (.agg #[.int .i32 a, .int .i32 b, .int .i32 c]) (.agg #[.int .i32 0, .int .i32 0, .int .i32 0])).run Tryd.prog w = .ok (Nat.beq a 0 && (Nat.beq b 0 && Nat.beq c 0)) w := by
  have wf : ∀ x ∈ [(a : Int), (b : Int), (c : Int)], (Lit.int .i32 x).wf = true := fun x hx => by
    simp only [List.mem_cons, List.not_mem_nil, or_false] at hx
    rcases hx with rfl | rfl | rfl <;> exact WalkArith.wf_i32 (by omega)
  have wz : ∀ x ∈ [(0 : Int), 0, 0], (Lit.int .i32 x).wf = true := fun x hx => by
    simp only [List.mem_cons, List.not_mem_nil, or_false] at hx
    rcases hx with rfl | rfl | rfl <;> decide
  have hrow : 58 < Tryd.prog.types.size := of_decide_eq_true (by kernel_rfl)
  have l1 := arr_lits hrow Tryd.underlying58 Tryd.underlying21 (by kernel_rfl) (by kernel_rfl) [(a : Int), (b : Int), (c : Int)] rfl wf
  have l2 := arr_lits hrow Tryd.underlying58 Tryd.underlying21 (by kernel_rfl) (by kernel_rfl) [(0 : Int), 0, 0] rfl wz
  have hcl : Tryd.prog.cellsOf 58 = 3 := by kernel_rfl
  have hf : ∀ l : List Int, l.length = 3 → (arrV .i32 l).formed Tryd.prog 58 = true := fun l hl => by simp [arrV, Value.formed, Tryd.underlying58, hcl, hl]
  obtain ⟨r, hr, hr2⟩ := run_equalIn_deep (P := Tryd.prog) 9989 10 58 (by kernel_rfl) w _ _ (arrV .i32 [(a : Int), (b : Int), (c : Int)]) (arrV .i32 [(0 : Int), 0, 0]) _ _ (hf _ rfl) (hf _ rfl) l1 l2
  have e : r = (Nat.beq a 0 && (Nat.beq b 0 && Nat.beq c 0)) := by
    rw [Bool.eq_iff_iff, hr2]
    simp [List.range_succ, Nat.beq_eq]
  rw [← e]
  simpa [arrV] using hr
theorem ent_eq (e : Ent) (h0 : e.n0 ≤ 100000000) (h1 : e.n1 ≤ 100000000) (h2 : e.n2 ≤ 100000000) (w : World) : (binOp .eql 60 (entV e) (entV zeroE)).run Tryd.prog w = .ok (.bool e.isZ) w := by
  obtain ⟨n0, n1, n2, li, o⟩ := e
  dsimp only at h0 h1 h2
  have h3 := eq3 n0 n1 n2 h0 h1 h2
  unfold entV entC zeroE Ent.isZ
  dsimp only
  cases hb : (Nat.beq n0 0 && (Nat.beq n1 0 && Nat.beq n2 0))
  · rw [hb] at h3
    have e1 : (Nat.beq n0 0 && (Nat.beq n1 0 && (Nat.beq n2 0 && (Nat.beq li 0 && !o)))) = false := by
      cases x0 : Nat.beq n0 0 <;> cases x1 : Nat.beq n1 0 <;> cases x2 : Nat.beq n2 0 <;> simp_all
    rw [e1]
    simp [go_sem, h3]
  · rw [hb] at h3
    have e1 : (Nat.beq n0 0 && (Nat.beq n1 0 && (Nat.beq n2 0 && (Nat.beq li 0 && !o)))) = (Nat.beq li 0 && !o) := by
      cases x0 : Nat.beq n0 0 <;> cases x1 : Nat.beq n1 0 <;> cases x2 : Nat.beq n2 0 <;> simp_all
    rw [e1]
    by_cases hl : li = 0
    · subst hl
      cases o <;> simp [go_sem, h3]
    · have : Nat.beq li 0 = false := by rw [Bool.eq_false_iff]; simpa [Nat.beq_eq] using hl
      rw [this]
      simp [go_sem, h3, hl]
/-- an operation that only yields, in a walk within a fence -/
theorem wpListIn_run {F : Fence} {n : Nat} {P : Program} {ops : Array Oper} {rest : List Oper} {o : Oper} {a : Act} {w : World} {Q : Exit → Act → World → Prop} (hg : o.guard = none) (hc : ∀ c, o.op ≠ .call c) (hd : ∀ c, o.op ≠ .defer c) (v : Value)
    (hrun : (execOp a.eval o).run P w = .ok (.value v) w) (h : wpListIn F n P ops Q rest (a.put o.dst v) w) : wpListIn F n P ops Q (o :: rest) a w :=
  wpListIn_plain hg fun K hK => by
    refine ⟨fun f hf => ?_, ?_⟩
    · unfold Oper.about at hf
      split at hf
      · rename_i c ho; exact absurd ho (hc c)
      · cases hf
    · rw [Oper.semAt_eq _ _ _ hd, hrun]
      exact hK _ _ h
theorem wpListIn_ent {F : Fence} {n : Nat} {ops : Array Oper} {rest : List Oper} {o : Oper} {a : Act} {w : World} {Q : Exit → Act → World → Prop} (x y : Operand) (ho : o.op = .binOp .eql 60 x y 60) (hg : o.guard = none) (e : Ent) (h0 : e.n0 ≤ 100000000) (h1 : e.n1 ≤ 100000000) (h2 : e.n2 ≤ 100000000)
    (hx : a.eval x = entV e) (hy : a.eval y = entV zeroE) (h : wpListIn F n Tryd.prog ops Q rest (a.put o.dst (.bool e.isZ)) w) : wpListIn F n Tryd.prog ops Q (o :: rest) a w :=
  wpListIn_run hg (fun c h => by rw [ho] at h; cases h) (fun c h => by rw [ho] at h; cases h) (.bool e.isZ) (by
    have h3 := ent_eq e h0 h1 h2 w
    have h4 : (eqGuard .eql 60 x y (entV e) (entV zeroE)).run Tryd.prog w = .ok () w := run_eqGuard_agg _ _ _ _ _ _ _ (by kernel_rfl)
    simp only [execOp, ho, hx, hy, Sem.run_bind, h3, h4, Result.andThen_ok]
    rfl) h
/-- where the blocks lie -/
structure Lay (w : World) (gb mb base gx nb ab B : Nat) (Ds : List Nat) : Prop where
  q1 : w.heap.size ≤ mb
  q2 : mb < gb
  q3 : gb < gx
  q4 : gx < base
  q5 : gx < nb
  q6 : nb < ab
  q7 : ab < B
  q8 : base ≤ B
  q9 : ∀ D ∈ Ds, gx < D ∧ D < B ∧ D ≠ nb ∧ D ≠ ab
/-- where a loop over entries stands -/
structure Rst (w W : World) (gb mb base lo up gx nb ab : Nat) (Ds : List Nat) (k : Int) (a : Nat) (C : List (Nat × Nat)) (P : List Pr5) (S : List (Nat × Nat)) : Prop where
  g : GAt W gb mb base lo up C P S
  at0 : Blk W ab 21 #[.int .i32 a]
  nu : Blk W nb 3 #[.int .i64 k]
  gx : Blk W gx 48 #[.pointer (some ⟨gb, 0, none⟩)]
  be : Below w.heap.size w W
  ds : ∀ D ∈ Ds, W.heap[D]? = some (.deferred (some []))
section
variable {w W W' : World} {gb mb base gx nb ab B : Nat} {Ds : List Nat} {k : Int} {a : Nat} {C : List (Nat × Nat)} {P : List Pr5} {S : List (Nat × Nat)}
theorem Rst.but (h : Rst w W gb mb base B (B + 3) gx nb ab Ds k a C P S) (L : Lay w gb mb base gx nb ab B Ds) {r : Nat} (hb : But r W W') (h1 : B ≤ r) (h2 : r < B + 3) : Rst w W' gb mb base B (B + 3) gx nb ab Ds k a C P S := by
  obtain ⟨l1, l2, l3, l4, l5, l6, l7, l8, l9⟩ := L
  exact ⟨h.g.but hb (by omega) (by omega) h1 h2, hb.blk h.at0 (by omega), hb.blk h.nu (by omega), hb.blk h.gx (by omega), h.be.trans (hb.below (by omega) (by have := h.be.size; omega)), fun D hD => by
    have := l9 D hD
    have hh := h.ds D hD
    exact (hb.block D (Array.getElem?_eq_some_iff.1 hh).1 (fun e => by injection e with e; omega)).trans hh⟩
theorem Rst.grow {lo up : Nat} (h : Rst w W gb mb base lo up gx nb ab Ds k a C P S) (L : Lay w gb mb base gx nb ab B Ds) (hb : Below W.heap.size W W') : Rst w W' gb mb base lo up gx nb ab Ds k a C P S :=
  ⟨h.g.grow hb, h.at0.below hb h.at0.lt, h.nu.below hb h.nu.lt, h.gx.below hb h.gx.lt, h.be.trans (hb.mono h.be.size), fun D hD => (hb.block D (Array.getElem?_eq_some_iff.1 (h.ds D hD)).1).trans (h.ds D hD)⟩
/-- behind a method, its answer stored -/
theorem Rst.next {a' : Nat} {C' : List (Nat × Nat)} {P' : List Pr5} {S' : List (Nat × Nat)} (h : Rst w W gb mb base B (B + 3) gx nb ab Ds k a C P S) (L : Lay w gb mb base gx nb ab B Ds) (hg : GAt W' gb mb base B (B + 3) C' P' S') (hf : Fr rowTs [gb, mb] base W W') :
    W'.cell? ⟨ab, 0, none⟩ = some (.int .i32 a) ∧ W'.frozen? ⟨ab, 0, none⟩ = false ∧ Rst w (W'.setCell ⟨ab, 0, none⟩ (.int .i32 a')) gb mb base B (B + 3) gx nb ab Ds k a' C' P' S' := by
  obtain ⟨l1, l2, l3, l4, l5, l6, l7, l8, l9⟩ := L
  have hat := hf.blk h.at0 (by simp; omega) (by decide)
  have hnu := hf.blk h.nu (by simp; omega) (by decide)
  have hgx := hf.blk h.gx (by simp; omega) (by decide)
  refine ⟨hat.cell 0, hat.frozen 0, hg.cell hat (by decide) (by omega) (by omega) 0 _, ?_, hnu.far (p := ⟨ab, 0, none⟩) (show nb ≠ ab by omega) _, hgx.far (p := ⟨ab, 0, none⟩) (show gx ≠ ab by omega) _, ?_, fun D hD => ?_⟩
  · have := hat.set 0 (.int .i32 a')
    simpa using this
  · exact (h.be.trans ((hf.below (by omega) (by simp; omega) h.be.size))).setCell (p := ⟨ab, 0, none⟩) (show w.heap.size ≤ ab by omega) _
  · have hd := l9 D hD
    refine (Below.heap_setCell W' ⟨ab, 0, none⟩ _ D (show D ≠ ab by omega)).trans ?_
    exact hf.keep D _ (h.ds D hD) (by simp; omega) (.inr (fun cs t m e => by cases e))
end
end Go.Proofs.YtdmcidljjfogjaaDoor

/- Printed by gen_u5r.py. The loop over the entries of text 1 in ucd.Build. -/
namespace Go.Proofs.YtdmcidljjfogjaaDoor
set_option maxRecDepth 100000
open Go.RowKit Go.Shelf
set_option linter.unusedVariables false
set_option linter.unusedSimpArgs false
attribute [local go_sem] Oper.semAt_some

set_option maxRecDepth 100000 in
set_option maxHeartbeats 4000000 in
theorem rf0_in (F : Fence) (hF : Wide F) (n : Nat) (hn : 3 ≤ n) (T : ByteArray) (hT : Txt T) (hE : endC 0 (esOf T) ≤ 100000000)  (w W0 : World) (gb mb base gx nb ab sb B : Nat) (Ds : List Nat) (hB : W0.heap.size = B) (hL : Lay w gb mb base gx nb ab B Ds)
    (hst : Rst w W0 gb mb base B (B + 3) gx nb ab Ds 0 0 [] [] []) (hsb : Blk W0 sb 9 #[.string T]) (hs1 : sb < B) (hs2 : gx < sb) (hs3 : sb ≠ ab) (hs4 : sb ≠ nb)
    (u0 u3 u5 u6 u7 u8 u9 u10 u11 u12 u13 u14 u16 u17 u18 u19 u20 u21 u22 u23 u24 u25 u26 u27 u28 u29 u30 u31 u32 u33 u34 u35 u36 u37 u38 u39 u40 u41 : Value) (ds : List Deferred) (Q : Exit → Act → World → Prop)
    (hQ : ∀ W, Rst w W gb mb base B (B + 3) gx nb ab Ds 0 (endC 0 (esOf T)) (clsE 0 (esOf T)) [] [] → W.heap[B]? = some (.deferred (some [])) → (Code.exit 2).wpIn F n Tryd.prog Q { tmps := #[u0, .pointer (some ⟨gx, 0, none⟩), .pointer (some ⟨nb, 0, none⟩), u3, .pointer (some ⟨ab, 0, none⟩), u5, u6, u7, u8, u9, u10, u11, u12, u13, u14, .func (.func 47) #[] #[.pointer (some ⟨sb, 0, none⟩)], u16, u17, u18, u19, u20, u21, u22, u23, u24, u25, u26, u27, u28, u29, u30, u31, u32, u33, u34, u35, u36, u37, u38, u39, u40, u41], defers := { target := .collected B, args := #[] } :: ds } W) :
    rUcdBuild1.wpIn F n Tryd.prog Q { tmps := #[u0, .pointer (some ⟨gx, 0, none⟩), .pointer (some ⟨nb, 0, none⟩), u3, .pointer (some ⟨ab, 0, none⟩), u5, u6, u7, u8, u9, u10, u11, u12, u13, u14, .func (.func 47) #[] #[.pointer (some ⟨sb, 0, none⟩)], u16, u17, u18, u19, u20, u21, u22, u23, u24, u25, u26, u27, u28, u29, u30, u31, u32, u33, u34, u35, u36, u37, u38, u39, u40, u41], defers := ds } W0 := by
  have h1 : 1 ≤ n := by omega
  have hro := hF.round
  have hd := hF.depth
  have hdd : ∀ k : Nat, (F.depth.isSome = true → 1 ≤ k) := fun k h => by rw [hd] at h; cases h
  have hf2 := hF.fn 47
  have hf3 := hF.fn 27
  obtain ⟨l1, l2, l3, l4, l5, l6, l7, l8, l9⟩ := hL
  have HQ := Lib.hid hQ
  clear hQ
  unfold rUcdBuild1
  refine wpIn_rangeFuncE hro h1 (gf := 47) (lb := #[.pointer (some ⟨sb, 0, none⟩)]) (by simp [Act.eval]) hf2 (enters_of Tryd.func47 (by kernel_rfl) rfl)
    (encs := fun x : Ent => #[entV x]) (L := [sb]) (S := fun ys => ys = ents (bytesOf T)) (Sp := fun pre => pre <+: ents (bytesOf T)) (Ei := isEnt) B hB (by simp; omega)
    (fun W1 hs hb => entries_seq F hF (n - 1) sb B T hT.size hT.ok W1 hs (hsb.below hb (by omega)) hs1) (fun _ => rfl)
    (fun (pre : List Ent) W => (∀ e ∈ pre, e.isZ = false) ∧ (Rst w W gb mb base B (B + 3) gx nb ab Ds 0 (endC 0 pre) (clsE 0 pre) [] []) ∧ Blk W sb 9 #[.string T])
    (fun c (pre : List Ent) W => c = .exit 2 ∧ ∃ q, pre = q ++ [zeroE] ∧ Rst w W gb mb base B (B + 3) gx nb ab Ds 0 (endC 0 q) (clsE 0 q) [] [])
    (fun r hr1 hr2 s A C h hb => ⟨h.1, h.2.1.but ⟨l1, l2, l3, l4, l5, l6, l7, l8, l9⟩ hb hr1 hr2, hb.blk h.2.2 (by omega)⟩)
    (fun c r hr1 hr2 s A C h hb => by
      obtain ⟨hc, q, hq, h⟩ := h
      exact ⟨hc, q, hq, h.but ⟨l1, l2, l3, l4, l5, l6, l7, l8, l9⟩ hb hr1 hr2⟩)
    ⟨by simp, hst, hsb⟩
    (fun x a' W => ∃ Bx, B + 3 ≤ Bx ∧ Blk W Bx 60 (entC x) ∧ a' = { tmps := #[u0, .pointer (some ⟨gx, 0, none⟩), .pointer (some ⟨nb, 0, none⟩), u3, .pointer (some ⟨ab, 0, none⟩), .pointer (some ⟨Bx, 0, none⟩), u6, u7, u8, u9, u10, u11, u12, u13, u14, .func (.func 47) #[] #[.pointer (some ⟨sb, 0, none⟩)], entV x, u17, u18, u19, u20, u21, u22, u23, u24, u25, u26, u27, u28, u29, u30, u31, u32, u33, u34, u35, u36, u37, u38, u39, u40, u41], defers := [] })
    (fun x a' r hr1 hr2 s A C h hb => by
      obtain ⟨Bx, hx1, hx2, hx3⟩ := h
      exact ⟨Bx, hx1, hb.blk hx2 (by omega), hx3⟩) ?assign ?body ?done ?stop
  case assign =>
    rintro l pre ⟨n0, n1, n2, li, o⟩ W K ⟨hz, hR, hsw⟩ hsz hK
    unfold entV entC
    gi_wp2
    refine hK _ _ ?_ ⟨hz, hR.grow ⟨l1, l2, l3, l4, l5, l6, l7, l8, l9⟩ ((Below.refl _ W).alloc (Nat.le_refl _) _), hsw.alloc _⟩ ⟨W.heap.size, hsz, Blk.new W 60 _, rfl⟩
    intro i hi
    refine Below.heap_alloc W _ i ?_
    simp only [List.mem_cons, List.not_mem_nil, or_false] at hi
    omega
  case body =>
    rintro l pre ⟨n0, n1, n2, li, o⟩ a' W ⟨hz, hR, hsw⟩ ⟨Bx, hBx, hE, rfl⟩ hp ho0 ⟨lr, ho1⟩ ⟨oe, ho2, ⟨ecs, rfl⟩⟩
    have HP := Lib.hid hp
    have HR := Lib.hid hR
    have hszW : B + 3 ≤ W.heap.size := by have := (Array.getElem?_eq_some_iff.1 ho2).1; omega
    have HE := Lib.hid hE
    have HZ := Lib.hid hz
    have c0 : W.cell? ⟨Bx, 0, none⟩ = some (.int .i32 n0) := hE.cell 0
    have c1 : W.cell? ⟨Bx, 1, none⟩ = some (.int .i32 n1) := hE.cell 1
    have c2 : W.cell? ⟨Bx, 2, none⟩ = some (.int .i32 n2) := hE.cell 2
    have c3 : W.cell? ⟨Bx, 3, none⟩ = some (.int .i64 li) := hE.cell 3
    have c4 : W.cell? ⟨Bx, 4, none⟩ = some (.bool o) := hE.cell 4
    have cn : W.cell? ⟨nb, 0, none⟩ = some (.int .i64 0) := hR.nu.cell 0
    have cg : W.cell? ⟨gx, 0, none⟩ = some (.pointer (some ⟨gb, 0, none⟩)) := hR.gx.cell 0
    have ca : W.cell? ⟨ab, 0, none⟩ = some (.int .i32 (endC 0 pre)) := hR.at0.cell 0
    have HSW := Lib.hid hsw
    have H0 := Lib.hid ho0
    have H1 := Lib.hid ho1
    have H2 := Lib.hid ho2
    clear hp hR hE hz hsw ho0 ho1 ho2
    have hmem : (⟨n0, n1, n2, li, o⟩ : Ent).isZ = true ∨ pre ++ [⟨n0, n1, n2, li, o⟩] <+: esOf T := by
      cases hzz : (⟨n0, n1, n2, li, o⟩ : Ent).isZ
      · exact .inr (hT.pre HP.out hzz)
      · exact .inl rfl
    by_cases hzz : (⟨n0, n1, n2, li, o⟩ : Ent).isZ = true
    · have hz2 := isZ_iff.1 hzz
      unfold zeroE at hz2
      injection hz2 with e0 e1 e2 e3 e4
      subst e0 e1 e2 e3 e4
      clear hzz hmem
      unfold entV entC
      gi_wp2_with (refine wpListIn_ent _ _ rfl rfl zeroE (by decide) (by decide) (by decide) rfl rfl ?_; show wpListIn _ _ _ _ _ _ (Act.put _ _ (.bool true)) _)
      exact ⟨Kept.refl _ _, rfl, pre, rfl, HR.out⟩
    · have hzf : (⟨n0, n1, n2, li, o⟩ : Ent).isZ = false := by simpa using hzz
      have hpre := hmem.resolve_left hzz
      have hpre0 : pre <+: esOf T := (List.prefix_append _ _).trans hpre
      have hsm := hT.small _ (hpre.subset (by simp : (⟨n0, n1, n2, li, o⟩ : Ent) ∈ pre ++ [⟨n0, n1, n2, li, o⟩]))
      dsimp only at hsm
      have hle := endC_pre hpre 0
      rw [endC_snoc] at hle
      have hln := clsE_len pre 0
      have hle2 := endC_pre hpre0 0
      dsimp only at hle
      have hRs := HR.out.be.size
      have hmet := class_any W gb mb base B (B + 3) (clsE 0 pre) [] [] (endC 0 pre) ⟨n0, n1, n2, li, o⟩ HR.out.g (by dsimp only; omega) hsm.2 (by dsimp only; omega) (by omega)
      have HMET := Lib.hid hmet
      have hb0 : n0 ≤ 100000000 := by omega
      have HS : Hid (n1 ≤ 100000000 ∧ n2 ≤ 100000000) := Lib.hid hsm
      have HZF := Lib.hid hzf
      have HPRE := Lib.hid hpre
      clear hmet hmem hsm hzz hzf hpre hpre0
      generalize hA : (endC 0 pre) = A0 at *
      have HA := Lib.hid hA
      clear hA
      unfold entV entC
      gi_wp2_with (first
        | (refine wpListIn_ent _ _ rfl rfl ⟨n0, n1, n2, li, o⟩ hb0 HS.out.1 HS.out.2 rfl rfl ?_; rw [HZF.out])
        | ((try refine ⟨hdd _, ?_⟩); gi_at_call 27; refine (CallsIn.inRound l (hF.calls HMET.out)).mono ?_; rintro e W3 ⟨rfl, hG3, hF3⟩; obtain ⟨x1, x2, hR3⟩ := HR.out.next (a' := A0 + n0 + n1) ⟨l1, l2, l3, l4, l5, l6, l7, l8, l9⟩ hG3 hF3))
      have nr : ∀ (k : Nat) (ob : Obj), W.heap[k]? = some ob → k ≠ gb → k ≠ mb → k ≠ ab → notRow rowTs ob → (W3.setCell ⟨ab, 0, none⟩ (.int .i32 ((A0 + n0 + n1 : Nat) : Int))).heap[k]? = some ob := fun k ob hk h1 h2 h3 h4 =>
        (Below.heap_setCell W3 ⟨ab, 0, none⟩ _ k h3).trans (hF3.keep k ob hk (by simp [h1, h2]) (.inr h4))
      have e1 : (W3.setCell ⟨ab, 0, none⟩ (.int .i32 ((A0 + n0 + n1 : Nat) : Int))) = (W3.setCell ⟨ab, 0, none⟩ (.int .i32 ((A0 : Int) + n0 + n1))) := by congr 2
      rw [← e1]
      refine ⟨?_, ?_, ?_, ?_⟩
      · intro i hi
        simp only [List.mem_cons, List.not_mem_nil, or_false] at hi
        rcases hi with rfl | rfl | rfl | rfl
        · exact (nr i _ H0.out (by omega) (by omega) (by omega) (fun cs t m e => by cases e)).trans H0.out.symm
        · exact (nr _ _ H1.out (by omega) (by omega) (by omega) (fun cs t m e => by cases e)).trans H1.out.symm
        · exact (nr _ _ H2.out (by omega) (by omega) (by omega) (fun cs t m e => by cases e; decide)).trans H2.out.symm
        · exact (nr i _ HSW.out (by omega) (by omega) (by omega) (fun cs t m e => by cases e; decide)).trans (show W.heap[i]? = _ from HSW.out).symm
      · intro e he
        rcases List.mem_append.1 he with he | he
        · exact HZ.out e he
        · simp only [List.mem_cons, List.not_mem_nil, or_false] at he
          rw [he]; exact HZF.out
      · rw [clsE_snoc, endC_snoc]
        rw [HA.out]
        exact hR3
      · exact nr sb _ HSW.out (by omega) (by omega) (by omega) (fun cs t m e => by cases e; decide)
  case done =>
    rintro xs W rfl ⟨hz, _, _⟩ _
    have := hz zeroE (by rw [hT.ents]; simp)
    exact absurd this (by decide)
  case stop =>
    rintro c pre W hp ⟨rfl, q, rfl, hR⟩ hK
    have hq := hT.all hp
    rw [hq] at hR
    exact HQ.out W hR hK
end Go.Proofs.YtdmcidljjfogjaaDoor

/- Printed by gen_u5r.py. The loop over the entries of text 2 in ucd.Build. -/
namespace Go.Proofs.YtdmcidljjfogjaaDoor
set_option maxRecDepth 100000
open Go.RowKit Go.Shelf
set_option linter.unusedVariables false
set_option linter.unusedSimpArgs false
attribute [local go_sem] Oper.semAt_some

set_option maxRecDepth 100000 in
set_option maxHeartbeats 4000000 in
theorem rf1_in (F : Fence) (hF : Wide F) (n : Nat) (hn : 3 ≤ n) (T : ByteArray) (hT : Txt T) (hE : endP 0 (esOf T) ≤ 100000000) (C1 : List (Nat × Nat)) (w W0 : World) (gb mb base gx nb ab sb B : Nat) (Ds : List Nat) (hB : W0.heap.size = B) (hL : Lay w gb mb base gx nb ab B Ds)
    (hst : Rst w W0 gb mb base B (B + 3) gx nb ab Ds 1 0 C1 [] []) (hsb : Blk W0 sb 9 #[.string T]) (hs1 : sb < B) (hs2 : gx < sb) (hs3 : sb ≠ ab) (hs4 : sb ≠ nb)
    (u0 u3 u5 u6 u7 u8 u9 u10 u11 u12 u13 u14 u16 u17 u18 u19 u20 u21 u22 u23 u24 u25 u26 u27 u28 u29 u30 u31 u32 u33 u34 u35 u36 u37 u38 u39 u40 u41 : Value) (ds : List Deferred) (Q : Exit → Act → World → Prop)
    (hQ : ∀ W, Rst w W gb mb base B (B + 3) gx nb ab Ds 1 (endP 0 (esOf T)) C1 (prE 0 (esOf T)) [] → W.heap[B]? = some (.deferred (some [])) → (Code.exit 2).wpIn F n Tryd.prog Q { tmps := #[u0, .pointer (some ⟨gx, 0, none⟩), .pointer (some ⟨nb, 0, none⟩), u3, .pointer (some ⟨ab, 0, none⟩), u5, u6, u7, u8, u9, u10, u11, u12, u13, u14, .func (.func 47) #[] #[.pointer (some ⟨sb, 0, none⟩)], u16, u17, u18, u19, u20, u21, u22, u23, u24, u25, u26, u27, u28, u29, u30, u31, u32, u33, u34, u35, u36, u37, u38, u39, u40, u41], defers := { target := .collected B, args := #[] } :: ds } W) :
    rUcdBuild1.wpIn F n Tryd.prog Q { tmps := #[u0, .pointer (some ⟨gx, 0, none⟩), .pointer (some ⟨nb, 0, none⟩), u3, .pointer (some ⟨ab, 0, none⟩), u5, u6, u7, u8, u9, u10, u11, u12, u13, u14, .func (.func 47) #[] #[.pointer (some ⟨sb, 0, none⟩)], u16, u17, u18, u19, u20, u21, u22, u23, u24, u25, u26, u27, u28, u29, u30, u31, u32, u33, u34, u35, u36, u37, u38, u39, u40, u41], defers := ds } W0 := by
  have h1 : 1 ≤ n := by omega
  have hro := hF.round
  have hd := hF.depth
  have hdd : ∀ k : Nat, (F.depth.isSome = true → 1 ≤ k) := fun k h => by rw [hd] at h; cases h
  have hf2 := hF.fn 47
  have hf3 := hF.fn 28
  obtain ⟨l1, l2, l3, l4, l5, l6, l7, l8, l9⟩ := hL
  have HQ := Lib.hid hQ
  clear hQ
  unfold rUcdBuild1
  refine wpIn_rangeFuncE hro h1 (gf := 47) (lb := #[.pointer (some ⟨sb, 0, none⟩)]) (by simp [Act.eval]) hf2 (enters_of Tryd.func47 (by kernel_rfl) rfl)
    (encs := fun x : Ent => #[entV x]) (L := [sb]) (S := fun ys => ys = ents (bytesOf T)) (Sp := fun pre => pre <+: ents (bytesOf T)) (Ei := isEnt) B hB (by simp; omega)
    (fun W1 hs hb => entries_seq F hF (n - 1) sb B T hT.size hT.ok W1 hs (hsb.below hb (by omega)) hs1) (fun _ => rfl)
    (fun (pre : List Ent) W => (∀ e ∈ pre, e.isZ = false) ∧ (Rst w W gb mb base B (B + 3) gx nb ab Ds 1 (endP 0 pre) C1 (prE 0 pre) []) ∧ Blk W sb 9 #[.string T])
    (fun c (pre : List Ent) W => c = .exit 2 ∧ ∃ q, pre = q ++ [zeroE] ∧ Rst w W gb mb base B (B + 3) gx nb ab Ds 1 (endP 0 q) C1 (prE 0 q) [])
    (fun r hr1 hr2 s A C h hb => ⟨h.1, h.2.1.but ⟨l1, l2, l3, l4, l5, l6, l7, l8, l9⟩ hb hr1 hr2, hb.blk h.2.2 (by omega)⟩)
    (fun c r hr1 hr2 s A C h hb => by
      obtain ⟨hc, q, hq, h⟩ := h
      exact ⟨hc, q, hq, h.but ⟨l1, l2, l3, l4, l5, l6, l7, l8, l9⟩ hb hr1 hr2⟩)
    ⟨by simp, hst, hsb⟩
    (fun x a' W => ∃ Bx, B + 3 ≤ Bx ∧ Blk W Bx 60 (entC x) ∧ a' = { tmps := #[u0, .pointer (some ⟨gx, 0, none⟩), .pointer (some ⟨nb, 0, none⟩), u3, .pointer (some ⟨ab, 0, none⟩), .pointer (some ⟨Bx, 0, none⟩), u6, u7, u8, u9, u10, u11, u12, u13, u14, .func (.func 47) #[] #[.pointer (some ⟨sb, 0, none⟩)], entV x, u17, u18, u19, u20, u21, u22, u23, u24, u25, u26, u27, u28, u29, u30, u31, u32, u33, u34, u35, u36, u37, u38, u39, u40, u41], defers := [] })
    (fun x a' r hr1 hr2 s A C h hb => by
      obtain ⟨Bx, hx1, hx2, hx3⟩ := h
      exact ⟨Bx, hx1, hb.blk hx2 (by omega), hx3⟩) ?assign ?body ?done ?stop
  case assign =>
    rintro l pre ⟨n0, n1, n2, li, o⟩ W K ⟨hz, hR, hsw⟩ hsz hK
    unfold entV entC
    gi_wp2
    refine hK _ _ ?_ ⟨hz, hR.grow ⟨l1, l2, l3, l4, l5, l6, l7, l8, l9⟩ ((Below.refl _ W).alloc (Nat.le_refl _) _), hsw.alloc _⟩ ⟨W.heap.size, hsz, Blk.new W 60 _, rfl⟩
    intro i hi
    refine Below.heap_alloc W _ i ?_
    simp only [List.mem_cons, List.not_mem_nil, or_false] at hi
    omega
  case body =>
    rintro l pre ⟨n0, n1, n2, li, o⟩ a' W ⟨hz, hR, hsw⟩ ⟨Bx, hBx, hE, rfl⟩ hp ho0 ⟨lr, ho1⟩ ⟨oe, ho2, ⟨ecs, rfl⟩⟩
    have HP := Lib.hid hp
    have HR := Lib.hid hR
    have hszW : B + 3 ≤ W.heap.size := by have := (Array.getElem?_eq_some_iff.1 ho2).1; omega
    have HE := Lib.hid hE
    have HZ := Lib.hid hz
    have c0 : W.cell? ⟨Bx, 0, none⟩ = some (.int .i32 n0) := hE.cell 0
    have c1 : W.cell? ⟨Bx, 1, none⟩ = some (.int .i32 n1) := hE.cell 1
    have c2 : W.cell? ⟨Bx, 2, none⟩ = some (.int .i32 n2) := hE.cell 2
    have c3 : W.cell? ⟨Bx, 3, none⟩ = some (.int .i64 li) := hE.cell 3
    have c4 : W.cell? ⟨Bx, 4, none⟩ = some (.bool o) := hE.cell 4
    have cn : W.cell? ⟨nb, 0, none⟩ = some (.int .i64 1) := hR.nu.cell 0
    have cg : W.cell? ⟨gx, 0, none⟩ = some (.pointer (some ⟨gb, 0, none⟩)) := hR.gx.cell 0
    have ca : W.cell? ⟨ab, 0, none⟩ = some (.int .i32 (endP 0 pre)) := hR.at0.cell 0
    have HSW := Lib.hid hsw
    have H0 := Lib.hid ho0
    have H1 := Lib.hid ho1
    have H2 := Lib.hid ho2
    clear hp hR hE hz hsw ho0 ho1 ho2
    have hmem : (⟨n0, n1, n2, li, o⟩ : Ent).isZ = true ∨ pre ++ [⟨n0, n1, n2, li, o⟩] <+: esOf T := by
      cases hzz : (⟨n0, n1, n2, li, o⟩ : Ent).isZ
      · exact .inr (hT.pre HP.out hzz)
      · exact .inl rfl
    by_cases hzz : (⟨n0, n1, n2, li, o⟩ : Ent).isZ = true
    · have hz2 := isZ_iff.1 hzz
      unfold zeroE at hz2
      injection hz2 with e0 e1 e2 e3 e4
      subst e0 e1 e2 e3 e4
      clear hzz hmem
      unfold entV entC
      gi_wp2_with (refine wpListIn_ent _ _ rfl rfl zeroE (by decide) (by decide) (by decide) rfl rfl ?_; show wpListIn _ _ _ _ _ _ (Act.put _ _ (.bool true)) _)
      exact ⟨Kept.refl _ _, rfl, pre, rfl, HR.out⟩
    · have hzf : (⟨n0, n1, n2, li, o⟩ : Ent).isZ = false := by simpa using hzz
      have hpre := hmem.resolve_left hzz
      have hpre0 : pre <+: esOf T := (List.prefix_append _ _).trans hpre
      have hsm := hT.small _ (hpre.subset (by simp : (⟨n0, n1, n2, li, o⟩ : Ent) ∈ pre ++ [⟨n0, n1, n2, li, o⟩]))
      dsimp only at hsm
      have hle := endP_pre hpre 0
      rw [endP_snoc] at hle
      have hln := prE_len pre 0
      have hle2 := hpre0.length_le
      have hle3 := hT.len
      dsimp only at hle
      have hRs := HR.out.be.size
      have hmet := pair_any W gb mb base B (B + 3) C1 (prE 0 pre) [] (endP 0 pre) ⟨n0, n1, n2, li, o⟩ HR.out.g (by dsimp only; omega) hsm.1 hsm.2 (by omega) (by omega)
      have HMET := Lib.hid hmet
      have hb0 : n0 ≤ 100000000 := by omega
      have HS : Hid (n1 ≤ 100000000 ∧ n2 ≤ 100000000) := Lib.hid hsm
      have HZF := Lib.hid hzf
      have HPRE := Lib.hid hpre
      clear hmet hmem hsm hzz hzf hpre hpre0
      generalize hA : (endP 0 pre) = A0 at *
      have HA := Lib.hid hA
      clear hA
      unfold entV entC
      gi_wp2_with (first
        | (refine wpListIn_ent _ _ rfl rfl ⟨n0, n1, n2, li, o⟩ hb0 HS.out.1 HS.out.2 rfl rfl ?_; rw [HZF.out])
        | ((try refine ⟨hdd _, ?_⟩); gi_at_call 28; refine (CallsIn.inRound l (hF.calls HMET.out)).mono ?_; rintro e W3 ⟨rfl, hG3, hF3⟩; obtain ⟨x1, x2, hR3⟩ := HR.out.next (a' := A0 + n0) ⟨l1, l2, l3, l4, l5, l6, l7, l8, l9⟩ hG3 hF3))
      have nr : ∀ (k : Nat) (ob : Obj), W.heap[k]? = some ob → k ≠ gb → k ≠ mb → k ≠ ab → notRow rowTs ob → (W3.setCell ⟨ab, 0, none⟩ (.int .i32 ((A0 + n0 : Nat) : Int))).heap[k]? = some ob := fun k ob hk h1 h2 h3 h4 =>
        (Below.heap_setCell W3 ⟨ab, 0, none⟩ _ k h3).trans (hF3.keep k ob hk (by simp [h1, h2]) (.inr h4))
      have e1 : (W3.setCell ⟨ab, 0, none⟩ (.int .i32 ((A0 + n0 : Nat) : Int))) = (W3.setCell ⟨ab, 0, none⟩ (.int .i32 ((A0 : Int) + n0))) := by congr 2
      rw [← e1]
      refine ⟨?_, ?_, ?_, ?_⟩
      · intro i hi
        simp only [List.mem_cons, List.not_mem_nil, or_false] at hi
        rcases hi with rfl | rfl | rfl | rfl
        · exact (nr i _ H0.out (by omega) (by omega) (by omega) (fun cs t m e => by cases e)).trans H0.out.symm
        · exact (nr _ _ H1.out (by omega) (by omega) (by omega) (fun cs t m e => by cases e)).trans H1.out.symm
        · exact (nr _ _ H2.out (by omega) (by omega) (by omega) (fun cs t m e => by cases e; decide)).trans H2.out.symm
        · exact (nr i _ HSW.out (by omega) (by omega) (by omega) (fun cs t m e => by cases e; decide)).trans (show W.heap[i]? = _ from HSW.out).symm
      · intro e he
        rcases List.mem_append.1 he with he | he
        · exact HZ.out e he
        · simp only [List.mem_cons, List.not_mem_nil, or_false] at he
          rw [he]; exact HZF.out
      · rw [prE_snoc, endP_snoc]
        rw [HA.out]
        exact hR3
      · exact nr sb _ HSW.out (by omega) (by omega) (by omega) (fun cs t m e => by cases e; decide)
  case done =>
    rintro xs W rfl ⟨hz, _, _⟩ _
    have := hz zeroE (by rw [hT.ents]; simp)
    exact absurd this (by decide)
  case stop =>
    rintro c pre W hp ⟨rfl, q, rfl, hR⟩ hK
    have hq := hT.all hp
    rw [hq] at hR
    exact HQ.out W hR hK
end Go.Proofs.YtdmcidljjfogjaaDoor

/- Printed by gen_u5r.py. The loop over the entries of text 3 in ucd.Build. -/
namespace Go.Proofs.YtdmcidljjfogjaaDoor
set_option maxRecDepth 100000
open Go.RowKit Go.Shelf
set_option linter.unusedVariables false
set_option linter.unusedSimpArgs false
attribute [local go_sem] Oper.semAt_some

set_option maxRecDepth 100000 in
set_option maxHeartbeats 4000000 in
theorem rf2_in (F : Fence) (hF : Wide F) (n : Nat) (hn : 3 ≤ n) (T : ByteArray) (hT : Txt T) (hE : endP 0 (esOf T) ≤ 100000000) (C1 : List (Nat × Nat)) (P1 : List Pr5) (w W0 : World) (gb mb base gx nb ab sb B : Nat) (Ds : List Nat) (hB : W0.heap.size = B) (hL : Lay w gb mb base gx nb ab B Ds)
    (hst : Rst w W0 gb mb base B (B + 3) gx nb ab Ds 2 0 C1 P1 []) (hsb : Blk W0 sb 9 #[.string T]) (hs1 : sb < B) (hs2 : gx < sb) (hs3 : sb ≠ ab) (hs4 : sb ≠ nb)
    (u0 u3 u5 u6 u7 u8 u9 u10 u11 u12 u13 u14 u16 u17 u18 u19 u20 u21 u22 u23 u24 u25 u26 u27 u28 u29 u30 u31 u32 u33 u34 u35 u36 u37 u38 u39 u40 u41 : Value) (ds : List Deferred) (Q : Exit → Act → World → Prop)
    (hQ : ∀ W, Rst w W gb mb base B (B + 3) gx nb ab Ds 2 (endP 0 (esOf T)) C1 P1 (sgE 0 (esOf T)) → W.heap[B]? = some (.deferred (some [])) → (Code.exit 2).wpIn F n Tryd.prog Q { tmps := #[u0, .pointer (some ⟨gx, 0, none⟩), .pointer (some ⟨nb, 0, none⟩), u3, .pointer (some ⟨ab, 0, none⟩), u5, u6, u7, u8, u9, u10, u11, u12, u13, u14, .func (.func 47) #[] #[.pointer (some ⟨sb, 0, none⟩)], u16, u17, u18, u19, u20, u21, u22, u23, u24, u25, u26, u27, u28, u29, u30, u31, u32, u33, u34, u35, u36, u37, u38, u39, u40, u41], defers := { target := .collected B, args := #[] } :: ds } W) :
    rUcdBuild1.wpIn F n Tryd.prog Q { tmps := #[u0, .pointer (some ⟨gx, 0, none⟩), .pointer (some ⟨nb, 0, none⟩), u3, .pointer (some ⟨ab, 0, none⟩), u5, u6, u7, u8, u9, u10, u11, u12, u13, u14, .func (.func 47) #[] #[.pointer (some ⟨sb, 0, none⟩)], u16, u17, u18, u19, u20, u21, u22, u23, u24, u25, u26, u27, u28, u29, u30, u31, u32, u33, u34, u35, u36, u37, u38, u39, u40, u41], defers := ds } W0 := by
  have h1 : 1 ≤ n := by omega
  have hro := hF.round
  have hd := hF.depth
  have hdd : ∀ k : Nat, (F.depth.isSome = true → 1 ≤ k) := fun k h => by rw [hd] at h; cases h
  have hf2 := hF.fn 47
  have hf3 := hF.fn 29
  obtain ⟨l1, l2, l3, l4, l5, l6, l7, l8, l9⟩ := hL
  have HQ := Lib.hid hQ
  clear hQ
  unfold rUcdBuild1
  refine wpIn_rangeFuncE hro h1 (gf := 47) (lb := #[.pointer (some ⟨sb, 0, none⟩)]) (by simp [Act.eval]) hf2 (enters_of Tryd.func47 (by kernel_rfl) rfl)
    (encs := fun x : Ent => #[entV x]) (L := [sb]) (S := fun ys => ys = ents (bytesOf T)) (Sp := fun pre => pre <+: ents (bytesOf T)) (Ei := isEnt) B hB (by simp; omega)
    (fun W1 hs hb => entries_seq F hF (n - 1) sb B T hT.size hT.ok W1 hs (hsb.below hb (by omega)) hs1) (fun _ => rfl)
    (fun (pre : List Ent) W => (∀ e ∈ pre, e.isZ = false) ∧ (Rst w W gb mb base B (B + 3) gx nb ab Ds 2 (endP 0 pre) C1 P1 (sgE 0 pre)) ∧ Blk W sb 9 #[.string T])
    (fun c (pre : List Ent) W => c = .exit 2 ∧ ∃ q, pre = q ++ [zeroE] ∧ Rst w W gb mb base B (B + 3) gx nb ab Ds 2 (endP 0 q) C1 P1 (sgE 0 q))
    (fun r hr1 hr2 s A C h hb => ⟨h.1, h.2.1.but ⟨l1, l2, l3, l4, l5, l6, l7, l8, l9⟩ hb hr1 hr2, hb.blk h.2.2 (by omega)⟩)
    (fun c r hr1 hr2 s A C h hb => by
      obtain ⟨hc, q, hq, h⟩ := h
      exact ⟨hc, q, hq, h.but ⟨l1, l2, l3, l4, l5, l6, l7, l8, l9⟩ hb hr1 hr2⟩)
    ⟨by simp, hst, hsb⟩
    (fun x a' W => ∃ Bx, B + 3 ≤ Bx ∧ Blk W Bx 60 (entC x) ∧ a' = { tmps := #[u0, .pointer (some ⟨gx, 0, none⟩), .pointer (some ⟨nb, 0, none⟩), u3, .pointer (some ⟨ab, 0, none⟩), .pointer (some ⟨Bx, 0, none⟩), u6, u7, u8, u9, u10, u11, u12, u13, u14, .func (.func 47) #[] #[.pointer (some ⟨sb, 0, none⟩)], entV x, u17, u18, u19, u20, u21, u22, u23, u24, u25, u26, u27, u28, u29, u30, u31, u32, u33, u34, u35, u36, u37, u38, u39, u40, u41], defers := [] })
    (fun x a' r hr1 hr2 s A C h hb => by
      obtain ⟨Bx, hx1, hx2, hx3⟩ := h
      exact ⟨Bx, hx1, hb.blk hx2 (by omega), hx3⟩) ?assign ?body ?done ?stop
  case assign =>
    rintro l pre ⟨n0, n1, n2, li, o⟩ W K ⟨hz, hR, hsw⟩ hsz hK
    unfold entV entC
    gi_wp2
    refine hK _ _ ?_ ⟨hz, hR.grow ⟨l1, l2, l3, l4, l5, l6, l7, l8, l9⟩ ((Below.refl _ W).alloc (Nat.le_refl _) _), hsw.alloc _⟩ ⟨W.heap.size, hsz, Blk.new W 60 _, rfl⟩
    intro i hi
    refine Below.heap_alloc W _ i ?_
    simp only [List.mem_cons, List.not_mem_nil, or_false] at hi
    omega
  case body =>
    rintro l pre ⟨n0, n1, n2, li, o⟩ a' W ⟨hz, hR, hsw⟩ ⟨Bx, hBx, hE, rfl⟩ hp ho0 ⟨lr, ho1⟩ ⟨oe, ho2, ⟨ecs, rfl⟩⟩
    have HP := Lib.hid hp
    have HR := Lib.hid hR
    have hszW : B + 3 ≤ W.heap.size := by have := (Array.getElem?_eq_some_iff.1 ho2).1; omega
    have HE := Lib.hid hE
    have HZ := Lib.hid hz
    have c0 : W.cell? ⟨Bx, 0, none⟩ = some (.int .i32 n0) := hE.cell 0
    have c1 : W.cell? ⟨Bx, 1, none⟩ = some (.int .i32 n1) := hE.cell 1
    have c2 : W.cell? ⟨Bx, 2, none⟩ = some (.int .i32 n2) := hE.cell 2
    have c3 : W.cell? ⟨Bx, 3, none⟩ = some (.int .i64 li) := hE.cell 3
    have c4 : W.cell? ⟨Bx, 4, none⟩ = some (.bool o) := hE.cell 4
    have cn : W.cell? ⟨nb, 0, none⟩ = some (.int .i64 2) := hR.nu.cell 0
    have cg : W.cell? ⟨gx, 0, none⟩ = some (.pointer (some ⟨gb, 0, none⟩)) := hR.gx.cell 0
    have ca : W.cell? ⟨ab, 0, none⟩ = some (.int .i32 (endP 0 pre)) := hR.at0.cell 0
    have HSW := Lib.hid hsw
    have H0 := Lib.hid ho0
    have H1 := Lib.hid ho1
    have H2 := Lib.hid ho2
    clear hp hR hE hz hsw ho0 ho1 ho2
    have hmem : (⟨n0, n1, n2, li, o⟩ : Ent).isZ = true ∨ pre ++ [⟨n0, n1, n2, li, o⟩] <+: esOf T := by
      cases hzz : (⟨n0, n1, n2, li, o⟩ : Ent).isZ
      · exact .inr (hT.pre HP.out hzz)
      · exact .inl rfl
    by_cases hzz : (⟨n0, n1, n2, li, o⟩ : Ent).isZ = true
    · have hz2 := isZ_iff.1 hzz
      unfold zeroE at hz2
      injection hz2 with e0 e1 e2 e3 e4
      subst e0 e1 e2 e3 e4
      clear hzz hmem
      unfold entV entC
      gi_wp2_with (refine wpListIn_ent _ _ rfl rfl zeroE (by decide) (by decide) (by decide) rfl rfl ?_; show wpListIn _ _ _ _ _ _ (Act.put _ _ (.bool true)) _)
      exact ⟨Kept.refl _ _, rfl, pre, rfl, HR.out⟩
    · have hzf : (⟨n0, n1, n2, li, o⟩ : Ent).isZ = false := by simpa using hzz
      have hpre := hmem.resolve_left hzz
      have hpre0 : pre <+: esOf T := (List.prefix_append _ _).trans hpre
      have hsm := hT.small _ (hpre.subset (by simp : (⟨n0, n1, n2, li, o⟩ : Ent) ∈ pre ++ [⟨n0, n1, n2, li, o⟩]))
      dsimp only at hsm
      have hle := endP_pre hpre 0
      rw [endP_snoc] at hle
      have hln := sgE_len pre 0
      have hle2 := hpre0.length_le
      have hle3 := hT.len
      dsimp only at hle
      have hRs := HR.out.be.size
      have hmet := single_any W gb mb base B (B + 3) C1 P1 (sgE 0 pre) (endP 0 pre) ⟨n0, n1, n2, li, o⟩ HR.out.g (by dsimp only; omega) hsm.1 (by omega) (by omega)
      have HMET := Lib.hid hmet
      have hb0 : n0 ≤ 100000000 := by omega
      have HS : Hid (n1 ≤ 100000000 ∧ n2 ≤ 100000000) := Lib.hid hsm
      have HZF := Lib.hid hzf
      have HPRE := Lib.hid hpre
      clear hmet hmem hsm hzz hzf hpre hpre0
      generalize hA : (endP 0 pre) = A0 at *
      have HA := Lib.hid hA
      clear hA
      unfold entV entC
      gi_wp2_with (first
        | (refine wpListIn_ent _ _ rfl rfl ⟨n0, n1, n2, li, o⟩ hb0 HS.out.1 HS.out.2 rfl rfl ?_; rw [HZF.out])
        | ((try refine ⟨hdd _, ?_⟩); gi_at_call 29; refine (CallsIn.inRound l (hF.calls HMET.out)).mono ?_; rintro e W3 ⟨rfl, hG3, hF3⟩; obtain ⟨x1, x2, hR3⟩ := HR.out.next (a' := A0 + n0) ⟨l1, l2, l3, l4, l5, l6, l7, l8, l9⟩ hG3 hF3))
      have nr : ∀ (k : Nat) (ob : Obj), W.heap[k]? = some ob → k ≠ gb → k ≠ mb → k ≠ ab → notRow rowTs ob → (W3.setCell ⟨ab, 0, none⟩ (.int .i32 ((A0 + n0 : Nat) : Int))).heap[k]? = some ob := fun k ob hk h1 h2 h3 h4 =>
        (Below.heap_setCell W3 ⟨ab, 0, none⟩ _ k h3).trans (hF3.keep k ob hk (by simp [h1, h2]) (.inr h4))
      have e1 : (W3.setCell ⟨ab, 0, none⟩ (.int .i32 ((A0 + n0 : Nat) : Int))) = (W3.setCell ⟨ab, 0, none⟩ (.int .i32 ((A0 : Int) + n0))) := by congr 2
      rw [← e1]
      refine ⟨?_, ?_, ?_, ?_⟩
      · intro i hi
        simp only [List.mem_cons, List.not_mem_nil, or_false] at hi
        rcases hi with rfl | rfl | rfl | rfl
        · exact (nr i _ H0.out (by omega) (by omega) (by omega) (fun cs t m e => by cases e)).trans H0.out.symm
        · exact (nr _ _ H1.out (by omega) (by omega) (by omega) (fun cs t m e => by cases e)).trans H1.out.symm
        · exact (nr _ _ H2.out (by omega) (by omega) (by omega) (fun cs t m e => by cases e; decide)).trans H2.out.symm
        · exact (nr i _ HSW.out (by omega) (by omega) (by omega) (fun cs t m e => by cases e; decide)).trans (show W.heap[i]? = _ from HSW.out).symm
      · intro e he
        rcases List.mem_append.1 he with he | he
        · exact HZ.out e he
        · simp only [List.mem_cons, List.not_mem_nil, or_false] at he
          rw [he]; exact HZF.out
      · rw [sgE_snoc, endP_snoc]
        rw [HA.out]
        exact hR3
      · exact nr sb _ HSW.out (by omega) (by omega) (by omega) (fun cs t m e => by cases e; decide)
  case done =>
    rintro xs W rfl ⟨hz, _, _⟩ _
    have := hz zeroE (by rw [hT.ents]; simp)
    exact absurd this (by decide)
  case stop =>
    rintro c pre W hp ⟨rfl, q, rfl, hR⟩ hK
    have hq := hT.all hp
    rw [hq] at hR
    exact HQ.out W hR hK
end Go.Proofs.YtdmcidljjfogjaaDoor

/- ucd.Build by its contract. -/
namespace Go.Proofs.YtdmcidljjfogjaaDoor
open Go.RowKit Go.Shelf
set_option linter.unusedVariables false
set_option linter.unusedSimpArgs false
attribute [local go_sem] Oper.semAt_some

theorem ix_txt0 (A B C : ByteArray) (w : World) : (Instr.index 54 (.agg #[.string A, .string B, .string C]) (.int .i64 0)).run Tryd.prog w = .ok (.string A) w := by kernel_rfl
theorem ix_txt1 (A B C : ByteArray) (w : World) : (Instr.index 54 (.agg #[.string A, .string B, .string C]) (.int .i64 1)).run Tryd.prog w = .ok (.string B) w := by kernel_rfl
theorem ix_txt2 (A B C : ByteArray) (w : World) : (Instr.index 54 (.agg #[.string A, .string B, .string C]) (.int .i64 2)).run Tryd.prog w = .ok (.string C) w := by kernel_rfl

/-- nothing is gathered yet -/
def gzero (N : Nat) : Array Value := #[.slice none 0 0, .slice none 0 0, .slice none 0 0, .slice none 0 0, .slice none 0 0, .map (some N), .int .i64 0]
abbrev gW (w : World) : World := ((w.alloc (.map #[] 0)).alloc (.cells (gzero w.heap.size) 53)).alloc (.cells #[.pointer (some ⟨w.heap.size + 1, 0, none⟩)] 48)
theorem GAt.start (w : World) (lo up : Nat) : GAt (gW w) (w.heap.size + 1) w.heap.size (w.heap.size + 1 + 1 + 1) lo up [] [] [] := by
  refine ⟨.slice none 0 0, .slice none 0 0, .slice none 0 0, .slice none 0 0, .slice none 0 0, ⟨?_, ?_, ?_, by omega, by simp, ?_⟩, ?_, by omega, by omega⟩
  · have := (Blk.new (w.alloc (.map #[] 0)) 53 (gzero w.heap.size)).alloc (.cells #[.pointer (some ⟨w.heap.size + 1, 0, none⟩)] 48)
    rw [World.size_alloc] at this
    exact this
  · intro i r hi
    match i, hi with
    | 0, hi => simp at hi; subst hi; exact World.ownsRow_nil _ _ _ _
    | 1, hi => simp at hi; subst hi; exact World.ownsRow_nil _ _ _ _
    | 2, hi => simp at hi; subst hi; exact World.ownsRow_nil _ _ _ _
    | 3, hi => simp at hi; subst hi; exact World.ownsRow_nil _ _ _ _
    | 4, hi => simp at hi; subst hi; exact World.ownsRow_nil _ _ _ _
    | n + 5, hi => simp at hi
  · intro i j r s hij hi hj k hk
    match i, hi with
    | 0, hi => simp at hi; subst hi; cases hk
    | 1, hi => simp at hi; subst hi; cases hk
    | 2, hi => simp at hi; subst hi; cases hk
    | 3, hi => simp at hi; subst hi; cases hk
    | 4, hi => simp at hi; subst hi; cases hk
    | n + 5, hi => simp at hi
  · intro i r k hi hk
    match i, hi with
    | 0, hi => simp at hi; subst hi; cases hk
    | 1, hi => simp at hi; subst hi; cases hk
    | 2, hi => simp at hi; subst hi; cases hk
    | 3, hi => simp at hi; subst hi; cases hk
    | 4, hi => simp at hi; subst hi; cases hk
    | n + 5, hi => simp at hi
  · exact ((MapIs.made w (arrV .i32) (Value.int .i32) DD (fun _ => (0 : Int))).alloc _).alloc _

abbrev rW (W : World) (k : Int) (T : ByteArray) : World := ((W.alloc (.cells #[.int .i64 k] 3)).alloc (.cells #[.int .i32 0] 21)).alloc (.cells #[.string T] 9)
/-- a loop begins -/
theorem rst_begin {w W : World} {gb mb base lo up gx : Nat} {Ds : List Nat} {C : List (Nat × Nat)} {P : List Pr5} {S : List (Nat × Nat)} (k : Int) (T : ByteArray) (hg : GAt W gb mb base lo up C P S) (hx : Blk W gx 48 #[.pointer (some ⟨gb, 0, none⟩)]) (hb : Below w.heap.size w W) (hd : ∀ D ∈ Ds, W.heap[D]? = some (.deferred (some []))) :
    Rst w (rW W k T) gb mb base (W.heap.size + 1 + 1 + 1) (W.heap.size + 1 + 1 + 1 + 3) gx W.heap.size (W.heap.size + 1) Ds k 0 C P S ∧ Blk (rW W k T) (W.heap.size + 1 + 1) 9 #[.string T] ∧ (rW W k T).heap.size = W.heap.size + 1 + 1 + 1 := by
  have hsz : (rW W k T).heap.size = W.heap.size + 1 + 1 + 1 := by simp
  have b1 := Blk.new W 3 #[.int .i64 k]
  have b2 := Blk.new (W.alloc (.cells #[.int .i64 k] 3)) 21 #[.int .i32 0]
  have b3 := Blk.new ((W.alloc (.cells #[.int .i64 k] 3)).alloc (.cells #[.int .i32 0] 21)) 9 #[.string T]
  simp only [World.size_alloc] at b2 b3
  have hgr : Below W.heap.size W (rW W k T) := (((Below.refl _ W).alloc (Nat.le_refl _) _).alloc (by simp) _).alloc (by simp; omega) _
  exact ⟨⟨(hg.grow hgr).renew (by rw [hsz]; exact Nat.le_refl _), b2.alloc _, (b1.alloc _).alloc _, hx.below hgr hx.lt, hb.trans (hgr.mono hb.size), fun D hD => (hgr.block D (Array.getElem?_eq_some_iff.1 (hd D hD)).1).trans (hd D hD)⟩, b3, hsz⟩

/-- the turn of a block for deferred calls -/
theorem cell_put {W : World} {D : Nat} {x : Option (List Deferred)} (o : Obj) (hD : W.heap[D]? = some (.deferred x)) {p : Addr} {v : Value} (h : W.cell? p = some v) : (W.putObj D o).cell? p = some v := by
  refine (World.cell?_of_block (World.putObj_heap_other (fun e => ?_))).trans h
  unfold World.cell? at h
  rw [e, hD] at h
  cases h
theorem blk_put {W : World} {D : Nat} {x : Option (List Deferred)} (o : Obj) (hD : W.heap[D]? = some (.deferred x)) {g : Nat} {t : TypeId} {cs : Array Value} (h : Blk W g t cs) : Blk (W.putObj D o) g t cs := by
  refine (World.putObj_heap_other (fun e => ?_)).trans h
  unfold Blk at h
  rw [e, hD] at h
  cases h
theorem TabAt.put {W : World} {D : Nat} {x : Option (List Deferred)} (o : Obj) (hD : W.heap[D]? = some (.deferred x)) {B g n : Nat} {f : Int → Int} (h : TabAt W B g f n) : TabAt (W.putObj D o) B g f n := by
  obtain ⟨hg, a, cap, N, ha, h1, h2, h3, h4⟩ := h
  refine ⟨hg, a, cap, N, ha, h1, h2, cell_put o hD h3, fun i hi => ?_⟩
  obtain ⟨k1, k2, k3⟩ := h4 i hi
  exact ⟨k1, cell_put o hD k2, fun j hj => cell_put o hD (k3 j hj)⟩
theorem TblAt.put {W : World} {D : Nat} {x : Option (List Deferred)} (o : Obj) (hD : W.heap[D]? = some (.deferred x)) {B g : Nat} {C : List (Nat × Nat)} {P : List Pr5} {S : List (Nat × Nat)} (h : TblAt W B g C P S) : TblAt (W.putObj D o) B g C P S := by
  obtain ⟨g0, g1, g2, g3, mb, A4, cap4, k0, k1, k2, k3, h⟩ := h
  refine ⟨g0, g1, g2, g3, mb, A4, cap4, k0, k1, k2, k3, h.low, h.mlow, blk_put o hD h.blk, h.cap, h.t0.put o hD, h.t1.put o hD, h.t2.put o hD, h.t3.put o hD, ?_, ?_⟩
  · rcases h.tw with h | ⟨b, e, hl, hc⟩
    · exact .inl h
    · exact .inr ⟨b, e, hl, fun j p hj => ⟨cell_put o hD (hc j p hj).1, cell_put o hD (hc j p hj).2⟩⟩
  · refine h.map.block (World.putObj_heap_other (fun e => ?_))
    obtain ⟨es, clock, hb, _⟩ := h.map
    rw [e, hD] at hb
    cases hb

set_option maxRecDepth 100000 in
set_option maxHeartbeats 8000000 in
theorem ubuild_in (F : Fence) (hF : Wide F) (n : Nat) (hn : 3 ≤ n) (H1 : Txt tUcdBuild1) (H2 : Txt tUcdBuild2) (H3 : Txt tUcdBuild3) (b1 : endC 0 (esOf tUcdBuild1) ≤ 100000000) (b2 : endP 0 (esOf tUcdBuild2) ≤ 100000000) (b3 : endP 0 (esOf tUcdBuild3) ≤ 100000000)
    (f0 : FitE (castE (clsE 0 (esOf tUcdBuild1)))) (f1 : FitE (castE (prI 0 (prE 0 (esOf tUcdBuild2))))) (f2 : FitE (castE (sgE 0 (esOf tUcdBuild3)))) (f3 : FitE (castE (scL (prE 0 (esOf tUcdBuild2))))) (w : World) :
    CallsIn F n Tryd.prog 8 #[] w (TPost w (clsE 0 (esOf tUcdBuild1)) (prE 0 (esOf tUcdBuild2)) (sgE 0 (esOf tUcdBuild3))) := by
  have h1 : 1 ≤ n := by omega
  have hro := hF.round
  have hd := hF.depth
  have hdd : ∀ k : Nat, (F.depth.isSome = true → 1 ≤ k) := fun k h => by rw [hd] at h; cases h
  have hf1 := hF.fn 26
  have hf2 := hF.fn 47
  have hf6 := hF.fn 30
  have hmm := @run_makeMap Tryd.prog
  have hi0 := ix_txt0
  have hi1 := ix_txt1
  have hi2 := ix_txt2
  refine callsIn_of_wp_marks Tryd.func8 bodyUcdBuild (hF.fn _) ?_ hro
  simp only [Tryd.ntmps8, List.size_toArray, List.length_cons, List.length_nil, Nat.reduceAdd, Nat.reduceSub, Array.replicate_succ, Array.replicate_zero, List.push_toArray, List.append_toArray, List.nil_append, List.cons_append]
  unfold cUcdBuild
  have FITS := Lib.hid (And.intro f0 (And.intro f1 (And.intro f2 f3)))
  clear f0 f1 f2 f3
  generalize tUcdBuild1 = T1 at *
  generalize tUcdBuild2 = T2 at *
  generalize tUcdBuild3 = T3 at *
  gi_wp2
  refine wpIn_loop_rounds 4 ?_
  rw [roundsIn_succ]
  gi_wp2
  refine hF.wp ?_
  refine wp_scope_straight ?_
  refine hF.out (n := n) ?_
  gi_wp2
  refine wpIn_label ?_
  gi_wp2_with (gi_at_call 26; refine (entries_in F hF (n - 1) _ _).mono ?_; rintro e w' ⟨rfl, rfl⟩)
  obtain ⟨hst, hsb, hsz⟩ := rst_begin (w := w) (Ds := []) 0 T1 (GAt.start w 0 0) (Blk.new ((w.alloc (.map #[] 0)).alloc (.cells (gzero w.heap.size) 53)) 48 #[.pointer (some ⟨w.heap.size + 1, 0, none⟩)]) ((((Below.refl _ w).alloc (Nat.le_refl _) _).alloc (by simp) _).alloc (by simp; omega) _) (by simp)
  simp only [World.size_alloc] at hst hsb hsz
  refine rf0_in F hF n hn T1 H1 b1 w _ (w.heap.size + 1) w.heap.size (w.heap.size + 1 + 1 + 1) (w.heap.size + 1 + 1) (w.heap.size + 1 + 1 + 1) (w.heap.size + 1 + 1 + 1 + 1) (w.heap.size + 1 + 1 + 1 + 1 + 1) (w.heap.size + 1 + 1 + 1 + 1 + 1 + 1) [] (by simp) ⟨by omega, by omega, by omega, by omega, by omega, by omega, by omega, by omega, by simp⟩ hst hsb (by omega) (by omega) (by omega) (by omega) _ _ _ _ _ _ _ _ _ _ _ _ _ _ _ _ _ _ _ _ _ _ _ _ _ _ _ _ _ _ _ _ _ _ _ _ _ _ _ _ ?_
  intro Wa hRa hKa
  gi_wp2
  change Exit.inBlock 1 _ Exit.normal _ _
  gi_wp2
  rw [roundsIn_succ]
  gi_wp2
  refine hF.wp ?_
  refine wp_scope_straight ?_
  refine hF.out (n := n) ?_
  gi_wp2
  refine wpIn_label ?_
  gi_wp2_with (gi_at_call 26; refine (entries_in F hF (n - 1) _ _).mono ?_; rintro e w' ⟨rfl, rfl⟩)
  have hsa := (Array.getElem?_eq_some_iff.1 hKa).1
  obtain ⟨hst1, hsb1, hsz1⟩ := rst_begin (Ds := [w.heap.size + 1 + 1 + 1 + 1 + 1 + 1]) 1 T2 hRa.g hRa.gx hRa.be (by intro D hD; simp only [List.mem_cons, List.not_mem_nil, or_false] at hD; rw [hD]; exact hKa)
  clear hst hsb
  refine rf1_in F hF n hn T2 H2 b2 (clsE 0 (esOf T1)) w _ (w.heap.size + 1) w.heap.size (w.heap.size + 1 + 1 + 1) (w.heap.size + 1 + 1) Wa.heap.size (Wa.heap.size + 1) (Wa.heap.size + 1 + 1) (Wa.heap.size + 1 + 1 + 1) [w.heap.size + 1 + 1 + 1 + 1 + 1 + 1] hsz1 ⟨by omega, by omega, by omega, by omega, by omega, by omega, by omega, by omega, by intro D hD; simp only [List.mem_cons, List.not_mem_nil, or_false] at hD; omega⟩ hst1 hsb1 (by omega) (by omega) (by omega) (by omega) _ _ _ _ _ _ _ _ _ _ _ _ _ _ _ _ _ _ _ _ _ _ _ _ _ _ _ _ _ _ _ _ _ _ _ _ _ _ _ _ ?_
  intro Wb hRb hKb
  gi_wp2
  change Exit.inBlock 1 _ Exit.normal _ _
  gi_wp2
  rw [roundsIn_succ]
  gi_wp2
  refine hF.wp ?_
  refine wp_scope_straight ?_
  refine hF.out (n := n) ?_
  gi_wp2
  refine wpIn_label ?_
  gi_wp2_with (gi_at_call 26; refine (entries_in F hF (n - 1) _ _).mono ?_; rintro e w' ⟨rfl, rfl⟩)
  have hsc := (Array.getElem?_eq_some_iff.1 hKb).1
  obtain ⟨hst2, hsb2, hsz2⟩ := rst_begin (Ds := [Wa.heap.size + 1 + 1 + 1, w.heap.size + 1 + 1 + 1 + 1 + 1 + 1]) 2 T3 hRb.g hRb.gx hRb.be (by
    intro D hD
    simp only [List.mem_cons, List.not_mem_nil, or_false] at hD
    rcases hD with rfl | rfl
    · exact hKb
    · exact hRb.ds _ (by simp))
  clear hst1 hsb1 hRa
  refine rf2_in F hF n hn T3 H3 b3 (clsE 0 (esOf T1)) (prE 0 (esOf T2)) w _ (w.heap.size + 1) w.heap.size (w.heap.size + 1 + 1 + 1) (w.heap.size + 1 + 1) Wb.heap.size (Wb.heap.size + 1) (Wb.heap.size + 1 + 1) (Wb.heap.size + 1 + 1 + 1) [Wa.heap.size + 1 + 1 + 1, w.heap.size + 1 + 1 + 1 + 1 + 1 + 1] hsz2 ⟨by omega, by omega, by omega, by omega, by omega, by omega, by omega, by omega, by intro D hD; simp only [List.mem_cons, List.not_mem_nil, or_false] at hD; omega⟩ hst2 hsb2 (by omega) (by omega) (by omega) (by omega) _ _ _ _ _ _ _ _ _ _ _ _ _ _ _ _ _ _ _ _ _ _ _ _ _ _ _ _ _ _ _ _ _ _ _ _ _ _ _ _ ?_
  intro Wc hRc hKc
  clear hst2 hsb2 hRb
  have hK0 : Wc.heap[w.heap.size + 1 + 1 + 1 + 1 + 1 + 1]? = some (.deferred (some [])) := hRc.ds _ (by simp)
  have hK1 : Wc.heap[Wa.heap.size + 1 + 1 + 1]? = some (.deferred (some [])) := hRc.ds _ (by simp)
  have cg : Wc.cell? ⟨w.heap.size + 1 + 1, 0, none⟩ = some (.pointer (some ⟨w.heap.size + 1, 0, none⟩)) := hRc.gx.cell 0
  have l1 := clsE_len (esOf T1) 0
  have l2 := prE_len (esOf T2) 0
  have l3 := sgE_len (esOf T3) 0
  have l4 := H2.len
  have l5 := H3.len
  obtain ⟨f0, f1, f2, f3⟩ := FITS.out
  have hT := Lib.hid (tables_any Wc (w.heap.size + 1) w.heap.size (w.heap.size + 1 + 1 + 1) _ _ _ _ _ hRc.g (by omega) (by omega) (by omega) f0 f1 f2 f3)
  have HBE := Lib.hid hRc.be
  have HK0 := Lib.hid hK0
  have HK1 := Lib.hid hK1
  have HK2 := Lib.hid hKc
  have hs3 := (Array.getElem?_eq_some_iff.1 hKc).1
  have hs4 := (Array.getElem?_eq_some_iff.1 hK0).1
  have hs5 := (Array.getElem?_eq_some_iff.1 hK1).1
  clear hRc hK0 hK1 hKc hKa hKb f0 f1 f2 f3
  gi_wp2
  change Exit.inBlock 1 _ Exit.normal _ _
  gi_wp2
  rw [roundsIn_succ]
  gi_wp2_with ((try refine ⟨hdd _, ?_⟩); gi_at_call 30; refine (hF.calls hT.out).mono ?_; rintro e Wd ⟨g, rfl, htb, hbd⟩)
  have hs6 := hbd.size
  have k2 : Wd.heap[Wb.heap.size + 1 + 1 + 1]? = some (.deferred (some [])) := (hbd.block _ hs3).trans HK2.out
  have k1 : Wd.heap[Wa.heap.size + 1 + 1 + 1]? = some (.deferred (some [])) := (hbd.block _ hs5).trans HK1.out
  have k0 : Wd.heap[w.heap.size + 1 + 1 + 1 + 1 + 1 + 1]? = some (.deferred (some [])) := (hbd.block _ hs4).trans HK0.out
  have k1' : (Wd.putObj (Wb.heap.size + 1 + 1 + 1) (.deferred none)).heap[Wa.heap.size + 1 + 1 + 1]? = some (.deferred (some [])) := (World.putObj_heap_other (by omega)).trans k1
  have k0' : (Wd.putObj (Wb.heap.size + 1 + 1 + 1) (.deferred none)).heap[w.heap.size + 1 + 1 + 1 + 1 + 1 + 1]? = some (.deferred (some [])) := (World.putObj_heap_other (by omega)).trans k0
  have k0'' : ((Wd.putObj (Wb.heap.size + 1 + 1 + 1) (.deferred none)).putObj (Wa.heap.size + 1 + 1 + 1) (.deferred none)).heap[w.heap.size + 1 + 1 + 1 + 1 + 1 + 1]? = some (.deferred (some [])) := (World.putObj_heap_other (by omega)).trans k0'
  refine ⟨by simp, .inl ⟨_, _, rfl, run_takeDeferred k2, ?_⟩⟩
  refine ⟨by simp, .inl ⟨_, _, rfl, run_takeDeferred k1', ?_⟩⟩
  refine ⟨by simp, .inl ⟨_, _, rfl, run_takeDeferred k0'', ?_⟩⟩
  refine ⟨_, results_tmp rfl _ _ _, g, rfl, ?_, ?_⟩
  · have := ((htb.put (.deferred none) k2).put (.deferred none) k1').put (.deferred none) k0''
    simpa using this
  · have hb1 := HBE.out.trans (hbd.mono HBE.out.size)
    have s1 := hb1.size
    exact ((hb1.trans ((but_put Wd _ _).below (by omega) s1)).trans ((but_put _ _ _).below (by omega) (by simpa using s1))).trans ((but_put _ _ _).below (by omega) (by simpa using s1))
end Go.Proofs.YtdmcidljjfogjaaDoor
