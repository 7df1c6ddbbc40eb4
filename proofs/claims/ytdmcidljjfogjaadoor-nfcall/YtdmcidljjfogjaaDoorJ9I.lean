/- Joined of: U5Rows, U5RB, U5RBW, U5K2, U5Doc, U5DocS. -/
import Derived.Test.YtdmcidljjfogjaaDoorJ9B
import Derived.Test.YtdmcidljjfogjaaDoorJ9A
import Derived.Test.YtdmcidljjfogjaaDoorJ9F
import Derived.Test.YtdmcidljjfogjaaDoorJ9C
import Derived.StillTailTactics
/- Printed by gen_u5w.py. The document's digit and rows (layer 5) by contracts. -/
namespace Go.Proofs.YtdmcidljjfogjaaDoor
set_option maxRecDepth 100000
open Go.ChangeShapes Go.WideShapes Go.ChangeAt Go.RowKit
set_option linter.unusedVariables false
set_option linter.unusedSimpArgs false

theorem rdigit_yes (b : Nat) (w : World) (h : isDig b = true) : Calls Tryd.prog 50 #[.int .u8 b] w fun e w' => e = .returned (.int .i32 (dgt b)) ∧ w = w' := by
  rcases isDig_iff.1 h with ⟨h1, h2⟩ | ⟨h1, h2⟩
  · have e : ((dgt b : Nat) : Int) = (b : Int) - 48 := by rw [dgt_lo h2]; omega
    rw [e]; clear e h
    have g1 : (48 : Int) ≤ b := by omega
    have g2 : (b : Int) ≤ 57 := by omega
    clear h1 h2
    go_enter Tryd.func50, Tryd.ntmps50
    go_wp2
    go_ret
    exact ⟨rfl, rfl⟩
  · have e : ((dgt b : Nat) : Int) = (b : Int) - 97 + 10 := by rw [dgt_hi h1]; omega
    rw [e]; clear e h
    have g1 : (97 : Int) ≤ b := by omega
    have g2 : (b : Int) ≤ 102 := by omega
    have g3 : (48 : Int) ≤ b := by omega
    have g4 : ¬ (b : Int) ≤ 57 := by omega
    clear h1 h2
    go_enter Tryd.func50, Tryd.ntmps50
    go_wp2
    go_ret
    exact ⟨rfl, rfl⟩
theorem rdigit_no (b : Nat) (w : World) (h : isDig b = false) : Calls Tryd.prog 50 #[.int .u8 b] w fun e w' => e = .returned (.int .i32 (-1)) ∧ w = w' := by
  have hn : ¬ ((48 ≤ b ∧ b ≤ 57) ∨ (97 ≤ b ∧ b ≤ 102)) := fun k => by rw [isDig_iff.2 k] at h; cases h
  by_cases a1 : (48 : Int) ≤ b <;> by_cases a2 : (b : Int) ≤ 57 <;> by_cases a3 : (97 : Int) ≤ b <;> by_cases a4 : (b : Int) ≤ 102 <;> (try (exfalso; omega))
  all_goals
    clear hn h
    go_enter Tryd.func50, Tryd.ntmps50
    go_wp2
    go_ret
    exact ⟨rfl, rfl⟩

/-- append onto a row of the call's own, in a list of operations -/
theorem wpList_appO {P : Program} {ops : Array Oper} {rest : List Oper} {Q : Exit → Act → World → Prop} {o : Oper} {a : Act} {w : World} (hgd : o.guard = none) (s x : Operand) (t : TypeId)
    (ho : o.op = .call { callee := .builtin .append, args := #[s, x], argTypes := #[t, t] })
    (base : Nat) (e : TypeId) (z : Value) (size bytes : Nat) (ht : P.underlying t = some (.slice e)) (hi : (P.info? e).map (fun i => (i.zero, i.size, i.bytes)) = some (some z, size, bytes)) (hzs : z.cells.size = size) (hsz : 0 < size)
    (v : Value) (n : Nat) (xs : List Value) (hs : a.eval s = v) (hown : w.ownsRow base e size v n xs)
    (ad : Addr) (m c : Nat) (news : List Value) (hx : a.eval x = .slice (some ad) m c) (hl : news.length = m * size) (hnews : ∀ j u, news[j]? = some u → w.cell? (ad.add j) = some u) (h1 : ∀ u ∈ news, u.oneCell' = true)
    (h63 : n + m ≤ maxLen) (hbytes : (n + m) * bytes ≤ 140737488355328) (hbase : base ≤ w.heap.size)
    (h : ∀ v' w', w'.ownsRow base e size v' (n + m) (xs ++ news) → w.grownBy w' v.ownBlock → (v'.ownBlock = v.ownBlock ∨ v'.ownBlock = some w.heap.size) → wpList P ops Q rest (a.put o.dst v') w') : wpList P ops Q (o :: rest) a w :=
  wpList_plain hgd fun K hK => wpO_append s x t ho base e z size bytes ht hi hzs hsz v n xs hs hown ad m c news hx hl hnews h1 h63 hbytes hbase fun v' w' h2 h3 h4 => hK _ _ (h v' w' h2 h3 h4)

/-- a slice that is the row r, and will not be turned -/
def Lain (W : World) (N : Nat) (av : Option Nat) (v : Value) (r : List Int) : Prop :=
  ∃ b c, v = .slice (some ⟨b, 0, none⟩) r.length c ∧ r.length ≤ c ∧ c ≤ maxLen ∧ N ≤ b ∧ some b ≠ av ∧ ∃ cs : Array Value, Blk W b 21 cs ∧ ∀ (j : Nat) (x : Int), r[j]? = some x → cs[j]? = some (Value.int .i32 x)
structure RowsAt (w wr : World) (ov rv : Value) (R : List (List Int)) (row : List Int) : Prop where
  out : ∃ vs : List Value, wr.ownsRow w.heap.size 22 1 ov R.length vs ∧ ∀ (i : Nat) (v : Value) (r : List Int), vs[i]? = some v → R[i]? = some r → Lain wr w.heap.size rv.ownBlock v r
  row : wr.ownsRow w.heap.size 21 1 rv row.length (row.map (Value.int .i32))
  be : Below w.heap.size w wr
theorem own_type {W : World} {base e s n : Nat} {v : Value} {xs : List Value} (h : W.ownsRow base e s v n xs) {k : Nat} (hk : v.ownBlock = some k) : ∃ cs, W.heap[k]? = some (.cells cs e (0, 0)) := by
  rcases h.2 with ⟨e1, _⟩ | ⟨g, cap, cur, e1, _, hh, _⟩
  · rw [e1] at hk; cases hk
  · rw [e1] at hk
    obtain rfl : g = k := by simpa [Value.ownBlock] using hk
    exact ⟨_, hh⟩
theorem own_types {W : World} {base e e' s s' n n' : Nat} {v v' : Value} {xs xs' : List Value} (h : W.ownsRow base e s v n xs) (h' : W.ownsRow base e' s' v' n' xs') (he : e ≠ e') : v.ownBlock = none ∨ v.ownBlock ≠ v'.ownBlock := by
  cases hk : v.ownBlock with
  | none => exact .inl rfl
  | some k =>
    refine .inr fun e1 => ?_
    obtain ⟨cs, h1⟩ := own_type h hk
    obtain ⟨cs', h2⟩ := own_type h' e1.symm
    rw [h1] at h2
    injection h2 with h2
    injection h2 with _ h2
    exact he h2
section
variable {w wr w3 : World} {ov rv : Value} {R : List (List Int)} {row : List Int}
theorem rows_start (w : World) : RowsAt w w (.slice none 0 0) (.slice none 0 0) [] [] :=
  ⟨⟨[], World.ownsRow_nil _ _ _ _, fun i v r h => by simp at h⟩, World.ownsRow_nil _ _ _ _, Below.refl _ _⟩
/-- a number more in the row that is begun -/
theorem rows_num (h : RowsAt w wr ov rv R row) (o : Obj) {v3 : Value} {x : Int} (ho : w3.ownsRow w.heap.size 21 1 v3 (row.length + 1) (row.map (Value.int .i32) ++ [.int .i32 x])) (hg : (wr.alloc o).grownBy w3 rv.ownBlock) (hl : v3.ownBlock = rv.ownBlock ∨ v3.ownBlock = some (wr.alloc o).heap.size) :
    RowsAt w w3 ov v3 R (row ++ [x]) := by
  obtain ⟨vs, h1, h2⟩ := h.out
  have hs := h.be.size
  refine ⟨⟨vs, World.ownsRow.kept (h1.alloc o) hg (own_types h1 h.row (by decide)), fun i v r hv hr => ?_⟩, by simpa using ho, ?_⟩
  · obtain ⟨b, c, e1, e2, e3, e4, e5, cs, e6, e7⟩ := h2 i v r hv hr
    refine ⟨b, c, e1, e2, e3, e4, ?_, cs, (hg.block b (e6.alloc o).lt e5).trans (e6.alloc o), e7⟩
    rcases hl with hl | hl
    · rw [hl]; exact e5
    · rw [hl]
      have := e6.lt
      intro e; injection e with e; simp at e; omega
  · exact (h.be.alloc hs o).grown hg (by simp; omega) (fun k hk => (h.row.lt k hk).1)
/-- the row that is begun is laid down -/
theorem rows_lay (h : RowsAt w wr ov rv R row) (hne : row ≠ []) {v3 : Value} (ho : w3.ownsRow w.heap.size 22 1 v3 (R.length + 1) (Classical.choose h.out ++ [rv])) (hg : (wr.alloc (.cells #[rv] 22)).grownBy w3 ov.ownBlock) :
    RowsAt w w3 v3 (.slice none 0 0) (R ++ [row]) [] := by
  obtain ⟨h1, h2⟩ := Classical.choose_spec h.out
  generalize Classical.choose h.out = vs at *
  have hs := h.be.size
  have hvl : vs.length = R.length := by simpa using h1.1
  have keep : ∀ {b : Nat} {cs : Array Value}, Blk wr b 21 cs → Blk w3 b 21 cs := fun {b cs} hb => by
    refine (hg.block b (hb.alloc _).lt (fun e => ?_)).trans (hb.alloc _)
    obtain ⟨cs', hc⟩ := own_type h1 e.symm
    unfold Blk at hb
    rw [hb] at hc
    simp at hc
  refine ⟨⟨vs ++ [rv], by simpa using ho, fun i v r hv hr => ?_⟩, World.ownsRow_nil _ _ _ _, ?_⟩
  · by_cases hi : i < R.length
    · rw [List.getElem?_append_left (by omega)] at hv
      rw [List.getElem?_append_left hi] at hr
      obtain ⟨b, c, e1, e2, e3, e4, e5, cs, e6, e7⟩ := h2 i v r hv hr
      exact ⟨b, c, e1, e2, e3, e4, by simp [Value.ownBlock], cs, keep e6, e7⟩
    · rw [List.getElem?_append_right (by omega)] at hv
      rw [List.getElem?_append_right (by omega)] at hr
      have hi0 : i - R.length = 0 := by
        have := (List.getElem?_eq_some_iff.1 hr).1
        simp only [List.length_cons, List.length_nil] at this
        omega
      rw [hi0] at hr
      rw [hvl, hi0] at hv
      simp only [List.getElem?_cons_zero, Option.some.injEq] at hv hr
      subst hv hr
      rcases h.row.2 with ⟨e1, e2⟩ | ⟨g, cap, cur, hv, hb, hh, hnc, hm, hcs, ht⟩
      · exact absurd (List.length_eq_zero_iff.1 e2) hne
      · refine ⟨g, cap, hv, hnc, hm, hb, by simp [Value.ownBlock], cur, keep hh, fun j x hj => ?_⟩
        have hj' : (row.map (Value.int .i32))[j]? = some (.int .i32 x) := by simp [List.getElem?_map, hj]
        rw [← ht, List.getElem?_take] at hj'
        split at hj'
        · simpa using hj'
        · cases hj'
  · exact (h.be.alloc hs _).grown hg (by simp; omega) (fun k hk => (h1.lt k hk).1)
end

/-- rows in memory, below block B -/
def RowsIs (W : World) (B : Nat) (v : Value) (R : List (List Int)) : Prop :=
  ∃ A cap, v = .slice A R.length cap ∧ R.length ≤ cap ∧ cap ≤ maxLen ∧ (R = [] ∨ ∃ b, A = some ⟨b, 0, none⟩ ∧ b < B ∧ ∀ (i : Nat) (r : List Int), R[i]? = some r → ∃ bi ci, bi < B ∧ r.length ≤ ci ∧ ci ≤ maxLen ∧ W.cell? ⟨b, i, none⟩ = some (.slice (some ⟨bi, 0, none⟩) r.length ci) ∧ ∀ (j : Nat) (x : Int), r[j]? = some x → W.cell? ⟨bi, j, none⟩ = some (.int .i32 x))
theorem RowsIs.below {W W' : World} {B B' : Nat} {v : Value} {R : List (List Int)} (h : RowsIs W B v R) (hb : Below B' W W') (hB : B ≤ B') : RowsIs W' B v R := by
  obtain ⟨A, cap, e1, e2, e3, h⟩ := h
  refine ⟨A, cap, e1, e2, e3, h.imp id fun ⟨b, e4, e5, e6⟩ => ⟨b, e4, e5, fun i r hr => ?_⟩⟩
  obtain ⟨bi, ci, f1, f2, f3, f4, f5⟩ := e6 i r hr
  exact ⟨bi, ci, f1, f2, f3, (hb.cell (p := ⟨b, i, none⟩) (show b < B' by omega)).trans f4, fun j x hj => (hb.cell (p := ⟨bi, j, none⟩) (show bi < B' by omega)).trans (f5 j x hj)⟩
theorem RowsIs.more {W : World} {B B' : Nat} {v : Value} {R : List (List Int)} (h : RowsIs W B v R) (hB : B ≤ B') : RowsIs W B' v R := by
  obtain ⟨A, cap, e1, e2, e3, h⟩ := h
  refine ⟨A, cap, e1, e2, e3, h.imp id fun ⟨b, e4, e5, e6⟩ => ⟨b, e4, by omega, fun i r hr => ?_⟩⟩
  obtain ⟨bi, ci, f1, f2⟩ := e6 i r hr
  exact ⟨bi, ci, by omega, f2⟩
theorem rows_is {w wr : World} {ov rv : Value} {R : List (List Int)} {row : List Int} (h : RowsAt w wr ov rv R row) : RowsIs wr wr.heap.size ov R := by
  obtain ⟨vs, h1, h2⟩ := h.out
  have hvl : vs.length = R.length := by simpa using h1.1
  have hadd : ∀ (b k : Nat), (⟨b, 0, none⟩ : Addr).add k = ⟨b, k, none⟩ := fun b k => by unfold Addr.add; split <;> simp_all
  rcases h1.2 with ⟨e1, e2⟩ | ⟨g, cap, cur, hv, hb, hh, hnc, hm, hcs, ht⟩
  · exact ⟨none, 0, by rw [e1, e2], by omega, by simp [maxLen], .inl (List.length_eq_zero_iff.1 e2)⟩
  · refine ⟨_, cap, hv, hnc, hm, .inr ⟨g, rfl, (h1.lt g (by rw [hv]; rfl)).2, fun i r hr => ?_⟩⟩
    have hi : i < R.length := (List.getElem?_eq_some_iff.1 hr).1
    have hvi : vs[i]? = some vs[i] := List.getElem?_eq_getElem (by omega)
    obtain ⟨b, c, e1, e2, e3, e4, e5, cs, e6, e7⟩ := h2 i _ r hvi hr
    have hcell := h1.cells (g := g) (by rw [hv]; rfl) i _ hvi
    rw [hadd, e1] at hcell
    exact ⟨b, c, e6.lt, e2, e3, hcell, fun j x hj => (e6.cell j).trans (e7 j x hj)⟩
def RowsPost (w : World) (R : List (List Int)) (e : Ending) (w' : World) : Prop := ∃ v, e = .returned v ∧ RowsIs w' w'.heap.size v R ∧ Below w.heap.size w w'
theorem info_r5 : (Tryd.prog.info? 21).map (fun i => (i.zero, i.size, i.bytes)) = some (some (.int .i32 0), 1, 4) := by kernel_rfl
theorem info_s5 : (Tryd.prog.info? 22).map (fun i => (i.zero, i.size, i.bytes)) = some (some (.slice none 0 0), 1, 24) := by kernel_rfl

theorem rems_len : ∀ (p : List Nat) (s : RSt), (rems p s).length ≤ p.length
  | [], _ => Nat.le_refl _
  | b :: r, s => by
    have := rems_len r (rstep5 s b)
    show (bif !rdig b && rlays s b then rrow s b :: rems r (rstep5 s b) else rems r (rstep5 s b)).length ≤ r.length + 1
    cases (!rdig b && rlays s b)
    · simp only [cond_false]; omega
    · simp only [cond_true, List.length_cons]; omega
theorem rrow_len (s : RSt) (b : Nat) : (rrow s b).length ≤ s.row.length + 2 := by
  unfold rrow
  rw [List.length_append]
  cases s.i <;> cases Nat.beq b 33 <;> simp
theorem rcur_len : ∀ (p : List Nat) (s : RSt), (rcur p s).row.length ≤ s.row.length + 2 * p.length
  | [], s => by show s.row.length ≤ _; simp
  | b :: r, s => by
    have h1 := rcur_len r (rstep5 s b)
    have h2 : (rstep5 s b).row.length ≤ s.row.length + 2 := by
      unfold rstep5
      cases rdig b
      · simp only [cond_false]
        cases rlays s b
        · simpa using rrow_len s b
        · simp
      · simp
    show (rcur r (rstep5 s b)).row.length ≤ _
    simp only [List.length_cons]
    omega
def RLoop (w : World) (s : ByteArray) (s3 s4 s5 s6 s7 : Value) (wr : World) : Prop :=
  ∃ (k : Nat) (A3 : Option Addr) (c3 : Nat) (A4 : Option Addr) (c4 : Nat), k ≤ s.size + 1 ∧ s7 = .int .i64 k ∧ s5 = .int .i32 (rcur ((bytesOf s ++ [10]).take k) rzero).n ∧ s6 = .bool (rcur ((bytesOf s ++ [10]).take k) rzero).i ∧ s3 = .slice A3 (rems ((bytesOf s ++ [10]).take k) rzero).length c3 ∧ s4 = .slice A4 (rcur ((bytesOf s ++ [10]).take k) rzero).row.length c4 ∧ ((rcur ((bytesOf s ++ [10]).take k) rzero).row.length ≤ c4 ∧ c4 ≤ maxLen) ∧
    RowsAt w wr (.slice A3 (rems ((bytesOf s ++ [10]).take k) rzero).length c3) (.slice A4 (rcur ((bytesOf s ++ [10]).take k) rzero).row.length c4) (rems ((bytesOf s ++ [10]).take k) rzero) (rcur ((bytesOf s ++ [10]).take k) rzero).row

theorem rloop_mk {w : World} {s : ByteArray} {wr : World} (k : Nat) {R : List (List Int)} {row : List Int} {n : Nat} {i : Bool} {A3 A4 : Option Addr} {c3 c4 : Nat} (hk : k ≤ s.size + 1) (h1 : rcur ((bytesOf s ++ [10]).take k) rzero = ⟨n, i, row⟩) (h2 : rems ((bytesOf s ++ [10]).take k) rzero = R) (h3 : row.length ≤ c4 ∧ c4 ≤ maxLen)
    (h : RowsAt w wr (.slice A3 R.length c3) (.slice A4 row.length c4) R row) : RLoop w s (.slice A3 R.length c3) (.slice A4 row.length c4) (.int .i32 n) (.bool i) (.int .i64 k) wr := by
  refine ⟨k, A3, c3, A4, c4, hk, rfl, ?_, ?_, ?_, ?_, ?_, ?_⟩
  · rw [h1]
  · rw [h1]
  · rw [h2]
  · rw [h1]
  · rw [h1]; exact h3
  · rw [h1, h2]; exact h
theorem app_ne {α : Type} (r : List α) (x : α) : (r ++ [x]).isEmpty = false := by cases r <;> rfl
theorem row_ne {α : Type} {r : List α} (h : r ≠ []) : r.isEmpty = false := by
  cases r with
  | nil => exact absurd rfl h
  | cons _ _ => rfl
set_option maxRecDepth 100000 in
set_option maxHeartbeats 8000000 in
theorem rows_any (s : ByteArray) (w : World) (hs : s.size ≤ 65536) (hok : rokAll (bytesOf s ++ [10]) rzero = true) :
    Calls Tryd.prog 31 #[.string s] w (RowsPost w (rowsOf (bytesOf s))) := by
  have HOK := Lib.hid hok
  clear hok
  go_enter Tryd.func31, Tryd.ntmps31
  go_wp2
  go_loopw [3, 4, 5, 6, 7] (fun s3 s4 s5 s6 s7 wr => RLoop w s s3 s4 s5 s6 s7 wr) (fun _ _ _ _ i _ => s.size + 1 - (intOf i).toNat)
  case atStart => exact ⟨0, none, 0, none, 0, by omega, rfl, rfl, rfl, rfl, rfl, ⟨Nat.le_refl _, by simp [maxLen]⟩, rows_start w⟩
  case round =>
    obtain ⟨k, A3, c3, A4, c4, hk, rfl, rfl, rfl, rfl, rfl, ⟨hc1, hc2⟩, hR⟩ := hrel
    have hall : (bytesOf s ++ [10]).length = s.size + 1 := by rw [List.length_append, bytesOf_len]; rfl
    by_cases hle : k ≤ s.size
    · have hle' : (k : Int) ≤ s.size := by omega
      have hlk : k < (bytesOf s ++ [10]).length := by omega
      obtain ⟨b, hb, hb255⟩ : ∃ b, (bytesOf s ++ [10]).getD k 0 = b ∧ (k < s.size → ∃ h : k < s.size, b = (s[k]'h).toNat) ∧ (¬ k < s.size → b = 10) := by
        refine ⟨_, rfl, fun h => ⟨h, ?_⟩, fun h => ?_⟩
        · rw [List.getD_eq_getElem?_getD, List.getElem?_append_left (by rw [bytesOf_len]; exact h), ← List.getD_eq_getElem?_getD, bytesOf_at s k h]
        · rw [List.getD_eq_getElem?_getD, List.getElem?_append_right (by rw [bytesOf_len]; omega), bytesOf_len, show k - s.size = 0 by omega]; rfl
      obtain ⟨hb1, hb2⟩ := hb255
      have HT : Hid ((bytesOf s ++ [10]).take (k + 1) = (bytesOf s ++ [10]).take k ++ [b]) := Lib.hid (by
        rw [List.take_succ_eq_append_getElem hlk, ← hb, List.getD_eq_getElem?_getD, List.getElem?_eq_getElem hlk]; rfl)
      have hokk := rokAll_at _ _ HOK.out k hlk
      rw [hb] at hokk
      have HSN := Lib.hid (rems_snoc b ((bytesOf s ++ [10]).take k) rzero)
      have HCN := Lib.hid (rcur_snoc b ((bytesOf s ++ [10]).take k) rzero)
      have hrl := rems_len ((bytesOf s ++ [10]).take k) rzero
      have hcl := rcur_len ((bytesOf s ++ [10]).take k) rzero
      have htk : ((bytesOf s ++ [10]).take k).length ≤ k := List.length_take_le _ _
      have hcl : (rcur ((bytesOf s ++ [10]).take k) rzero).row.length ≤ 200000 := by simp only [rzero, List.length_nil] at hcl ⊢; omega
      have hrl : (rems ((bytesOf s ++ [10]).take k) rzero).length ≤ 65536 := by omega
      clear hb htk hlk hall
      generalize rems ((bytesOf s ++ [10]).take k) rzero = R at *
      generalize rcur ((bytesOf s ++ [10]).take k) rzero = st at *
      obtain ⟨n, i, row⟩ := st
      dsimp only at hR hcl hokk hc1 ⊢
      have HR := Lib.hid hR
      have hrs := hR.be.size
      clear hR
      by_cases hlt : k < s.size
      · obtain ⟨_, hbe⟩ := hb1 hlt
        clear hb1 hb2
        have hlt' : (k : Int) < s.size := by omega
        have hsx : (((s[k]'hlt).toNat : Nat) : Int) = (b : Int) := by rw [hbe]
        have hbb : b ≤ 255 := by rw [hbe]; have := (s[k]'hlt).toNat_lt; omega
        clear hbe
        by_cases hdig : isDig b = true
        · have hd1 := dgt_lt hdig
          have HD := Lib.hid (fun w => rdigit_yes b w hdig)
          simp only [rokE, rdig, hdig, Bool.not_true, Bool.false_or, Nat.ble_eq] at hokk
          have HST : Hid (rstep5 ⟨n, i, row⟩ b = ⟨16 * n + dgt b, true, row⟩) := Lib.hid (by unfold rstep5 rdig; rw [hdig]; rfl)
          have HLY : Hid ((bif !rdig b && rlays ⟨n, i, row⟩ b then [rrow ⟨n, i, row⟩ b] else []) = []) := Lib.hid (by unfold rdig; rw [hdig]; rfl)
          have n0 : (0 : Int) ≤ n := by omega
          have n1 : (n : Int) ≤ 100000000 := by omega
          have hd2 : (dgt b : Int) < 16 := by omega
          have hd3 : (0 : Int) ≤ (dgt b : Int) := by omega
          generalize hdg : dgt b = dg at *
          clear hdig hokk hd1 hdg hbb
          go_wp2_with fail
          with_reducible refine (HD.out _).mono ?_
          rintro e w' ⟨rfl, rfl⟩
          go_wp2_with fail
          with_reducible refine (HD.out _).mono ?_
          rintro e w' ⟨rfl, rfl⟩
          go_wp2
          go_roundw
          case rel =>
            have hrows := HR.out
            have := rloop_mk (w := w) (s := s) (R := R) (row := row) (n := 16 * n + dg) (i := true) (A3 := A3) (c3 := c3) (A4 := A4) (c4 := c4) (k + 1) (by omega) (by rw [HT.out, HCN.out, HST.out]) (by rw [HT.out, HSN.out, HLY.out, List.append_nil]) ⟨by first | omega | (simp; omega) | (simp at hx7 ⊢; omega) | (simp; done), by omega⟩ (by simpa using hrows)
            simpa using this
          case measure => simp [intOf]; omega
        · have hdf : isDig b = false := by simpa using hdig
          clear hokk hdig
          by_cases h33 : b = 33
          · subst h33
            have hsx : (((s[k]'hlt).toNat : Nat) : Int) = 33 := hsx
            have HD : Hid (∀ w : World, Calls Tryd.prog 50 #[.int .u8 33] w fun e w' => e = .returned (.int .i32 (-1)) ∧ w = w') := Lib.hid (fun w => rdigit_no 33 w (by decide))
            cases i with
            | true =>
              have HST : Hid (rstep5 ⟨n, true, row⟩ 33 = ⟨0, false, row ++ [(n : Int)] ++ [-1]⟩) := Lib.hid (by unfold rstep5 rdig rlays rrow; simp [isDig, isSep, Nat.ble, Nat.beq])
              have HLY : Hid ((bif !rdig 33 && rlays ⟨n, true, row⟩ 33 then [rrow ⟨n, true, row⟩ 33] else []) = []) := Lib.hid (by rfl)
              go_wp2_with fail
              with_reducible refine (HD.out _).mono ?_
              rintro e w' ⟨rfl, rfl⟩
              go_wp2_with (first
                | (at_builtin; refine wpList_appO rfl (.tmp 31) (.tmp 33) 22 rfl w.heap.size 21 (.int .i32 0) 1 4 Tryd.underlying22 info_r5 rfl (by decide) _ _ _ rfl (HR.out.row.alloc _) ⟨wr.heap.size, 0, none⟩ 1 1 [.int .i32 (n : Int)] rfl rfl (cells_new wr _ _) (by simp [Value.oneCell']) (by simp only [maxLen]; omega) (by omega) (by have := HR.out.be.size; simp; omega) ?_; intro v6 w6 ho6 hg6 hl6; have HR6 := Lib.hid (rows_num HR.out _ ho6 hg6 hl6); obtain ⟨A6, cc6, rfl, hx6, hy6⟩ := own_form ho6; clear ho6 hg6 hl6)
                | (at_builtin; refine wpList_appO rfl (.tmp 37) (.tmp 38) 22 rfl w.heap.size 21 (.int .i32 0) 1 4 Tryd.underlying22 info_r5 rfl (by decide) _ _ _ rfl (HR6.out.row.alloc _) ⟨w6.heap.size, 0, none⟩ 1 1 [.int .i32 (-1)] rfl rfl (cells_new w6 _ _) (by simp [Value.oneCell']) (by simp only [maxLen]; simp; omega) (by simp; omega) (by have := HR6.out.be.size; simp; omega) ?_; intro v7 w7 ho7 hg7 hl7; have HR7 := Lib.hid (rows_num HR6.out _ ho7 hg7 hl7); obtain ⟨A7, cc7, rfl, hx7, hy7⟩ := own_form ho7; clear ho7 hg7 hl7))
              go_roundw
              case rel =>
                have hrows := HR7.out
                have := rloop_mk (w := w) (s := s) (R := R) (row := row ++ [(n : Int)] ++ [-1]) (n := 0) (i := false) (A3 := A3) (c3 := c3) (A4 := A7) (c4 := cc7) (k + 1) (by omega) (by rw [HT.out, HCN.out, HST.out]) (by rw [HT.out, HSN.out, HLY.out, List.append_nil]) ⟨by first | omega | (simp; omega) | (simp at hx7 ⊢; omega) | (simp; done), by omega⟩ (by simpa using hrows)
                simpa using this
              case measure => simp [intOf]; omega
            | false =>
              have HST : Hid (rstep5 ⟨n, false, row⟩ 33 = ⟨0, false, row ++ [-1]⟩) := Lib.hid (by unfold rstep5 rdig rlays rrow; simp [isDig, isSep, Nat.ble, Nat.beq])
              have HLY : Hid ((bif !rdig 33 && rlays ⟨n, false, row⟩ 33 then [rrow ⟨n, false, row⟩ 33] else []) = []) := Lib.hid (by rfl)
              go_wp2_with fail
              with_reducible refine (HD.out _).mono ?_
              rintro e w' ⟨rfl, rfl⟩
              go_wp2_with (at_builtin; refine wpList_appO rfl (.tmp 37) (.tmp 38) 22 rfl w.heap.size 21 (.int .i32 0) 1 4 Tryd.underlying22 info_r5 rfl (by decide) _ _ _ rfl (HR.out.row.alloc _) ⟨wr.heap.size, 0, none⟩ 1 1 [.int .i32 (-1)] rfl rfl (cells_new wr _ _) (by simp [Value.oneCell']) (by simp only [maxLen]; omega) (by omega) (by have := HR.out.be.size; simp; omega) ?_; intro v7 w7 ho7 hg7 hl7; have HR7 := Lib.hid (rows_num HR.out _ ho7 hg7 hl7); obtain ⟨A7, cc7, rfl, hx7, hy7⟩ := own_form ho7; clear ho7 hg7 hl7)
              go_roundw
              case rel =>
                have hrows := HR7.out
                have := rloop_mk (w := w) (s := s) (R := R) (row := row ++ [-1]) (n := 0) (i := false) (A3 := A3) (c3 := c3) (A4 := A7) (c4 := cc7) (k + 1) (by omega) (by rw [HT.out, HCN.out, HST.out]) (by rw [HT.out, HSN.out, HLY.out, List.append_nil]) ⟨by first | omega | (simp; omega) | (simp at hx7 ⊢; omega) | (simp; done), by omega⟩ (by simpa using hrows)
                simpa using this
              case measure => simp [intOf]; omega
          by_cases h44 : b = 44
          · subst h44
            have hsx : (((s[k]'hlt).toNat : Nat) : Int) = 44 := hsx
            have HD : Hid (∀ w : World, Calls Tryd.prog 50 #[.int .u8 44] w fun e w' => e = .returned (.int .i32 (-1)) ∧ w = w') := Lib.hid (fun w => rdigit_no 44 w (by decide))
            cases i with
            | true =>
              have HST : Hid (rstep5 ⟨n, true, row⟩ 44 = ⟨0, false, []⟩) := Lib.hid (by unfold rstep5 rdig rlays rrow; simp [isDig, isSep, Nat.ble, Nat.beq, app_ne])
              have HLY : Hid ((bif !rdig 44 && rlays ⟨n, true, row⟩ 44 then [rrow ⟨n, true, row⟩ 44] else []) = [row ++ [(n : Int)]]) := Lib.hid (by unfold rdig rlays rrow; simp [isDig, isSep, Nat.ble, Nat.beq, app_ne])
              go_wp2_with fail
              with_reducible refine (HD.out _).mono ?_
              rintro e w' ⟨rfl, rfl⟩
              go_wp2_with (first
                | (at_builtin; refine wpList_appO rfl (.tmp 31) (.tmp 33) 22 rfl w.heap.size 21 (.int .i32 0) 1 4 Tryd.underlying22 info_r5 rfl (by decide) _ _ _ rfl (HR.out.row.alloc _) ⟨wr.heap.size, 0, none⟩ 1 1 [.int .i32 (n : Int)] rfl rfl (cells_new wr _ _) (by simp [Value.oneCell']) (by simp only [maxLen]; omega) (by omega) (by have := HR.out.be.size; simp; omega) ?_; intro v6 w6 ho6 hg6 hl6; have HR6 := Lib.hid (rows_num HR.out _ ho6 hg6 hl6); obtain ⟨A6, cc6, rfl, hx6, hy6⟩ := own_form ho6; clear ho6 hg6 hl6)
                | (at_builtin; refine wpList_appO rfl (.tmp 51) (.tmp 53) 68 rfl w.heap.size 22 (.slice none 0 0) 1 24 Tryd.underlying68 info_s5 rfl (by decide) _ R.length (Classical.choose HR6.out.out) rfl ((Classical.choose_spec HR6.out.out).1.alloc _) ⟨w6.heap.size, 0, none⟩ 1 1 [.slice A6 (row.length + 1) cc6] rfl rfl (cells_new w6 _ [.slice A6 (row.length + 1) cc6]) (by simp [Value.oneCell']) (by simp only [maxLen]; omega) (by omega) (by have := HR6.out.be.size; simp; omega) ?_; intro v9 w9 ho9 hg9 hl9))
              have HR9 := Lib.hid (rows_lay HR6.out (by simp) ho9 hg9)
              obtain ⟨A9, cc9, rfl, hx9, hy9⟩ := own_form ho9
              clear ho9 hg9 hl9
              go_wp2
              go_roundw
              case rel =>
                have hrows := HR9.out
                have := rloop_mk (w := w) (s := s) (R := R ++ [row ++ [(n : Int)]]) (row := ([] : List Int)) (n := 0) (i := false) (A3 := A9) (c3 := cc9) (A4 := none) (c4 := 0) (k + 1) (by omega) (by rw [HT.out, HCN.out, HST.out]) (by rw [HT.out, HSN.out, HLY.out]) ⟨by first | omega | (simp; omega) | (simp at hx7 ⊢; omega) | (simp; done), by omega⟩ (by simpa using hrows)
                simpa using this
              case measure => simp [intOf]; omega
            | false =>
              by_cases hrow : row = []
              · subst hrow
                have HST : Hid (rstep5 ⟨n, false, []⟩ 44 = ⟨0, false, []⟩) := Lib.hid (by unfold rstep5 rdig rlays rrow; simp [isDig, isSep, Nat.ble, Nat.beq])
                have HLY : Hid ((bif !rdig 44 && rlays ⟨n, false, []⟩ 44 then [rrow ⟨n, false, []⟩ 44] else []) = []) := Lib.hid (by rfl)
                go_wp2_with fail
                with_reducible refine (HD.out _).mono ?_
                rintro e w' ⟨rfl, rfl⟩
                go_wp2
                go_roundw
                case rel =>
                  have hrows := HR.out
                  have := rloop_mk (w := w) (s := s) (R := R) (row := ([] : List Int)) (n := 0) (i := false) (A3 := A3) (c3 := c3) (A4 := A4) (c4 := c4) (k + 1) (by omega) (by rw [HT.out, HCN.out, HST.out]) (by rw [HT.out, HSN.out, HLY.out, List.append_nil]) ⟨by first | omega | (simp; omega) | (simp at hx7 ⊢; omega) | (simp; done), by omega⟩ (by simpa using hrows)
                  simpa using this
                case measure => simp [intOf]; omega
              · have hpos : 0 < row.length := List.length_pos_iff.2 hrow
                have HST : Hid (rstep5 ⟨n, false, row⟩ 44 = ⟨0, false, []⟩) := Lib.hid (by unfold rstep5 rdig rlays rrow; simp [isDig, isSep, Nat.ble, Nat.beq, row_ne hrow])
                have HLY : Hid ((bif !rdig 44 && rlays ⟨n, false, row⟩ 44 then [rrow ⟨n, false, row⟩ 44] else []) = [row]) := Lib.hid (by unfold rdig rlays rrow; simp [isDig, isSep, Nat.ble, Nat.beq, row_ne hrow])
                go_wp2_with fail
                with_reducible refine (HD.out _).mono ?_
                rintro e w' ⟨rfl, rfl⟩
                go_wp2_with (first
                  | (at_builtin; refine wpList_appO rfl (.tmp 51) (.tmp 53) 68 rfl w.heap.size 22 (.slice none 0 0) 1 24 Tryd.underlying68 info_s5 rfl (by decide) _ R.length (Classical.choose HR.out.out) rfl ((Classical.choose_spec HR.out.out).1.alloc _) ⟨wr.heap.size, 0, none⟩ 1 1 [.slice A4 row.length c4] rfl rfl (cells_new wr _ [.slice A4 row.length c4]) (by simp [Value.oneCell']) (by simp only [maxLen]; omega) (by omega) (by have := HR.out.be.size; simp; omega) ?_; intro v9 w9 ho9 hg9 hl9))
                have HR9 := Lib.hid (rows_lay HR.out hrow ho9 hg9)
                obtain ⟨A9, cc9, rfl, hx9, hy9⟩ := own_form ho9
                clear ho9 hg9 hl9
                go_wp2
                go_roundw
                case rel =>
                  have hrows := HR9.out
                  have := rloop_mk (w := w) (s := s) (R := R ++ [row]) (row := ([] : List Int)) (n := 0) (i := false) (A3 := A9) (c3 := cc9) (A4 := none) (c4 := 0) (k + 1) (by omega) (by rw [HT.out, HCN.out, HST.out]) (by rw [HT.out, HSN.out, HLY.out]) ⟨by first | omega | (simp; omega) | (simp at hx7 ⊢; omega) | (simp; done), by omega⟩ (by simpa using hrows)
                  simpa using this
                case measure => simp [intOf]; omega
          by_cases h10 : b = 10
          · subst h10
            have hsx : (((s[k]'hlt).toNat : Nat) : Int) = 10 := hsx
            have HD : Hid (∀ w : World, Calls Tryd.prog 50 #[.int .u8 10] w fun e w' => e = .returned (.int .i32 (-1)) ∧ w = w') := Lib.hid (fun w => rdigit_no 10 w (by decide))
            cases i with
            | true =>
              have HST : Hid (rstep5 ⟨n, true, row⟩ 10 = ⟨0, false, []⟩) := Lib.hid (by unfold rstep5 rdig rlays rrow; simp [isDig, isSep, Nat.ble, Nat.beq, app_ne])
              have HLY : Hid ((bif !rdig 10 && rlays ⟨n, true, row⟩ 10 then [rrow ⟨n, true, row⟩ 10] else []) = [row ++ [(n : Int)]]) := Lib.hid (by unfold rdig rlays rrow; simp [isDig, isSep, Nat.ble, Nat.beq, app_ne])
              go_wp2_with fail
              with_reducible refine (HD.out _).mono ?_
              rintro e w' ⟨rfl, rfl⟩
              go_wp2_with (first
                | (at_builtin; refine wpList_appO rfl (.tmp 31) (.tmp 33) 22 rfl w.heap.size 21 (.int .i32 0) 1 4 Tryd.underlying22 info_r5 rfl (by decide) _ _ _ rfl (HR.out.row.alloc _) ⟨wr.heap.size, 0, none⟩ 1 1 [.int .i32 (n : Int)] rfl rfl (cells_new wr _ _) (by simp [Value.oneCell']) (by simp only [maxLen]; omega) (by omega) (by have := HR.out.be.size; simp; omega) ?_; intro v6 w6 ho6 hg6 hl6; have HR6 := Lib.hid (rows_num HR.out _ ho6 hg6 hl6); obtain ⟨A6, cc6, rfl, hx6, hy6⟩ := own_form ho6; clear ho6 hg6 hl6)
                | (at_builtin; refine wpList_appO rfl (.tmp 51) (.tmp 53) 68 rfl w.heap.size 22 (.slice none 0 0) 1 24 Tryd.underlying68 info_s5 rfl (by decide) _ R.length (Classical.choose HR6.out.out) rfl ((Classical.choose_spec HR6.out.out).1.alloc _) ⟨w6.heap.size, 0, none⟩ 1 1 [.slice A6 (row.length + 1) cc6] rfl rfl (cells_new w6 _ [.slice A6 (row.length + 1) cc6]) (by simp [Value.oneCell']) (by simp only [maxLen]; omega) (by omega) (by have := HR6.out.be.size; simp; omega) ?_; intro v9 w9 ho9 hg9 hl9))
              have HR9 := Lib.hid (rows_lay HR6.out (by simp) ho9 hg9)
              obtain ⟨A9, cc9, rfl, hx9, hy9⟩ := own_form ho9
              clear ho9 hg9 hl9
              go_wp2
              go_roundw
              case rel =>
                have hrows := HR9.out
                have := rloop_mk (w := w) (s := s) (R := R ++ [row ++ [(n : Int)]]) (row := ([] : List Int)) (n := 0) (i := false) (A3 := A9) (c3 := cc9) (A4 := none) (c4 := 0) (k + 1) (by omega) (by rw [HT.out, HCN.out, HST.out]) (by rw [HT.out, HSN.out, HLY.out]) ⟨by first | omega | (simp; omega) | (simp at hx7 ⊢; omega) | (simp; done), by omega⟩ (by simpa using hrows)
                simpa using this
              case measure => simp [intOf]; omega
            | false =>
              by_cases hrow : row = []
              · subst hrow
                have HST : Hid (rstep5 ⟨n, false, []⟩ 10 = ⟨0, false, []⟩) := Lib.hid (by unfold rstep5 rdig rlays rrow; simp [isDig, isSep, Nat.ble, Nat.beq])
                have HLY : Hid ((bif !rdig 10 && rlays ⟨n, false, []⟩ 10 then [rrow ⟨n, false, []⟩ 10] else []) = []) := Lib.hid (by rfl)
                go_wp2_with fail
                with_reducible refine (HD.out _).mono ?_
                rintro e w' ⟨rfl, rfl⟩
                go_wp2
                go_roundw
                case rel =>
                  have hrows := HR.out
                  have := rloop_mk (w := w) (s := s) (R := R) (row := ([] : List Int)) (n := 0) (i := false) (A3 := A3) (c3 := c3) (A4 := A4) (c4 := c4) (k + 1) (by omega) (by rw [HT.out, HCN.out, HST.out]) (by rw [HT.out, HSN.out, HLY.out, List.append_nil]) ⟨by first | omega | (simp; omega) | (simp at hx7 ⊢; omega) | (simp; done), by omega⟩ (by simpa using hrows)
                  simpa using this
                case measure => simp [intOf]; omega
              · have hpos : 0 < row.length := List.length_pos_iff.2 hrow
                have HST : Hid (rstep5 ⟨n, false, row⟩ 10 = ⟨0, false, []⟩) := Lib.hid (by unfold rstep5 rdig rlays rrow; simp [isDig, isSep, Nat.ble, Nat.beq, row_ne hrow])
                have HLY : Hid ((bif !rdig 10 && rlays ⟨n, false, row⟩ 10 then [rrow ⟨n, false, row⟩ 10] else []) = [row]) := Lib.hid (by unfold rdig rlays rrow; simp [isDig, isSep, Nat.ble, Nat.beq, row_ne hrow])
                go_wp2_with fail
                with_reducible refine (HD.out _).mono ?_
                rintro e w' ⟨rfl, rfl⟩
                go_wp2_with (first
                  | (at_builtin; refine wpList_appO rfl (.tmp 51) (.tmp 53) 68 rfl w.heap.size 22 (.slice none 0 0) 1 24 Tryd.underlying68 info_s5 rfl (by decide) _ R.length (Classical.choose HR.out.out) rfl ((Classical.choose_spec HR.out.out).1.alloc _) ⟨wr.heap.size, 0, none⟩ 1 1 [.slice A4 row.length c4] rfl rfl (cells_new wr _ [.slice A4 row.length c4]) (by simp [Value.oneCell']) (by simp only [maxLen]; omega) (by omega) (by have := HR.out.be.size; simp; omega) ?_; intro v9 w9 ho9 hg9 hl9))
                have HR9 := Lib.hid (rows_lay HR.out hrow ho9 hg9)
                obtain ⟨A9, cc9, rfl, hx9, hy9⟩ := own_form ho9
                clear ho9 hg9 hl9
                go_wp2
                go_roundw
                case rel =>
                  have hrows := HR9.out
                  have := rloop_mk (w := w) (s := s) (R := R ++ [row]) (row := ([] : List Int)) (n := 0) (i := false) (A3 := A9) (c3 := cc9) (A4 := none) (c4 := 0) (k + 1) (by omega) (by rw [HT.out, HCN.out, HST.out]) (by rw [HT.out, HSN.out, HLY.out]) ⟨by first | omega | (simp; omega) | (simp at hx7 ⊢; omega) | (simp; done), by omega⟩ (by simpa using hrows)
                  simpa using this
                case measure => simp [intOf]; omega
          have HD : Hid (∀ w : World, Calls Tryd.prog 50 #[.int .u8 (b : Int)] w fun e w' => e = .returned (.int .i32 (-1)) ∧ w = w') := Lib.hid (fun w => rdigit_no b w hdf)
          have hsep : isSep b = false := by unfold isSep; rw [show Nat.beq b 44 = false by rw [Bool.eq_false_iff]; simpa [Nat.beq_eq] using h44, show Nat.beq b 10 = false by rw [Bool.eq_false_iff]; simpa [Nat.beq_eq] using h10]; rfl
          have h33b : Nat.beq b 33 = false := by rw [Bool.eq_false_iff]; simpa [Nat.beq_eq] using h33
          have b33 : ((b : Int) == 33) = false := by simp; omega
          have b44 : ((b : Int) == 44) = false := by simp; omega
          have b10 : ((b : Int) == 10) = false := by simp; omega
          cases i with
          | true =>
            have HST : Hid (rstep5 ⟨n, true, row⟩ b = ⟨0, false, row ++ [(n : Int)]⟩) := Lib.hid (by unfold rstep5 rdig rlays rrow; rw [hdf, hsep, h33b]; simp)
            have HLY : Hid ((bif !rdig b && rlays ⟨n, true, row⟩ b then [rrow ⟨n, true, row⟩ b] else []) = []) := Lib.hid (by unfold rdig rlays; rw [hdf, hsep]; rfl)
            go_wp2_with fail
            with_reducible refine (HD.out _).mono ?_
            rintro e w' ⟨rfl, rfl⟩
            go_wp2_with (at_builtin; refine wpList_appO rfl (.tmp 31) (.tmp 33) 22 rfl w.heap.size 21 (.int .i32 0) 1 4 Tryd.underlying22 info_r5 rfl (by decide) _ _ _ rfl (HR.out.row.alloc _) ⟨wr.heap.size, 0, none⟩ 1 1 [.int .i32 (n : Int)] rfl rfl (cells_new wr _ _) (by simp [Value.oneCell']) (by simp only [maxLen]; omega) (by omega) (by have := HR.out.be.size; simp; omega) ?_; intro v6 w6 ho6 hg6 hl6; have HR6 := Lib.hid (rows_num HR.out _ ho6 hg6 hl6); obtain ⟨A6, cc6, rfl, hx6, hy6⟩ := own_form ho6; clear ho6 hg6 hl6)
            go_roundw
            case rel =>
              have hrows := HR6.out
              have := rloop_mk (w := w) (s := s) (R := R) (row := row ++ [(n : Int)]) (n := 0) (i := false) (A3 := A3) (c3 := c3) (A4 := A6) (c4 := cc6) (k + 1) (by omega) (by rw [HT.out, HCN.out, HST.out]) (by rw [HT.out, HSN.out, HLY.out, List.append_nil]) ⟨by first | omega | (simp; omega) | (simp at hx7 ⊢; omega) | (simp; done), by omega⟩ (by simpa using hrows)
              simpa using this
            case measure => simp [intOf]; omega
          | false =>
            have HST : Hid (rstep5 ⟨n, false, row⟩ b = ⟨0, false, row⟩) := Lib.hid (by unfold rstep5 rdig rlays rrow; rw [hdf, hsep, h33b]; simp)
            have HLY : Hid ((bif !rdig b && rlays ⟨n, false, row⟩ b then [rrow ⟨n, false, row⟩ b] else []) = []) := Lib.hid (by unfold rdig rlays; rw [hdf, hsep]; rfl)
            go_wp2_with fail
            with_reducible refine (HD.out _).mono ?_
            rintro e w' ⟨rfl, rfl⟩
            go_wp2
            go_roundw
            case rel =>
              have hrows := HR.out
              have := rloop_mk (w := w) (s := s) (R := R) (row := row) (n := 0) (i := false) (A3 := A3) (c3 := c3) (A4 := A4) (c4 := c4) (k + 1) (by omega) (by rw [HT.out, HCN.out, HST.out]) (by rw [HT.out, HSN.out, HLY.out, List.append_nil]) ⟨by first | omega | (simp; omega) | (simp at hx7 ⊢; omega) | (simp; done), by omega⟩ (by simpa using hrows)
              simpa using this
            case measure => simp [intOf]; omega
      · have hbe := hb2 hlt
        have hlt' : ¬ (k : Int) < s.size := by omega
        clear hb1 hb2
        subst hbe
        have hdf : isDig 10 = false := by decide
        have HD : Hid (∀ w : World, Calls Tryd.prog 50 #[.int .u8 10] w fun e w' => e = .returned (.int .i32 (-1)) ∧ w = w') := Lib.hid (fun w => rdigit_no 10 w hdf)
        clear hokk
        cases i with
        | true =>
          have HST : Hid (rstep5 ⟨n, true, row⟩ 10 = ⟨0, false, []⟩) := Lib.hid (by unfold rstep5 rdig rlays rrow; simp [isDig, isSep, Nat.ble, Nat.beq, app_ne])
          have HLY : Hid ((bif !rdig 10 && rlays ⟨n, true, row⟩ 10 then [rrow ⟨n, true, row⟩ 10] else []) = [row ++ [(n : Int)]]) := Lib.hid (by unfold rdig rlays rrow; simp [isDig, isSep, Nat.ble, Nat.beq, app_ne])
          go_wp2_with fail
          with_reducible refine (HD.out _).mono ?_
          rintro e w' ⟨rfl, rfl⟩
          go_wp2_with (first
            | (at_builtin; refine wpList_appO rfl (.tmp 31) (.tmp 33) 22 rfl w.heap.size 21 (.int .i32 0) 1 4 Tryd.underlying22 info_r5 rfl (by decide) _ _ _ rfl (HR.out.row.alloc _) ⟨wr.heap.size, 0, none⟩ 1 1 [.int .i32 (n : Int)] rfl rfl (cells_new wr _ _) (by simp [Value.oneCell']) (by simp only [maxLen]; omega) (by omega) (by have := HR.out.be.size; simp; omega) ?_; intro v6 w6 ho6 hg6 hl6; have HR6 := Lib.hid (rows_num HR.out _ ho6 hg6 hl6); obtain ⟨A6, cc6, rfl, hx6, hy6⟩ := own_form ho6; clear ho6 hg6 hl6)
            | (at_builtin; refine wpList_appO rfl (.tmp 51) (.tmp 53) 68 rfl w.heap.size 22 (.slice none 0 0) 1 24 Tryd.underlying68 info_s5 rfl (by decide) _ R.length (Classical.choose HR6.out.out) rfl ((Classical.choose_spec HR6.out.out).1.alloc _) ⟨w6.heap.size, 0, none⟩ 1 1 [.slice A6 (row.length + 1) cc6] rfl rfl (cells_new w6 _ [.slice A6 (row.length + 1) cc6]) (by simp [Value.oneCell']) (by simp only [maxLen]; omega) (by omega) (by have := HR6.out.be.size; simp; omega) ?_; intro v9 w9 ho9 hg9 hl9))
          have HR9 := Lib.hid (rows_lay HR6.out (by simp) ho9 hg9)
          obtain ⟨A9, cc9, rfl, hx9, hy9⟩ := own_form ho9
          clear ho9 hg9 hl9
          go_wp2
          go_roundw
          case rel =>
            have hrows := HR9.out
            have := rloop_mk (w := w) (s := s) (R := R ++ [row ++ [(n : Int)]]) (row := ([] : List Int)) (n := 0) (i := false) (A3 := A9) (c3 := cc9) (A4 := none) (c4 := 0) (k + 1) (by omega) (by rw [HT.out, HCN.out, HST.out]) (by rw [HT.out, HSN.out, HLY.out]) ⟨by first | omega | (simp; omega) | (simp at hx7 ⊢; omega) | (simp; done), by omega⟩ (by simpa using hrows)
            simpa using this
          case measure => simp [intOf]; omega
        | false =>
          by_cases hrow : row = []
          · subst hrow
            have HST : Hid (rstep5 ⟨n, false, []⟩ 10 = ⟨0, false, []⟩) := Lib.hid (by unfold rstep5 rdig rlays rrow; simp [isDig, isSep, Nat.ble, Nat.beq])
            have HLY : Hid ((bif !rdig 10 && rlays ⟨n, false, []⟩ 10 then [rrow ⟨n, false, []⟩ 10] else []) = []) := Lib.hid (by rfl)
            go_wp2_with fail
            with_reducible refine (HD.out _).mono ?_
            rintro e w' ⟨rfl, rfl⟩
            go_wp2
            go_roundw
            case rel =>
              have hrows := HR.out
              have := rloop_mk (w := w) (s := s) (R := R) (row := ([] : List Int)) (n := 0) (i := false) (A3 := A3) (c3 := c3) (A4 := A4) (c4 := c4) (k + 1) (by omega) (by rw [HT.out, HCN.out, HST.out]) (by rw [HT.out, HSN.out, HLY.out, List.append_nil]) ⟨by first | omega | (simp; omega) | (simp at hx7 ⊢; omega) | (simp; done), by omega⟩ (by simpa using hrows)
              simpa using this
            case measure => simp [intOf]; omega
          · have hpos : 0 < row.length := List.length_pos_iff.2 hrow
            have HST : Hid (rstep5 ⟨n, false, row⟩ 10 = ⟨0, false, []⟩) := Lib.hid (by unfold rstep5 rdig rlays rrow; simp [isDig, isSep, Nat.ble, Nat.beq, row_ne hrow])
            have HLY : Hid ((bif !rdig 10 && rlays ⟨n, false, row⟩ 10 then [rrow ⟨n, false, row⟩ 10] else []) = [row]) := Lib.hid (by unfold rdig rlays rrow; simp [isDig, isSep, Nat.ble, Nat.beq, row_ne hrow])
            go_wp2_with fail
            with_reducible refine (HD.out _).mono ?_
            rintro e w' ⟨rfl, rfl⟩
            go_wp2_with (first
              | (at_builtin; refine wpList_appO rfl (.tmp 51) (.tmp 53) 68 rfl w.heap.size 22 (.slice none 0 0) 1 24 Tryd.underlying68 info_s5 rfl (by decide) _ R.length (Classical.choose HR.out.out) rfl ((Classical.choose_spec HR.out.out).1.alloc _) ⟨wr.heap.size, 0, none⟩ 1 1 [.slice A4 row.length c4] rfl rfl (cells_new wr _ [.slice A4 row.length c4]) (by simp [Value.oneCell']) (by simp only [maxLen]; omega) (by omega) (by have := HR.out.be.size; simp; omega) ?_; intro v9 w9 ho9 hg9 hl9))
            have HR9 := Lib.hid (rows_lay HR.out hrow ho9 hg9)
            obtain ⟨A9, cc9, rfl, hx9, hy9⟩ := own_form ho9
            clear ho9 hg9 hl9
            go_wp2
            go_roundw
            case rel =>
              have hrows := HR9.out
              have := rloop_mk (w := w) (s := s) (R := R ++ [row]) (row := ([] : List Int)) (n := 0) (i := false) (A3 := A9) (c3 := cc9) (A4 := none) (c4 := 0) (k + 1) (by omega) (by rw [HT.out, HCN.out, HST.out]) (by rw [HT.out, HSN.out, HLY.out]) ⟨by first | omega | (simp; omega) | (simp at hx7 ⊢; omega) | (simp; done), by omega⟩ (by simpa using hrows)
              simpa using this
            case measure => simp [intOf]; omega
    · have hkk : k = s.size + 1 := by omega
      subst hkk
      have hle' : ¬ ((s.size + 1 : Nat) : Int) ≤ s.size := by omega
      have htk : (bytesOf s ++ [10]).take (s.size + 1) = bytesOf s ++ [10] := List.take_of_length_le (by rw [hall]; exact Nat.le_refl _)
      rw [htk] at hR ⊢
      clear htk
      have HR := Lib.hid hR
      clear hR hall
      go_wp2
      go_ret
      exact ⟨_, rfl, rows_is HR.out, HR.out.be⟩
end Go.Proofs.YtdmcidljjfogjaaDoor

/- The document's Build (layer 5) by its contract. -/
namespace Go.Proofs.YtdmcidljjfogjaaDoor
open Go.ChangeShapes Go.WideShapes Go.ChangeAt Go.RowKit
set_option linter.unusedVariables false
set_option linter.unusedSimpArgs false

abbrev DD2 (b : List Int) : Prop := b.length = 2 ∧ ∀ x ∈ b, (Lit.int .i32 x).wf = true
theorem kvI : Kv Tryd.prog 21 (Value.int .i32) D32 := int_kv Tryd.underlying21
theorem kv2 : Kv Tryd.prog 70 (arrV .i32) DD2 := arr_kv laidOut4 (of_decide_eq_true (by kernel_rfl)) ts4 Tryd.underlying70 Tryd.underlying21 (by kernel_rfl) (by kernel_rfl) (by kernel_rfl)

/-- the document's tables in memory: five maps from block N on, the struct behind them -/
structure DAt (W : World) (N : Nat) (C : List (Int × Int)) (K : List (Int × List Int)) (S : List (Int × Int)) (J : List (List Int × Int)) (Q : List (Int × Int)) (L : Int) : Prop where
  blk : Blk W (N + 5) 67 #[.map (some N), .map (some (N + 1)), .map (some (N + 2)), .map (some (N + 3)), .map (some (N + 4)), .int .i64 L]
  c : MapIs W N (Value.int .i32) (Value.int .i64) D32 (mst 0 C).1 (mst 0 C).2
  k : MapIs W (N + 1) (Value.int .i32) (arrV .i32) D32 (mst [0, 0] K).1 (mst [0, 0] K).2
  s : MapIs W (N + 2) (Value.int .i32) (Value.int .i32) D32 (mst 0 S).1 (mst 0 S).2
  j : MapIs W (N + 3) (arrV .i32) (Value.int .i32) DD2 (mst 0 J).1 (mst 0 J).2
  q : MapIs W (N + 4) (Value.int .i32) (Value.int .i64) D32 (mst 0 Q).1 (mst 0 Q).2
section
variable {W W' : World} {N : Nat} {C : List (Int × Int)} {K : List (Int × List Int)} {S : List (Int × Int)} {J : List (List Int × Int)} {Q : List (Int × Int)} {L : Int}
theorem DAt.grow (h : DAt W N C K S J Q L) (hb : Below W.heap.size W W') : DAt W' N C K S J Q L :=
  ⟨h.blk.below hb h.blk.lt, h.c.below hb h.c.lt, h.k.below hb h.k.lt, h.s.below hb h.s.lt, h.j.below hb h.j.lt, h.q.below hb h.q.lt⟩
theorem DAt.lt (h : DAt W N C K S J Q L) : N + 5 < W.heap.size := h.blk.lt
theorem mapIs_but {W W' : World} {g b : Nat} {κ ν : Type} {kv : κ → Value} {vv : ν → Value} {D : κ → Prop} {ks : List κ} {f : κ → ν} (h : MapIs W b kv vv D ks f) (hb : But g W W') (hne : b ≠ g) : MapIs W' b kv vv D ks f :=
  h.block (hb.block b h.lt (fun e => hne (by injection e)))
theorem DAt.putC (h : DAt W N C K S J Q L) {c v : Int} (hm : MapIs W' N (Value.int .i32) (Value.int .i64) D32 (kput (mst 0 C).1 c) (upd (mst 0 C).2 c v)) (hb : But N W W') : DAt W' N (C ++ [(c, v)]) K S J Q L :=
  ⟨hb.blk h.blk (by omega), by rw [mst_snoc]; exact hm, mapIs_but h.k hb (by omega), mapIs_but h.s hb (by omega), mapIs_but h.j hb (by omega), mapIs_but h.q hb (by omega)⟩
theorem DAt.putK (h : DAt W N C K S J Q L) {c : Int} {v : List Int} (hm : MapIs W' (N + 1) (Value.int .i32) (arrV .i32) D32 (kput (mst [0, 0] K).1 c) (upd (mst [0, 0] K).2 c v)) (hb : But (N + 1) W W') : DAt W' N C (K ++ [(c, v)]) S J Q L :=
  ⟨hb.blk h.blk (by omega), mapIs_but h.c hb (by omega), by rw [mst_snoc]; exact hm, mapIs_but h.s hb (by omega), mapIs_but h.j hb (by omega), mapIs_but h.q hb (by omega)⟩
theorem DAt.putS (h : DAt W N C K S J Q L) {c v : Int} (hm : MapIs W' (N + 2) (Value.int .i32) (Value.int .i32) D32 (kput (mst 0 S).1 c) (upd (mst 0 S).2 c v)) (hb : But (N + 2) W W') : DAt W' N C K (S ++ [(c, v)]) J Q L :=
  ⟨hb.blk h.blk (by omega), mapIs_but h.c hb (by omega), mapIs_but h.k hb (by omega), by rw [mst_snoc]; exact hm, mapIs_but h.j hb (by omega), mapIs_but h.q hb (by omega)⟩
theorem DAt.putJ (h : DAt W N C K S J Q L) {c : List Int} {v : Int} (hm : MapIs W' (N + 3) (arrV .i32) (Value.int .i32) DD2 (kput (mst 0 J).1 c) (upd (mst 0 J).2 c v)) (hb : But (N + 3) W W') : DAt W' N C K S (J ++ [(c, v)]) Q L :=
  ⟨hb.blk h.blk (by omega), mapIs_but h.c hb (by omega), mapIs_but h.k hb (by omega), mapIs_but h.s hb (by omega), by rw [mst_snoc]; exact hm, mapIs_but h.q hb (by omega)⟩
theorem DAt.putQ (h : DAt W N C K S J Q L) {c v : Int} (hm : MapIs W' (N + 4) (Value.int .i32) (Value.int .i64) D32 (kput (mst 0 Q).1 c) (upd (mst 0 Q).2 c v)) (hb : But (N + 4) W W') : DAt W' N C K S J (Q ++ [(c, v)]) L :=
  ⟨hb.blk h.blk (by omega), mapIs_but h.c hb (by omega), mapIs_but h.k hb (by omega), mapIs_but h.s hb (by omega), mapIs_but h.j hb (by omega), by rw [mst_snoc]; exact hm⟩
theorem DAt.putL (h : DAt W N C K S J Q L) (L' : Int) : DAt (W.setCell ⟨N + 5, 5, none⟩ (.int .i64 L')) N C K S J Q L' :=
  ⟨by have := h.blk.set 5 (.int .i64 L'); simpa using this, h.c.far (p := ⟨N + 5, 5, none⟩) (show N ≠ N + 5 by omega) _, h.k.far (p := ⟨N + 5, 5, none⟩) (show N + 1 ≠ N + 5 by omega) _, h.s.far (p := ⟨N + 5, 5, none⟩) (show N + 2 ≠ N + 5 by omega) _, h.j.far (p := ⟨N + 5, 5, none⟩) (show N + 3 ≠ N + 5 by omega) _, h.q.far (p := ⟨N + 5, 5, none⟩) (show N + 4 ≠ N + 5 by omega) _⟩
end
abbrev dW (w : World) : World := (((((w.alloc (.map #[] 0)).alloc (.map #[] 0)).alloc (.map #[] 0)).alloc (.map #[] 0)).alloc (.map #[] 0)).alloc (.cells #[.map (some w.heap.size), .map (some (w.heap.size + 1)), .map (some (w.heap.size + 1 + 1)), .map (some (w.heap.size + 1 + 1 + 1)), .map (some (w.heap.size + 1 + 1 + 1 + 1)), .int .i64 0] 67)
theorem dat_start (w : World) : DAt (dW w) w.heap.size [] [] [] [] [] 0 := by
  have m0 := MapIs.made w (Value.int .i32) (Value.int .i64) D32 (fun _ => (0 : Int))
  have m1 := MapIs.made (w.alloc (.map #[] 0)) (Value.int .i32) (arrV .i32) D32 (fun _ => ([0, 0] : List Int))
  have m2 := MapIs.made ((w.alloc (.map #[] 0)).alloc (.map #[] 0)) (Value.int .i32) (Value.int .i32) D32 (fun _ => (0 : Int))
  have m3 := MapIs.made (((w.alloc (.map #[] 0)).alloc (.map #[] 0)).alloc (.map #[] 0)) (arrV .i32) (Value.int .i32) DD2 (fun _ => (0 : Int))
  have m4 := MapIs.made ((((w.alloc (.map #[] 0)).alloc (.map #[] 0)).alloc (.map #[] 0)).alloc (.map #[] 0)) (Value.int .i32) (Value.int .i64) D32 (fun _ => (0 : Int))
  have b := Blk.new (((((w.alloc (.map #[] 0)).alloc (.map #[] 0)).alloc (.map #[] 0)).alloc (.map #[] 0)).alloc (.map #[] 0)) 67 #[.map (some w.heap.size), .map (some (w.heap.size + 1)), .map (some (w.heap.size + 1 + 1)), .map (some (w.heap.size + 1 + 1 + 1)), .map (some (w.heap.size + 1 + 1 + 1 + 1)), .int .i64 0]
  simp only [World.size_alloc] at m1 m2 m3 m4 b
  exact ⟨b, ((((m0.alloc _).alloc _).alloc _).alloc _).alloc _, (((m1.alloc _).alloc _).alloc _).alloc _, ((m2.alloc _).alloc _).alloc _, (m3.alloc _).alloc _, m4.alloc _⟩

/-- a row of rows, read -/
theorem rowsIs_at {W : World} {B : Nat} {A : Option Addr} {cap n : Nat} {R : List (List Int)} (h : RowsIs W B (.slice A n cap) R) {i : Nat} {r : List Int} (hr : R[i]? = some r) :
    ∃ b bi ci, A = some ⟨b, 0, none⟩ ∧ b < B ∧ bi < B ∧ r.length ≤ ci ∧ ci ≤ maxLen ∧ W.cell? ⟨b, i, none⟩ = some (.slice (some ⟨bi, 0, none⟩) r.length ci) ∧ ∀ (j : Nat) (x : Int), r[j]? = some x → W.cell? ⟨bi, j, none⟩ = some (.int .i32 x) := by
  obtain ⟨A', cap', e1, e2, e3, h⟩ := h
  injection e1 with e4 e5 e6
  subst e4
  rcases h with h | ⟨b, e7, e8, e9⟩
  · rw [h] at hr; simp at hr
  · obtain ⟨bi, ci, f1, f2, f3, f4, f5⟩ := e9 i r hr
    exact ⟨b, bi, ci, e7, e8, f1, f2, f3, f4, f5⟩
theorem rowsIs_form {W : World} {B : Nat} {v : Value} {R : List (List Int)} (h : RowsIs W B v R) : ∃ A cap, v = .slice A R.length cap ∧ R.length ≤ cap ∧ cap ≤ maxLen := by
  obtain ⟨A', cap', e1, e2, e3, h⟩ := h
  exact ⟨A', cap', e1, e2, e3⟩

/-- what the document's Build reads can be read, and is these entries -/
structure DTxt (s : ByteArray) (es : List Ent) (f : Ent → List Int) : Prop where
  size : s.size ≤ 65536
  ok : rokAll (bytesOf s ++ [10]) rzero = true
  rows : rowsOf (bytesOf s) = es.map f
  small : ∀ e ∈ es, e.n1 ≤ 100000000 ∧ e.n2 ≤ 100000000
  len : es.length ≤ 100000000
def DPost (w : World) (C : List (Int × Int)) (K : List (Int × List Int)) (S : List (Int × Int)) (J : List (List Int × Int)) (Q : List (Int × Int)) (L : Int) (e : Ending) (w' : World) : Prop :=
  e = .returned (.pointer (some ⟨w.heap.size + 5, 0, none⟩)) ∧ DAt w' w.heap.size C K S J Q L ∧ Below w.heap.size w w'
def pk5 (P : List Pr5) : List (Int × List Int) := P.map fun p => ((p.c : Int), key5 p)
theorem pk5_snoc (P : List Pr5) (p : Pr5) : pk5 (P ++ [p]) = pk5 P ++ [((p.c : Int), key5 p)] := by unfold pk5; rw [List.map_append]; rfl
theorem jL_snoc (P : List Pr5) (p : Pr5) : jL (P ++ [p]) = if p.o then jL P else jL P ++ [(key5 p, (p.c : Int))] := by
  unfold jL
  rw [List.filter_append, List.map_append]
  cases ho : p.o <;> simp [ho]


theorem map_apart {W : World} {b : Nat} {κ ν : Type} {kv : κ → Value} {vv : ν → Value} {D : κ → Prop} {ks : List κ} {f : κ → ν} (h : MapIs W b kv vv D ks f) {p : Addr} {x : Value} (hc : W.cell? p = some x) : p.block ≠ b := fun e => by
  obtain ⟨es, clock, hb, _⟩ := h
  unfold World.cell? at hc
  rw [e, hb] at hc
  cases hc
theorem cell_lt {W : World} {p : Addr} {x : Value} (hc : W.cell? p = some x) : p.block < W.heap.size := by
  apply Classical.byContradiction; intro hn
  unfold World.cell? at hc
  rw [Array.getElem?_eq_none (by omega)] at hc
  cases hc
theorem rowsIs_keep {W W' : World} {B : Nat} {v : Value} {R : List (List Int)} (h : RowsIs W B v R) (hk : ∀ (p : Addr) (x : Value), W.cell? p = some x → (∀ L : Int, x ≠ .int .i64 L) → W'.cell? p = some x) : RowsIs W' B v R := by
  obtain ⟨A, cap, e1, e2, e3, h⟩ := h
  refine ⟨A, cap, e1, e2, e3, h.imp id fun ⟨b, e4, e5, e6⟩ => ⟨b, e4, e5, fun i r hr => ?_⟩⟩
  obtain ⟨bi, ci, f1, f2, f3, f4, f5⟩ := e6 i r hr
  exact ⟨bi, ci, f1, f2, f3, hk _ _ f4 (fun L e => by cases e), fun j x hj => hk _ _ (f5 j x hj) (fun L e => by injection e with e; cases e)⟩
theorem rowsIs_but {W W' : World} {B b : Nat} {v : Value} {R : List (List Int)} (h : RowsIs W B v R) {κ ν : Type} {kv : κ → Value} {vv : ν → Value} {D : κ → Prop} {ks : List κ} {f : κ → ν} (hm : MapIs W b kv vv D ks f) (hb : But b W W') : RowsIs W' B v R :=
  rowsIs_keep h fun p x hc _ => (hb.cell (cell_lt hc) (map_apart hm hc)).trans hc

/-- while Build fills its tables -/
structure DSt (w : World) (B : Nat) (v : Value) (R : List (List Int)) (C : List (Int × Int)) (K : List (Int × List Int)) (S : List (Int × Int)) (J : List (List Int × Int)) (Q : List (Int × Int)) (L : Int) (W : World) : Prop where
  tb : DAt W w.heap.size C K S J Q L
  rows : RowsIs W B v R
  hB : B ≤ W.heap.size
  be : Below w.heap.size w W
section
variable {w W W' : World} {B : Nat} {v : Value} {R : List (List Int)} {C : List (Int × Int)} {K : List (Int × List Int)} {S : List (Int × Int)} {J : List (List Int × Int)} {Q : List (Int × Int)} {L : Int}
theorem DSt.drew (h : DSt w B v R C K S J Q L W) : DSt w B v R C K S J Q L W.drew :=
  ⟨h.tb.grow (Below.refl _ _).drew, h.rows.below (Below.refl _ W).drew h.hB, h.hB, h.be.drew⟩
theorem DSt.grow (h : DSt w B v R C K S J Q L W) (hb : Below W.heap.size W W') : DSt w B v R C K S J Q L W' :=
  ⟨h.tb.grow hb, h.rows.below hb h.hB, Nat.le_trans h.hB hb.size, h.be.trans (hb.mono h.be.size)⟩
theorem DSt.but {b : Nat} (h : DSt w B v R C K S J Q L W) (hb : But b W W') (hw : w.heap.size ≤ b) : B ≤ W'.heap.size ∧ Below w.heap.size w W' :=
  ⟨Nat.le_trans h.hB hb.size, h.be.trans (hb.below hw h.be.size)⟩
theorem DSt.putC (h : DSt w B v R C K S J Q L W) {c x : Int} (hm : MapIs W' w.heap.size (Value.int .i32) (Value.int .i64) D32 (kput (mst 0 C).1 c) (upd (mst 0 C).2 c x)) (hb : But w.heap.size W W') : DSt w B v R (C ++ [(c, x)]) K S J Q L W' :=
  ⟨h.tb.putC hm hb, rowsIs_but h.rows h.tb.c hb, (h.but hb (by omega)).1, (h.but hb (by omega)).2⟩
theorem DSt.putK (h : DSt w B v R C K S J Q L W) {c : Int} {x : List Int} (hm : MapIs W' (w.heap.size + 1) (Value.int .i32) (arrV .i32) D32 (kput (mst [0, 0] K).1 c) (upd (mst [0, 0] K).2 c x)) (hb : But (w.heap.size + 1) W W') : DSt w B v R C (K ++ [(c, x)]) S J Q L W' :=
  ⟨h.tb.putK hm hb, rowsIs_but h.rows h.tb.k hb, (h.but hb (by omega)).1, (h.but hb (by omega)).2⟩
theorem DSt.putS (h : DSt w B v R C K S J Q L W) {c x : Int} (hm : MapIs W' (w.heap.size + 2) (Value.int .i32) (Value.int .i32) D32 (kput (mst 0 S).1 c) (upd (mst 0 S).2 c x)) (hb : But (w.heap.size + 2) W W') : DSt w B v R C K (S ++ [(c, x)]) J Q L W' :=
  ⟨h.tb.putS hm hb, rowsIs_but h.rows h.tb.s hb, (h.but hb (by omega)).1, (h.but hb (by omega)).2⟩
theorem DSt.putJ (h : DSt w B v R C K S J Q L W) {c : List Int} {x : Int} (hm : MapIs W' (w.heap.size + 3) (arrV .i32) (Value.int .i32) DD2 (kput (mst 0 J).1 c) (upd (mst 0 J).2 c x)) (hb : But (w.heap.size + 3) W W') : DSt w B v R C K S (J ++ [(c, x)]) Q L W' :=
  ⟨h.tb.putJ hm hb, rowsIs_but h.rows h.tb.j hb, (h.but hb (by omega)).1, (h.but hb (by omega)).2⟩
theorem DSt.putQ (h : DSt w B v R C K S J Q L W) {c x : Int} (hm : MapIs W' (w.heap.size + 4) (Value.int .i32) (Value.int .i64) D32 (kput (mst 0 Q).1 c) (upd (mst 0 Q).2 c x)) (hb : But (w.heap.size + 4) W W') : DSt w B v R C K S J (Q ++ [(c, x)]) L W' :=
  ⟨h.tb.putQ hm hb, rowsIs_but h.rows h.tb.q hb, (h.but hb (by omega)).1, (h.but hb (by omega)).2⟩
theorem DSt.putL (h : DSt w B v R C K S J Q L W) (L' : Int) : DSt w B v R C K S J Q L' (W.setCell ⟨w.heap.size + 5, 5, none⟩ (.int .i64 L')) :=
  ⟨h.tb.putL L', rowsIs_keep h.rows fun p x hc hx => by
      rw [World.cell?_setCell_other]
      · exact hc
      · intro e; rw [← e, h.tb.blk.cell 5] at hc; simp at hc; exact hx L hc.symm, by simpa [World.setCell] using h.hB, h.be.trans (((But.refl (w.heap.size + 5) W).set 5 _).below (by omega) h.be.size)⟩
end
end Go.Proofs.YtdmcidljjfogjaaDoor

/- The document's Build (layer 5): the walk. -/
namespace Go.Proofs.YtdmcidljjfogjaaDoor
set_option maxRecDepth 100000
open Go.ChangeShapes Go.WideShapes Go.ChangeAt Go.RowKit
set_option linter.unusedVariables false
set_option linter.unusedSimpArgs false

theorem take_more {α : Type} {l : List α} {k : Nat} {x : α} (h : l[k]? = some x) : l.take (k + 1) = l.take k ++ [x] := by
  rw [List.take_add_one, h]; rfl
theorem row_map {α : Type} {l : List α} {f : α → List Int} {k : Nat} {x : α} (h : l[k]? = some x) : (l.map f)[k]? = some (f x) := by rw [List.getElem?_map, h]; rfl

theorem row_at3 {W : World} {B : Nat} {A : Option Addr} {cap n i : Nat} {es : List Ent} {n0 n1 n2 li : Nat} {o : Bool} (h : RowsIs W B (.slice A n cap) (es.map row3)) (he : es[i]? = some ⟨n0, n1, n2, li, o⟩) :
    ∃ b bi ci, A = some ⟨b, 0, none⟩ ∧ 3 ≤ ci ∧ ci ≤ maxLen ∧ W.cell? ⟨b, i, none⟩ = some (.slice (some ⟨bi, 0, none⟩) 3 ci) ∧ W.cell? ⟨bi, 0, none⟩ = some (.int .i32 n0) ∧ W.cell? ⟨bi, 1, none⟩ = some (.int .i32 n1) ∧ W.cell? ⟨bi, 2, none⟩ = some (.int .i32 n2) := by
  obtain ⟨b, bi, ci, e1, hbb, hbi, hci, hcm, hc0, hcs⟩ := rowsIs_at h (row_map (f := row3) he)
  exact ⟨b, bi, ci, e1, hci, hcm, hc0, hcs 0 _ rfl, hcs 1 _ rfl, hcs 2 _ rfl⟩
theorem row_at4 {W : World} {B : Nat} {A : Option Addr} {cap n i : Nat} {es : List Ent} {n0 n1 n2 li : Nat} {o : Bool} (h : RowsIs W B (.slice A n cap) (es.map row4)) (he : es[i]? = some ⟨n0, n1, n2, li, o⟩) :
    ∃ b bi ci m : Nat, A = some ⟨b, 0, none⟩ ∧ m ≤ ci ∧ ci ≤ maxLen ∧ m = (bif o then 4 else 3) ∧ 3 ≤ m ∧ W.cell? ⟨b, i, none⟩ = some (.slice (some ⟨bi, 0, none⟩) m ci) ∧ W.cell? ⟨bi, 0, none⟩ = some (.int .i32 n0) ∧ W.cell? ⟨bi, 1, none⟩ = some (.int .i32 n1) ∧ W.cell? ⟨bi, 2, none⟩ = some (.int .i32 n2) := by
  obtain ⟨b, bi, ci, e1, hbb, hbi, hci, hcm, hc0, hcs⟩ := rowsIs_at h (row_map (f := row4) he)
  cases o
  · exact ⟨b, bi, ci, 3, e1, hci, hcm, rfl, by omega, hc0, hcs 0 _ rfl, hcs 1 _ rfl, hcs 2 _ rfl⟩
  · exact ⟨b, bi, ci, 4, e1, hci, hcm, rfl, by omega, hc0, hcs 0 _ rfl, hcs 1 _ rfl, hcs 2 _ rfl⟩
theorem row_at2 {W : World} {B : Nat} {A : Option Addr} {cap n i : Nat} {es : List Ent} {n0 n1 n2 li : Nat} {o : Bool} (h : RowsIs W B (.slice A n cap) (es.map row2)) (he : es[i]? = some ⟨n0, n1, n2, li, o⟩) :
    ∃ b bi ci, A = some ⟨b, 0, none⟩ ∧ 2 ≤ ci ∧ ci ≤ maxLen ∧ W.cell? ⟨b, i, none⟩ = some (.slice (some ⟨bi, 0, none⟩) 2 ci) ∧ W.cell? ⟨bi, 0, none⟩ = some (.int .i32 n0) ∧ W.cell? ⟨bi, 1, none⟩ = some (.int .i32 n1) := by
  obtain ⟨b, bi, ci, e1, hbb, hbi, hci, hcm, hc0, hcs⟩ := rowsIs_at h (row_map (f := row2) he)
  exact ⟨b, bi, ci, e1, hci, hcm, hc0, hcs 0 _ rfl, hcs 1 _ rfl⟩

set_option maxRecDepth 100000 in
set_option maxHeartbeats 8000000 in
theorem rbuild_any (w : World) (e1 e2 e3 : List Ent) (H1 : DTxt tOrthoepyref05Build1 e1 row3) (H2 : DTxt tOrthoepyref05Build2 e2 row4) (H3 : DTxt tOrthoepyref05Build3 e3 row2) (b1 : endC 0 e1 ≤ 100000000) (b2 : endP 0 e2 ≤ 100000000) (b3 : endP 0 e3 ≤ 100000000) :
    Calls Tryd.prog 9 #[] w (DPost w (castE (clsE 0 e1)) (pk5 (prE 0 e2)) (castE (sgE 0 e3)) (jL (prE 0 e2)) (castE (scL (prE 0 e2))) (outs (prE 0 e2))) := by
  have hmm := @run_makeMap Tryd.prog
  refine calls_of_wp Tryd.func9 bodyOrthoepyref05Build ?_
  simp only [Tryd.ntmps9, List.size_toArray, List.length_cons, List.length_nil, Nat.reduceAdd, Nat.reduceSub, Array.replicate_succ, Array.replicate_zero, List.push_toArray, List.append_toArray, List.nil_append, List.cons_append]
  unfold cOrthoepyref05Build
  generalize tOrthoepyref05Build1 = T1 at *
  generalize tOrthoepyref05Build2 = T2 at *
  generalize tOrthoepyref05Build3 = T3 at *
  go_wp2_with fail
  have HR1 := Lib.hid (rows_any T1 (dW w) H1.size H1.ok)
  rw [H1.rows] at HR1
  with_reducible refine HR1.out.mono ?_
  rintro e w1 ⟨v1, rfl, hRI, hb1⟩
  obtain ⟨A1, cap1, rfl, hcp1, hcm1⟩ := rowsIs_form hRI
  have HB0 : Below w.heap.size w (dW w) := ((((((Below.refl _ w).alloc (Nat.le_refl _) _).alloc (by simp) _).alloc (by simp; omega) _).alloc (by simp; omega) _).alloc (by simp; omega) _).alloc (by simp; omega) _
  have HS1 : Hid (DSt w w1.heap.size (.slice A1 (e1.map row3).length cap1) (e1.map row3) [] [] [] [] [] 0 w1) := Lib.hid ⟨(dat_start w).grow hb1, hRI, Nat.le_refl _, HB0.trans (hb1.mono HB0.size)⟩
  have HSM1 := Lib.hid H1.small
  have hl1 := H1.len
  clear hRI hb1 HB0 HR1 H1
  rw [List.length_map] at HS1 ⊢
  have HB1 := Lib.hid b1
  clear b1
  generalize w1.heap.size = Bz at HS1
  go_wp2_with fail
  go_loopw [2, 4, 5] (fun at_ i _ wr => ∃ k : Nat, k ≤ e1.length ∧ i = .int .i64 k ∧ at_ = .int .i32 (endC 0 (e1.take k) : Nat) ∧ DSt w Bz (.slice A1 e1.length cap1) (e1.map row3) (castE (clsE 0 (e1.take k))) [] [] [] [] 0 wr) (fun _ i _ _ => e1.length - (intOf i).toNat)
  case atStart => exact ⟨0, by omega, rfl, rfl, HS1.out⟩
  case round =>
    obtain ⟨k, hk, rfl, rfl, hS⟩ := hrel
    by_cases hlt : k < e1.length
    · have HS := Lib.hid hS
      clear hS
      obtain ⟨⟨n0, n1, n2, li, o⟩, he⟩ : ∃ e, e1[k]? = some e := ⟨_, List.getElem?_eq_getElem hlt⟩
      have HT := Lib.hid (take_more he)
      have hmem := List.mem_of_getElem? he
      obtain ⟨hs1, hs2⟩ := HSM1.out _ hmem
      have hpre : endC 0 (e1.take k ++ [⟨n0, n1, n2, li, o⟩]) ≤ 100000000 := Nat.le_trans (endC_pre (by rw [← HT.out]; exact List.take_prefix _ _) 0) HB1.out
      rw [endC_snoc] at hpre
      dsimp only at hs1 hs2 hpre
      obtain ⟨b, bi, ci, rfl, hci, hcm, hc0, c0, c1, c2⟩ := row_at3 HS.out.rows he
      clear hmem
      have HE := Lib.hid he
      clear he
      generalize hA : endC 0 (e1.take k) = a0 at *
      have HA := Lib.hid hA
      clear hA
      go_wp2_with fail
      go_loopw [2, 5] (fun at_ j wr => ∃ m : Nat, m ≤ n1 ∧ j = .int .i32 m ∧ at_ = .int .i32 ((a0 : Int) + n0 + m) ∧ DSt w Bz (.slice (some ⟨b, 0, none⟩) e1.length cap1) (e1.map row3) (castE (clsE 0 (e1.take k) ++ run5 (a0 + n0) m n2)) [] [] [] [] 0 wr) (fun _ j _ => n1 - (intOf j).toNat)
      case atStart => exact ⟨0, by omega, rfl, by go_num, by simpa [run5] using HS.out⟩
      case round =>
        obtain ⟨m, hm, rfl, rfl, hS2⟩ := hrel
        have HS2 := Lib.hid hS2
        clear hS2 HS hc0 c0 c1 c2 hci hcm
        obtain ⟨b', bi, ci, hb', hci, hcm, hc0, c0, c1, c2⟩ := row_at3 HS2.out.rows HE.out
        injection hb' with hb'; injection hb' with hb'; subst hb'
        by_cases hml : m < n1
        · go_wp2_with fail
          refine wp_region_still_tail 12 (by kernel_rfl) (by kernel_rfl) ?_
          simp only [List.take_succ_cons, List.take_zero, List.drop_succ_cons, List.drop_zero]
          have HS3 := Lib.hid HS2.out.drew
          have hc0 : wr.drew.cell? ⟨b, k, none⟩ = some (.slice (some ⟨bi, 0, none⟩) 3 ci) := hc0
          have c2 : wr.drew.cell? ⟨bi, 2, none⟩ = some (.int .i32 n2) := c2
          change wpStill _ _ wr.drew (fun a => wpList _ _ _ _ a wr.drew) _ _
          clear HS2 c0 c1
          generalize wr.drew = w5 at *
          have t0 : w5.cell? ⟨w.heap.size + 1 + 1 + 1 + 1 + 1, 0, none⟩ = some (.map (some w.heap.size)) := HS3.out.tb.blk.cell 0
          have HD : Hid (D32 ((a0 : Int) + n0 + m)) := Lib.hid (WalkArith.wf_i32 (by omega))
          repeat still_step
          refine wpStill_nil ?_
          obtain ⟨w6, hrun, hm6, hb6⟩ := MapIs.store (t := 62) HS3.out.tb.c kvI Tryd.underlying62 ((a0 : Int) + n0 + m) HD.out (n2 : Int)
          have HS4 := Lib.hid (HS3.out.putC hm6 hb6)
          clear hm6 hb6 HS3 hc0 c2 t0
          go_wp2_with fail
          rw [hrun]
          go_wp2
          go_roundw
          case rel => exact ⟨m + 1, by omega, by go_num, by go_num, by
            have := HS4.out
            rw [run5_snoc, ← List.append_assoc, castE_app]
            simpa [castE] using this⟩
          case measure => simp [intOf]; omega
        · have hmm1 : m = n1 := by omega
          subst hmm1
          clear hml
          have HS5 := Lib.hid HS2.out
          clear HS2 c2
          go_wp2
          go_roundw
          case rel => exact ⟨k + 1, by omega, by go_num, by rw [HT.out, endC_snoc, HA.out]; go_num, by rw [HT.out, clsE_snoc, HA.out]; exact HS5.out⟩
          case measure => simp [intOf]; omega
    · have hkk : k = e1.length := by omega
      subst hkk
      have HS6 := Lib.hid hS
      rw [List.take_length] at HS6
      clear hS hlt hk HS1 HSM1 HB1
      go_wp2_with fail
      have HR2 := Lib.hid (rows_any T2 wr H2.size H2.ok)
      rw [H2.rows] at HR2
      with_reducible refine HR2.out.mono ?_
      rintro e w2 ⟨v2, rfl, hRI, hb2⟩
      obtain ⟨A2, cap2, rfl, hcp2, hcm2⟩ := rowsIs_form hRI
      have hq := HS6.out.grow hb2
      have HQ1 : Hid (DSt w w2.heap.size (.slice A2 (e2.map row4).length cap2) (e2.map row4) (castE (clsE 0 e1)) [] [] [] [] 0 w2) := Lib.hid ⟨hq.tb, hRI, Nat.le_refl _, hq.be⟩
      have HSM2 := Lib.hid H2.small
      have hl2 := H2.len
      clear hRI hb2 hq HS6 HR2 H2 hcp1 hcm1 hl1
      rw [List.length_map] at HQ1 ⊢
      have HB2 := Lib.hid b2
      clear b2
      generalize w2.heap.size = Bz2 at HQ1
      generalize castE (clsE 0 e1) = CC at *
      go_wp2_with fail
      go_loopw [2, 6, 7] (fun at_ i _ wr => ∃ k : Nat, k ≤ e2.length ∧ i = .int .i64 k ∧ at_ = .int .i32 (endP 0 (e2.take k) : Nat) ∧ DSt w Bz2 (.slice A2 e2.length cap2) (e2.map row4) CC (pk5 (prE 0 (e2.take k))) [] (jL (prE 0 (e2.take k))) (castE (scL (prE 0 (e2.take k)))) (outs (prE 0 (e2.take k))) wr) (fun _ i _ _ => e2.length - (intOf i).toNat)
      case atStart => exact ⟨0, by omega, rfl, rfl, HQ1.out⟩
      case round =>
        obtain ⟨k, hk, rfl, rfl, hS⟩ := hrel
        by_cases hlt : k < e2.length
        · have HS := Lib.hid hS
          clear hS
          obtain ⟨⟨n0, n1, n2, li, o⟩, he⟩ : ∃ e, e2[k]? = some e := ⟨_, List.getElem?_eq_getElem hlt⟩
          have HT := Lib.hid (take_more he)
          have hmem := List.mem_of_getElem? he
          obtain ⟨hs1, hs2⟩ := HSM2.out _ hmem
          have hpre : endP 0 (e2.take k ++ [⟨n0, n1, n2, li, o⟩]) ≤ 100000000 := Nat.le_trans (endP_pre (by rw [← HT.out]; exact List.take_prefix _ _) 0) HB2.out
          rw [endP_snoc] at hpre
          dsimp only at hs1 hs2 hpre
          obtain ⟨b, bi, ci, mm, rfl, hci, hcm, hmo, hm3, hc0, c0, c1, c2⟩ := row_at4 HS.out.rows he
          have HE := Lib.hid he
          clear he hmem
          generalize hA : endP 0 (e2.take k) = a0 at *
          have HA := Lib.hid hA
          clear hA
          have HMO := Lib.hid hmo
          clear hmo
          have hmA : (0 : Int) < mm := by omega
          have hmB : (1 : Int) < mm := by omega
          have hmC : (2 : Int) < mm := by omega
          go_wp2_with fail
          refine wp_region_U (fun u => u.cell? ⟨b, k, none⟩ = some (.slice (some ⟨bi, 0, none⟩) mm ci) ∧ u.cell? ⟨bi, 1, none⟩ = some (.int .i32 n1) ∧ u.cell? ⟨bi, 2, none⟩ = some (.int .i32 n2)) 14 (by kernel_rfl) ?_
          have HSU : Hid (wr.drew.cell? ⟨b, k, none⟩ = some (.slice (some ⟨bi, 0, none⟩) mm ci) ∧ wr.drew.cell? ⟨bi, 1, none⟩ = some (.int .i32 n1) ∧ wr.drew.cell? ⟨bi, 2, none⟩ = some (.int .i32 n2)) := Lib.hid ⟨hc0, c1, c2⟩
          have HSD := Lib.hid HS.out.drew
          have HTBX : Hid (w.heap.size + 5 < wr.drew.heap.size) := Lib.hid HSD.out.tb.lt
          clear hc0 c0 c1 c2 HS
          generalize wr.drew = w3 at *
          refine wpU_take 0 70 (v := ?v0a) rfl rfl (by kernel_rfl) (by kernel_rfl) (by kernel_rfl) (by kernel_rfl) (fun _ _ _ h => h) HSU.out (Or.inl ⟨by rfl, ?y0a⟩) ?r0a
          case y0a => (intro W _; go_simp; try with_reducible rfl)
          try simp only [Act.put, List.setIfInBounds_toArray, List.set_cons_zero, List.set_cons_succ]
          refine wpU_take 1 71 (v := ?v1a) rfl rfl (by kernel_rfl) (by kernel_rfl) (by kernel_rfl) (by kernel_rfl) (fun _ _ _ h => h) HSU.out (Or.inl ⟨by rfl, ?y1a⟩) ?r1a
          case y1a => (intro W _; go_simp; try with_reducible rfl)
          try simp only [Act.put, List.setIfInBounds_toArray, List.set_cons_zero, List.set_cons_succ]
          refine wpU_take 2 72 (v := ?v2a) rfl rfl (by kernel_rfl) (by kernel_rfl) (by kernel_rfl) (by kernel_rfl) (fun _ _ _ h => h) HSU.out (Or.inl ⟨by rfl, ?y2a⟩) ?r2a
          case y2a => (intro W _; go_simp; try with_reducible rfl)
          try simp only [Act.put, List.setIfInBounds_toArray, List.set_cons_zero, List.set_cons_succ]
          refine wpU_take 3 73 (v := ?v3a) rfl rfl (by kernel_rfl) (by kernel_rfl) (by kernel_rfl) (by kernel_rfl) (fun _ _ _ h => h) HSU.out (Or.inl ⟨by rfl, ?y3a⟩) ?r3a
          case y3a => (rintro W ⟨x1, x2, x3⟩; go_simp; try with_reducible rfl)
          try simp only [Act.put, List.setIfInBounds_toArray, List.set_cons_zero, List.set_cons_succ]
          refine wpU_take 4 74 (v := ?v4a) rfl rfl (by kernel_rfl) (by kernel_rfl) (by kernel_rfl) (by kernel_rfl) (fun _ _ _ h => h) HSU.out (Or.inl ⟨by rfl, ?y4a⟩) ?r4a
          case y4a => (intro W _; go_simp; try with_reducible rfl)
          try simp only [Act.put, List.setIfInBounds_toArray, List.set_cons_zero, List.set_cons_succ]
          refine wpU_take 5 75 (v := ?v5a) rfl rfl (by kernel_rfl) (by kernel_rfl) (by kernel_rfl) (by kernel_rfl) (fun _ _ _ h => h) HSU.out (Or.inl ⟨by rfl, ?y5a⟩) ?r5a
          case y5a => (rintro W ⟨x1, x2, x3⟩; go_simp; try with_reducible rfl)
          try simp only [Act.put, List.setIfInBounds_toArray, List.set_cons_zero, List.set_cons_succ]
          refine wpU_take 6 76 (v := ?v6a) rfl rfl (by kernel_rfl) (by kernel_rfl) (by kernel_rfl) (by kernel_rfl) (fun _ _ _ h => h) HSU.out (Or.inl ⟨by rfl, ?y6a⟩) ?r6a
          case y6a => (intro W _; go_simp; try with_reducible rfl)
          try simp only [Act.put, List.setIfInBounds_toArray, List.set_cons_zero, List.set_cons_succ]
          refine wpU_take 7 77 (v := ?v7a) rfl rfl (by kernel_rfl) (by kernel_rfl) (by kernel_rfl) (by kernel_rfl) (fun _ _ _ h => h) HSU.out (Or.inl ⟨by rfl, ?y7a⟩) ?r7a
          case y7a => (intro W _; go_simp; try with_reducible rfl)
          try simp only [Act.put, List.setIfInBounds_toArray, List.set_cons_zero, List.set_cons_succ]
          refine wpU_take 8 78 (v := ?v8a) rfl rfl (by kernel_rfl) (by kernel_rfl) (by kernel_rfl) (by kernel_rfl) (fun _ _ _ h => h) HSU.out (Or.inl ⟨by rfl, ?y8a⟩) ?r8a
          case y8a => (intro W _; go_simp; try with_reducible rfl)
          try simp only [Act.put, List.setIfInBounds_toArray, List.set_cons_zero, List.set_cons_succ]
          refine wpU_take 9 79 (v := ?v9a) rfl rfl (by kernel_rfl) (by kernel_rfl) (by kernel_rfl) (by kernel_rfl) (fun _ _ _ h => h) HSU.out (Or.inl ⟨by rfl, ?y9a⟩) ?r9a
          case y9a => (rintro W ⟨x1, x2, x3⟩; go_simp; try with_reducible rfl)
          try simp only [Act.put, List.setIfInBounds_toArray, List.set_cons_zero, List.set_cons_succ]
          refine wpU_take 10 80 (v := ?v10a) rfl rfl (by kernel_rfl) (by kernel_rfl) (by kernel_rfl) (by kernel_rfl) (fun _ _ _ h => h) HSU.out (Or.inl ⟨by rfl, ?y10a⟩) ?r10a
          case y10a => (intro W _; go_simp; try with_reducible rfl)
          try simp only [Act.put, List.setIfInBounds_toArray, List.set_cons_zero, List.set_cons_succ]
          refine wpU_take 11 81 (v := ?v11a) rfl rfl (by kernel_rfl) (by kernel_rfl) (by kernel_rfl) (by kernel_rfl) (fun _ _ _ h => h) HSU.out (Or.inl ⟨by rfl, ?y11a⟩) ?r11a
          case y11a => (rintro W ⟨x1, x2, x3⟩; go_simp; try with_reducible rfl)
          try simp only [Act.put, List.setIfInBounds_toArray, List.set_cons_zero, List.set_cons_succ]
          refine wpU_take 12 82 (v := ?v12a) rfl rfl (by kernel_rfl) (by kernel_rfl) (by kernel_rfl) (by kernel_rfl) (fun _ _ _ h => h) HSU.out (Or.inl ⟨by rfl, ?y12a⟩) ?r12a
          case y12a => (intro W _; go_simp; try with_reducible rfl)
          try simp only [Act.put, List.setIfInBounds_toArray, List.set_cons_zero, List.set_cons_succ]
          have HSA : Hid ((w3.alloc (.cells #[.int .i32 0, .int .i32 0] 70)).cell? ⟨b, k, none⟩ = some (.slice (some ⟨bi, 0, none⟩) mm ci) ∧ (w3.alloc (.cells #[.int .i32 0, .int .i32 0] 70)).cell? ⟨bi, 1, none⟩ = some (.int .i32 n1) ∧ (w3.alloc (.cells #[.int .i32 0, .int .i32 0] 70)).cell? ⟨bi, 2, none⟩ = some (.int .i32 n2)) := Lib.hid ⟨(Below.cell ((Below.refl _ w3).alloc (Nat.le_refl _) _) (p := ⟨b, k, none⟩) (cell_lt HSU.out.1)).trans HSU.out.1, (Below.cell ((Below.refl _ w3).alloc (Nat.le_refl _) _) (p := ⟨bi, 1, none⟩) (cell_lt HSU.out.2.1)).trans HSU.out.2.1, (Below.cell ((Below.refl _ w3).alloc (Nat.le_refl _) _) (p := ⟨bi, 2, none⟩) (cell_lt HSU.out.2.2)).trans HSU.out.2.2⟩
          refine wpU_one 13 (by kernel_rfl) rfl (fun K hK => ?_)
          go_simp
          refine hK.out _ _ HSA.out ?_
          clear hK K
          try simp only [Act.put, List.setIfInBounds_toArray, List.set_cons_zero, List.set_cons_succ]
          have KZ := Blk.new w3 70 #[.int .i32 0, .int .i32 0]
          have z0 : (w3.alloc (.cells #[.int .i32 0, .int .i32 0] 70)).cell? ⟨w3.heap.size, 0, none⟩ = some (.int .i32 0) := KZ.cell 0
          have z1 : (w3.alloc (.cells #[.int .i32 0, .int .i32 0] 70)).cell? ⟨w3.heap.size, 1, none⟩ = some (.int .i32 0) := KZ.cell 1
          have z2 : (w3.alloc (.cells #[.int .i32 0, .int .i32 0] 70)).frozen? ⟨w3.heap.size, 0, none⟩ = false := KZ.frozen 0
          have z3 : (w3.alloc (.cells #[.int .i32 0, .int .i32 0] 70)).frozen? ⟨w3.heap.size, 1, none⟩ = false := KZ.frozen 1
          refine wpU_last (by kernel_rfl) rfl (by kernel_rfl) (fun K hK => ?_)
          go_simp
          refine hK.out _ _ ?_
          clear hK K z0 z1 z2 z3 HSA
          have KT : Hid (Blk (w3.alloc (.cells #[.int .i32 n1, .int .i32 n2] 70)) w3.heap.size 70 #[.int .i32 n1, .int .i32 n2]) := Lib.hid (Blk.new w3 _ _)
          have HS4 := Lib.hid (HSD.out.grow ((Below.refl _ w3).alloc (Nat.le_refl _) (.cells #[.int .i32 n1, .int .i32 n2] 70)))
          clear KZ HSU HSD
          have HTB : Hid (w.heap.size + 5 < w3.heap.size) := Lib.hid HTBX.out
          generalize w3.alloc (.cells #[.int .i32 n1, .int .i32 n2] 70) = w4 at *
          generalize w3.heap.size = tw at *
          go_wp2_with fail
          refine wp_region_still_tail 6 (by kernel_rfl) (by kernel_rfl) ?_
          simp only [List.take_succ_cons, List.take_zero, List.drop_succ_cons, List.drop_zero]
          change wpStill _ _ w4.drew (fun a => wpList _ _ _ _ a w4.drew) _ _
          have HS5 := Lib.hid HS4.out.drew
          have KT5 := Lib.hid KT.out.drew
          clear HS4 KT
          generalize w4.drew = w5 at *
          have t1 : w5.cell? ⟨w.heap.size + 1 + 1 + 1 + 1 + 1, 1, none⟩ = some (.map (some (w.heap.size + 1))) := HS5.out.tb.blk.cell 1
          have y0 : w5.cell? ⟨tw, 0, none⟩ = some (.int .i32 n1) := KT5.out.cell 0
          have y1 : w5.cell? ⟨tw, 1, none⟩ = some (.int .i32 n2) := KT5.out.cell 1
          have HD : Hid (D32 ((a0 : Int) + n0)) := Lib.hid (WalkArith.wf_i32 (by omega))
          repeat still_step
          refine wpStill_nil ?_
          obtain ⟨w6, hrun, hm6, hb6⟩ := MapIs.store (t := 63) HS5.out.tb.k kvI Tryd.underlying63 ((a0 : Int) + n0) HD.out [(n1 : Int), (n2 : Int)]
          have hrun : (Instr.mapUpdate 63 (.map (some (w.heap.size + 1))) (.int .i32 ((a0 : Int) + n0)) (.agg #[.int .i32 n1, .int .i32 n2])).run Tryd.prog w5 = .ok () w6 := hrun
          have HS6 := Lib.hid (HS5.out.putK hm6 hb6)
          have KT6 := Lib.hid (hb6.blk KT5.out (by have := HTB.out; omega))
          clear hm6 hb6 HS5 KT5 t1 y0 y1
          obtain ⟨b', bi, ci, mm', hb', hci, hcm, hmo', hm3', hc0, c0, c1, c2⟩ := row_at4 HS6.out.rows HE.out
          injection hb' with hb'; injection hb' with hb'; subst hb'
          obtain rfl : mm' = mm := by rw [hmo', HMO.out]
          have q0 : w6.cell? ⟨w.heap.size + 1 + 1 + 1 + 1 + 1, 3, none⟩ = some (.map (some (w.heap.size + 1 + 1 + 1))) := HS6.out.tb.blk.cell 3
          cases o with
          | true =>
            obtain rfl : mm' = 4 := hmo'
            have hO := outs_len (prE 0 (e2.take k))
            have hPL : (prE 0 (e2.take k)).length ≤ 100000000 := by rw [prE_len]; simp; omega
            have l0 : w6.cell? ⟨w.heap.size + 1 + 1 + 1 + 1 + 1, 5, none⟩ = some (.int .i64 (outs (prE 0 (e2.take k)) : Nat)) := HS6.out.tb.blk.cell 5
            have l1 : w6.frozen? ⟨w.heap.size + 1 + 1 + 1 + 1 + 1, 5, none⟩ = false := HS6.out.tb.blk.frozen 5
            generalize hou : outs (prE 0 (e2.take k)) = ou at *
            have HOU := Lib.hid hou
            clear hou
            go_wp2
            go_roundw
            case rel => exact ⟨k + 1, by omega, by go_num, by rw [HT.out, endP_snoc, HA.out]; go_num, by
              have := HS6.out.putL ((ou : Int) + 1)
              rw [HT.out, prE_snoc, HA.out, pk5_snoc, jL_snoc, scL_app, outs_app, HOU.out]
              simpa [scL, outs, castE, key5] using this⟩
            case measure => simp [intOf]; omega
          | false =>
            obtain rfl : mm' = 3 := hmo'
            go_wp2_with fail
            refine wp_region_still_tail 6 (by kernel_rfl) (by kernel_rfl) ?_
            simp only [List.take_succ_cons, List.take_zero, List.drop_succ_cons, List.drop_zero]
            change wpStill _ _ w6.drew (fun a => wpList _ _ _ _ a w6.drew) _ _
            have HS7 := Lib.hid HS6.out.drew
            have KT7 := Lib.hid KT6.out.drew
            clear HS6 KT6 hc0 c0 c1 c2 q0
            generalize w6.drew = w7 at *
            have t3 : w7.cell? ⟨w.heap.size + 1 + 1 + 1 + 1 + 1, 3, none⟩ = some (.map (some (w.heap.size + 1 + 1 + 1))) := HS7.out.tb.blk.cell 3
            have y0 : w7.cell? ⟨tw, 0, none⟩ = some (.int .i32 n1) := KT7.out.cell 0
            have y1 : w7.cell? ⟨tw, 1, none⟩ = some (.int .i32 n2) := KT7.out.cell 1
            have HD2 : Hid (DD2 [(n1 : Int), (n2 : Int)]) := Lib.hid ⟨rfl, fun x hx => by
              rcases List.mem_cons.1 hx with rfl | hx
              · exact WalkArith.wf_i32 (by omega)
              · simp at hx; subst hx; exact WalkArith.wf_i32 (by omega)⟩
            repeat still_step
            refine wpStill_nil ?_
            obtain ⟨w8, hrun, hm8, hb8⟩ := MapIs.store (t := 65) HS7.out.tb.j kv2 Tryd.underlying65 [(n1 : Int), (n2 : Int)] HD2.out ((a0 : Int) + n0)
            have hrun : (Instr.mapUpdate 65 (.map (some (w.heap.size + 1 + 1 + 1))) (.agg #[.int .i32 n1, .int .i32 n2]) (.int .i32 ((a0 : Int) + n0))).run Tryd.prog w7 = .ok () w8 := hrun
            have HS8 := Lib.hid (HS7.out.putJ hm8 hb8)
            have KT8 := Lib.hid (hb8.blk KT7.out (by have := HTB.out; omega))
            clear hm8 hb8 HS7 KT7 t3 y0 y1
            go_wp2_with fail
            refine wp_region_still_tail 6 (by kernel_rfl) (by kernel_rfl) ?_
            simp only [List.take_succ_cons, List.take_zero, List.drop_succ_cons, List.drop_zero]
            change wpStill _ _ w8.drew (fun a => wpList _ _ _ _ a w8.drew) _ _
            have HS9 := Lib.hid HS8.out.drew
            have KT9 := Lib.hid KT8.out.drew
            clear HS8 KT8
            generalize w8.drew = w9 at *
            have t4 : w9.cell? ⟨w.heap.size + 1 + 1 + 1 + 1 + 1, 4, none⟩ = some (.map (some (w.heap.size + 1 + 1 + 1 + 1))) := HS9.out.tb.blk.cell 4
            have y1 : w9.cell? ⟨tw, 1, none⟩ = some (.int .i32 n2) := KT9.out.cell 1
            have HD3 : Hid (D32 (n2 : Int)) := Lib.hid (WalkArith.wf_i32 (by omega))
            repeat still_step
            refine wpStill_nil ?_
            obtain ⟨wa, hrun, hma, hba⟩ := MapIs.store (t := 62) HS9.out.tb.q kvI Tryd.underlying62 (n2 : Int) HD3.out (1 : Int)
            have hrun : (Instr.mapUpdate 62 (.map (some (w.heap.size + 1 + 1 + 1 + 1))) (.int .i32 n2) (.int .i64 1)).run Tryd.prog w9 = .ok () wa := hrun
            have HSB := Lib.hid (HS9.out.putQ hma hba)
            clear hma hba HS9 KT9 t4 y1
            go_wp2
            go_roundw
            case rel => exact ⟨k + 1, by omega, by go_num, by rw [HT.out, endP_snoc, HA.out]; go_num, by
              have := HSB.out
              rw [HT.out, prE_snoc, HA.out, pk5_snoc, jL_snoc, scL_app, outs_app, castE_app]
              simpa [scL, outs, castE, key5] using this⟩
            case measure => simp [intOf]; omega
        · have hkk : k = e2.length := by omega
          subst hkk
          have HS6 := Lib.hid hS
          rw [List.take_length] at HS6
          clear hS hlt hk HQ1 HSM2 HB2
          go_wp2_with fail
          have HR3 := Lib.hid (rows_any T3 wr H3.size H3.ok)
          rw [H3.rows] at HR3
          with_reducible refine HR3.out.mono ?_
          rintro e w3 ⟨v3, rfl, hRI, hb3⟩
          obtain ⟨A3, cap3, rfl, hcp3, hcm3⟩ := rowsIs_form hRI
          have hq := HS6.out.grow hb3
          generalize pk5 (prE 0 e2) = KK at *
          generalize jL (prE 0 e2) = JJ at *
          generalize castE (scL (prE 0 e2)) = QQ at *
          generalize outs (prE 0 e2) = LL at *
          have HQ1 : Hid (DSt w w3.heap.size (.slice A3 (e3.map row2).length cap3) (e3.map row2) CC KK [] JJ QQ LL w3) := Lib.hid ⟨hq.tb, hRI, Nat.le_refl _, hq.be⟩
          have HSM3 := Lib.hid H3.small
          have hl3 := H3.len
          clear hRI hb3 hq HS6 HR3 H3 hcp2 hcm2 hl2
          rw [List.length_map] at HQ1 ⊢
          have HB3 := Lib.hid b3
          clear b3
          generalize w3.heap.size = Bz3 at HQ1
          go_wp2_with fail
          go_loopw [2, 8] (fun at_ i wr => ∃ k : Nat, k ≤ e3.length ∧ i = .int .i64 k ∧ at_ = .int .i32 (endP 0 (e3.take k) : Nat) ∧ DSt w Bz3 (.slice A3 e3.length cap3) (e3.map row2) CC KK (castE (sgE 0 (e3.take k))) JJ QQ LL wr) (fun _ i _ => e3.length - (intOf i).toNat)
          case atStart => exact ⟨0, by omega, rfl, rfl, HQ1.out⟩
          case round =>
            obtain ⟨k, hk, rfl, rfl, hS⟩ := hrel
            by_cases hlt : k < e3.length
            · have HS := Lib.hid hS
              clear hS
              obtain ⟨⟨n0, n1, n2, li, o⟩, he⟩ : ∃ e, e3[k]? = some e := ⟨_, List.getElem?_eq_getElem hlt⟩
              have HT := Lib.hid (take_more he)
              have hmem := List.mem_of_getElem? he
              obtain ⟨hs1, hs2⟩ := HSM3.out _ hmem
              have hpre : endP 0 (e3.take k ++ [⟨n0, n1, n2, li, o⟩]) ≤ 100000000 := Nat.le_trans (endP_pre (by rw [← HT.out]; exact List.take_prefix _ _) 0) HB3.out
              rw [endP_snoc] at hpre
              dsimp only at hs1 hs2 hpre
              obtain ⟨b, bi, ci, rfl, hci, hcm, hc0, c0, c1⟩ := row_at2 HS.out.rows he
              clear he hmem
              generalize hA : endP 0 (e3.take k) = a0 at *
              have HA := Lib.hid hA
              clear hA
              go_wp2_with fail
              refine wp_region_still_tail 11 (by kernel_rfl) (by kernel_rfl) ?_
              simp only [List.take_succ_cons, List.take_zero, List.drop_succ_cons, List.drop_zero]
              change wpStill _ _ wr.drew (fun a => wpList _ _ _ _ a wr.drew) _ _
              have HS5 := Lib.hid HS.out.drew
              have hc0 : wr.drew.cell? ⟨b, k, none⟩ = some (.slice (some ⟨bi, 0, none⟩) 2 ci) := hc0
              have c1 : wr.drew.cell? ⟨bi, 1, none⟩ = some (.int .i32 n1) := c1
              clear HS c0
              generalize wr.drew = w5 at *
              have t2 : w5.cell? ⟨w.heap.size + 1 + 1 + 1 + 1 + 1, 2, none⟩ = some (.map (some (w.heap.size + 1 + 1))) := HS5.out.tb.blk.cell 2
              have HD : Hid (D32 ((a0 : Int) + n0)) := Lib.hid (WalkArith.wf_i32 (by omega))
              repeat still_step
              refine wpStill_nil ?_
              obtain ⟨w6, hrun, hm6, hb6⟩ := MapIs.store (t := 64) HS5.out.tb.s kvI Tryd.underlying64 ((a0 : Int) + n0) HD.out (n1 : Int)
              have hrun : (Instr.mapUpdate 64 (.map (some (w.heap.size + 1 + 1))) (.int .i32 ((a0 : Int) + n0)) (.int .i32 n1)).run Tryd.prog w5 = .ok () w6 := hrun
              have HS6 := Lib.hid (HS5.out.putS hm6 hb6)
              clear hm6 hb6 HS5 t2 hc0 c1
              go_wp2
              go_roundw
              case rel => exact ⟨k + 1, by omega, by go_num, by rw [HT.out, endP_snoc, HA.out]; go_num, by
                have := HS6.out
                rw [HT.out, sgE_snoc, HA.out, castE_app]
                simpa [castE] using this⟩
              case measure => simp [intOf]; omega
            · have hkk : k = e3.length := by omega
              subst hkk
              have HS6 := Lib.hid hS
              rw [List.take_length] at HS6
              clear hS hlt hk HQ1 HSM3 HB3
              go_wp2
              go_ret
              exact ⟨rfl, HS6.out.tb, HS6.out.be⟩
end Go.Proofs.YtdmcidljjfogjaaDoor

/- Layer 5: the document's texts say what the program's texts say, reckoned by the kernel. -/
namespace Go.Proofs.YtdmcidljjfogjaaDoor

theorem dtxt_of {s : ByteArray} {es : List Ent} {f : Ent → List Int} (h1 : Nat.ble s.data.size 65536 = true) (h2 : rokAll (bytesOf s ++ [10]) rzero = true) (h3 : eqL (rowsOf (bytesOf s)) (es.map f) = true) (h4 : ∀ e ∈ es, e.n1 ≤ 100000000 ∧ e.n2 ≤ 100000000) (h5 : es.length ≤ 100000000) : DTxt s es f :=
  ⟨Nat.le_of_ble_eq_true h1, h2, eqL_eq h3, h4, h5⟩
theorem kR1 : eqL (rowsOf (bytesOf tOrthoepyref05Build1)) ((esOf tUcdBuild1).map row3) = true := by kernel_rfl
theorem kR2 : eqL (rowsOf (bytesOf tOrthoepyref05Build2)) ((esOf tUcdBuild2).map row4) = true := by kernel_rfl
theorem kR3 : eqL (rowsOf (bytesOf tOrthoepyref05Build3)) ((esOf tUcdBuild3).map row2) = true := by kernel_rfl
theorem kO1 : rokAll (bytesOf tOrthoepyref05Build1 ++ [10]) rzero = true := by kernel_rfl
theorem kO2 : rokAll (bytesOf tOrthoepyref05Build2 ++ [10]) rzero = true := by kernel_rfl
theorem kO3 : rokAll (bytesOf tOrthoepyref05Build3 ++ [10]) rzero = true := by kernel_rfl
theorem D1 : DTxt tOrthoepyref05Build1 (esOf tUcdBuild1) row3 := dtxt_of (by kernel_rfl) kO1 kR1 K1.small K1.len
theorem D2 : DTxt tOrthoepyref05Build2 (esOf tUcdBuild2) row4 := dtxt_of (by kernel_rfl) kO2 kR2 K2.small K2.len
theorem D3 : DTxt tOrthoepyref05Build3 (esOf tUcdBuild3) row2 := dtxt_of (by kernel_rfl) kO3 kR3 K3.small K3.len
theorem dbuild_any (w : World) : Calls Tryd.prog 9 #[] w (DPost w (castE C5) (pk5 P5) (castE S5) (jL P5) (castE (scL P5)) (outs P5)) :=
  rbuild_any w _ _ _ D1 D2 D3 kE1 kE2 kE3
end Go.Proofs.YtdmcidljjfogjaaDoor

/- Layer 5: what the document's tables answer. -/
namespace Go.Proofs.YtdmcidljjfogjaaDoor
open Go.ChangeShapes Go.WideShapes Go.ChangeAt Go.RowKit
set_option linter.unusedVariables false
set_option linter.unusedSimpArgs false

/-- the document's tables of these texts -/
abbrev DTab (W : World) (N : Nat) : Prop := DAt W N (castE C5) (pk5 P5) (castE S5) (jL P5) (castE (scL P5)) (outs P5)
theorem zero_int (w : World) : (zeroValue 3).run Tryd.prog w = .ok (.int .i64 0) w := by kernel_rfl
theorem zero_two (w : World) : (zeroValue 70).run Tryd.prog w = .ok (.agg #[.int .i32 0, .int .i32 0]) w := by kernel_rfl
theorem pk5_look (P : List Pr5) : ∀ c : Int, look (pk5 P) c = (lastP P c).map key5 := by
  refine snoc_ind (p := fun P => ∀ c : Int, look (pk5 P) c = (lastP P c).map key5) (fun c => rfl) (fun P p ih c => ?_) P
  rw [pk5_snoc, look_snoc, lastP_snoc, ih]
  dsimp only
  split <;> rfl
theorem pl_cast {l : List (Nat × Nat)} (h : ∀ e ∈ l, e.1 ≤ 1114111) : ∀ e ∈ castE l, isPl e.1 = true := fun e he => by
  obtain ⟨x, hx, rfl⟩ := castE_mem.1 he
  exact isPl_iff.2 ⟨by dsimp only; omega, by have := h x hx; dsimp only; omega⟩
theorem plC : ∀ e ∈ castE C5, isPl e.1 = true := pl_cast fun e he => (fine5.c e he).1
theorem plS : ∀ e ∈ castE S5, isPl e.1 = true := pl_cast fun e he => (fine5.s e he).1
theorem plQ : ∀ e ∈ castE (scL P5), isPl e.1 = true := pl_cast fun e he => by
  obtain ⟨p, hp, _, rfl⟩ := scL_mem.1 he
  exact (fine5.p p hp).2.2
theorem int_look {l : List (Int × Int)} (hl : ∀ e ∈ l, isPl e.1 = true) (q : IntKind) (c : Int) : (if c ∈ (mst 0 l).1 then Value.int q ((mst 0 l).2 c) else .int q 0) = .int q (tab l c) := by
  obtain ⟨h1, h2⟩ := mst_look (0 : Int) l c
  rw [tab_look l hl c, h2]
  cases hh : look l c with
  | none => rw [if_neg (by rw [h1, hh]; simp)]; rfl
  | some v => rw [if_pos (by rw [h1, hh]; rfl)]
theorem sgl_in (c : Int) : decide (c ∈ (mst 0 (castE S5)).1) = (tab (castE S5) c != 0) := by
  obtain ⟨h1, h2⟩ := mst_look (0 : Int) (castE S5) c
  rw [tab_look _ plS c]
  cases hh : look (castE S5) c with
  | none =>
    have : ¬ c ∈ (mst 0 (castE S5)).1 := by rw [h1, hh]; simp
    simp [this]
  | some v =>
    have hin : c ∈ (mst 0 (castE S5)).1 := by rw [h1, hh]; rfl
    obtain ⟨x, hx, he⟩ := castE_mem.1 (look_mem _ _ _ hh)
    have e2 : (x.2 : Int) = v := congrArg Prod.snd he
    have := snz5 hx
    clear he h1 h2 hh
    have hv : v ≠ 0 := by omega
    rw [decide_eq_true hin]
    show true = (v != 0)
    simp [hv]
section
variable {W : World} {N : Nat}
theorem class_look (h : DTab W N) (c : Int) (hc : D32 c) : (Instr.lookup 62 (.map (some N)) (.int .i32 c) false).run Tryd.prog W = .ok (.int .i64 (tab (castE C5) c)) W := by
  have := h.c.look kvI Tryd.underlying62 (zero_int W) c hc false
  rw [this]
  simp only [Bool.false_eq_true, if_false]
  rw [int_look plC]
theorem sec_look (h : DTab W N) (c : Int) (hc : D32 c) : (Instr.lookup 62 (.map (some (N + 1 + 1 + 1 + 1))) (.int .i32 c) false).run Tryd.prog W = .ok (.int .i64 (tab (castE (scL P5)) c)) W := by
  have := h.q.look kvI Tryd.underlying62 (zero_int W) c hc false
  refine Eq.trans this ?_
  simp only [Bool.false_eq_true, if_false]
  rw [int_look plQ]
theorem single_look (h : DTab W N) (c : Int) (hc : D32 c) : (Instr.lookup 64 (.map (some (N + 1 + 1))) (.int .i32 c) true).run Tryd.prog W = .ok (.tuple #[.int .i32 (tab (castE S5) c), .bool (tab (castE S5) c != 0)]) W := by
  have := h.s.look kvI Tryd.underlying64 (zero_i32 W) c hc true
  refine Eq.trans this ?_
  simp only [if_true]
  rw [int_look plS, sgl_in]
theorem pair_look (h : DTab W N) (c : Int) (hc : D32 c) : (Instr.lookup 63 (.map (some (N + 1))) (.int .i32 c) true).run Tryd.prog W = .ok (.tuple #[.agg #[.int .i32 (pxF P5 c), .int .i32 (pyF P5 c)], .bool (pkF P5 c)]) W := by
  have := h.k.look kvI Tryd.underlying63 (zero_two W) c hc true
  refine Eq.trans this ?_
  simp only [if_true]
  obtain ⟨h1, h2⟩ := mst_look ([0, 0] : List Int) (pk5 P5) c
  rw [pk5_look] at h1 h2
  unfold pxF pyF pkF
  rw [h2]
  cases hh : lastP P5 c with
  | none =>
    have hn : ¬ c ∈ (mst [0, 0] (pk5 P5)).1 := by rw [h1, hh]; simp
    rw [if_neg hn, decide_eq_false hn]; rfl
  | some p =>
    have hy : c ∈ (mst [0, 0] (pk5 P5)).1 := by rw [h1, hh]; rfl
    rw [if_pos hy, decide_eq_true hy]; rfl
theorem join_look (h : DTab W N) (a b : Int) (ha : (Lit.int .i32 a).wf = true) (hb : (Lit.int .i32 b).wf = true) : (Instr.lookup 65 (.map (some (N + 1 + 1 + 1))) (.agg #[.int .i32 a, .int .i32 b]) true).run Tryd.prog W = .ok (.tuple #[.int .i32 (if [a, b] ∈ (jst P5).1 then (jst P5).2 [a, b] else 0), .bool (decide ([a, b] ∈ (jst P5).1))]) W := by
  have := h.j.look kv2 Tryd.underlying65 (zero_i32 W) [a, b] ⟨rfl, fun x hx => by
    rcases List.mem_cons.1 hx with rfl | hx
    · exact ha
    · simp at hx; subst hx; exact hb⟩ true
  refine Eq.trans this ?_
  simp only [if_true]
  rw [jst_jL]
  by_cases hm : [a, b] ∈ (mst 0 (jL P5)).1 <;> simp [hm]
end
end Go.Proofs.YtdmcidljjfogjaaDoor

/- Layer 5: the document's Second. -/
namespace Go.Proofs.YtdmcidljjfogjaaDoor
open Go.ChangeShapes Go.WideShapes Go.ChangeAt Go.RowKit
set_option linter.unusedVariables false
set_option linter.unusedSimpArgs false
section
variable {W : World} {N : Nat}
theorem rsecond_any (h : DTab W N) (c : Int) (hc : D32 c) : Calls Tryd.prog 38 #[.pointer (some ⟨N + 1 + 1 + 1 + 1 + 1, 0, none⟩), .int .i32 c] W fun e w' => e = .returned (.bool (tab (castE (scL P5)) c != 0)) ∧ W = w' := by
  have hl := sec_look h c hc
  have c0 : W.cell? ⟨N + 1 + 1 + 1 + 1 + 1, 4, none⟩ = some (.map (some (N + 1 + 1 + 1 + 1))) := h.blk.cell 4
  have hbd := (tab_castE_bd (l := scL P5) (m := 100000000) (fun e he => by obtain ⟨p, hp, _, rfl⟩ := scL_mem.1 he; dsimp only; omega) c).1
  have hgt : decide (0 < tab (castE (scL P5)) c) = (tab (castE (scL P5)) c != 0) := by
    by_cases hz : tab (castE (scL P5)) c = 0
    · simp [hz]
    · have : 0 < tab (castE (scL P5)) c := by omega
      simp [this, hz]
  rw [← hgt]
  clear hgt hbd h
  generalize tab (castE (scL P5)) c = x at *
  go_enter Tryd.func38, Tryd.ntmps38
  go_wp2
  go_ret
  exact ⟨rfl, rfl⟩
end
end Go.Proofs.YtdmcidljjfogjaaDoor
