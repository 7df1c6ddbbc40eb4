/- Printed by gen_u5w.py. The document's digit and rows (layer 5) by contracts. -/
import Derived.Test.YtmphfdnpnhlpjaaU5Dig
import Derived.Test.YtmphfdnpnhlpjaaTexts
import Derived.Test.YtmphfdnpnhlpjaaAny
import Derived.Test.YtmphfdnpnhlpjaaSt4Add
namespace Go.Proofs.Ytmphfdnpnhlpjaa
open Go.ChangeShapes Go.WideShapes Go.ChangeAt Go.RowKit
set_option linter.unusedVariables false
set_option linter.unusedSimpArgs false

theorem rdigit_yes (b : Nat) (w : World) (h : isDig b = true) : Calls Try.prog 30 #[.int .u8 b] w fun e w' => e = .returned (.int .i32 (dgt b)) ∧ w = w' := by
  rcases isDig_iff.1 h with ⟨h1, h2⟩ | ⟨h1, h2⟩
  · have e : ((dgt b : Nat) : Int) = (b : Int) - 48 := by rw [dgt_lo h2]; omega
    rw [e]; clear e h
    have g1 : (48 : Int) ≤ b := by omega
    have g2 : (b : Int) ≤ 57 := by omega
    clear h1 h2
    go_enter Try.func30, Try.ntmps30
    go_wp2
    go_ret
    exact ⟨rfl, rfl⟩
  · have e : ((dgt b : Nat) : Int) = (b : Int) - 97 + 10 := by rw [dgt_hi h1]; omega
    rw [e]; clear e h
    have g1 : (97 : Int) ≤ b := by omega
    have g2 : (b : Int) ≤ 102 := by omega
    have g3 : (48 : Int) ≤ b := by omega
    have g4 : ¬ (b : Int) ≤ 57 := by omega
    clear h1 h2
    go_enter Try.func30, Try.ntmps30
    go_wp2
    go_ret
    exact ⟨rfl, rfl⟩
theorem rdigit_no (b : Nat) (w : World) (h : isDig b = false) : Calls Try.prog 30 #[.int .u8 b] w fun e w' => e = .returned (.int .i32 (-1)) ∧ w = w' := by
  have hn : ¬ ((48 ≤ b ∧ b ≤ 57) ∨ (97 ≤ b ∧ b ≤ 102)) := fun k => by rw [isDig_iff.2 k] at h; cases h
  by_cases a1 : (48 : Int) ≤ b <;> by_cases a2 : (b : Int) ≤ 57 <;> by_cases a3 : (97 : Int) ≤ b <;> by_cases a4 : (b : Int) ≤ 102 <;> (try (exfalso; omega))
  all_goals
    clear hn h
    go_enter Try.func30, Try.ntmps30
    go_wp2
    go_ret
    exact ⟨rfl, rfl⟩

/-- append onto a row of the call's own, in a list of operations -/
theorem wpList_appO {P : Program} {ops : Array Oper} {rest : List Oper} {Q : Exit → Act → World → Prop} {o : Oper} {a : Act} {w : World} (hgd : o.guard = none) (s x : Operand) (t : TypeId)
    (ho : o.op = .call { callee := .builtin .append, args := #[s, x], argTypes := #[t, t] })
    (base : Nat) (e : TypeId) (z : Value) (size bytes : Nat) (ht : P.underlying t = some (.slice e)) (hi : (P.info? e).map (fun i => (i.zero, i.size, i.bytes)) = some (some z, size, bytes)) (hzs : z.cells.size = size) (hsz : 0 < size)
    (v : Value) (n : Nat) (xs : List Value) (hs : a.eval s = v) (hown : w.ownsRow base e size v n xs)
    (ad : Addr) (m c : Nat) (news : List Value) (hx : a.eval x = .slice (some ad) m c) (hl : news.length = m * size) (hnews : ∀ j u, news[j]? = some u → w.cell? (ad.add j) = some u) (h1 : ∀ u ∈ news, u.oneCell' = true)
    (h63 : n + m ≤ maxLen) (hbytes : (n + m) * bytes ≤ 140737488355328) (hbase : base ≤ w.heap.size)
    (h : ∀ v' w', w'.ownsRow base e size v' (n + m) (xs ++ news) → w.grownBy w' v.ownBlock → (v'.ownBlock = v.ownBlock ∨ v'.ownBlock = some w.heap.size) → wpList P ops Q rest (a.put o.dst v') w') : wpList P ops Q (o :: rest) a w :=
  wpList_plain hgd fun K hK => wpO_append s x t ho base e z size bytes ht hi hzs hsz v n xs hs hown ad m c news hx hl hnews h1 h63 hbytes hbase fun v' w' h2 h3 h4 => hK _ _ (h v' w' h2 h3 h4)

/-- a slice that is the row r, and will not be turned -/
def Lain (W : World) (N : Nat) (av : Option Nat) (v : Value) (r : List Int) : Prop :=
  ∃ b c, v = .slice (some ⟨b, 0, none⟩) r.length c ∧ r.length ≤ c ∧ c ≤ maxLen ∧ N ≤ b ∧ some b ≠ av ∧ ∃ cs : Array Value, Blk W b 21 cs ∧ ∀ (j : Nat) (x : Int), r[j]? = some x → cs[j]? = some (Value.int .i32 x)
structure RowsAt (w wr : World) (ov rv : Value) (R : List (List Int)) (row : List Int) : Prop where
  out : ∃ vs : List Value, wr.ownsRow w.heap.size 22 1 ov R.length vs ∧ ∀ (i : Nat) (v : Value) (r : List Int), vs[i]? = some v → R[i]? = some r → Lain wr w.heap.size rv.ownBlock v r
  row : wr.ownsRow w.heap.size 21 1 rv row.length (row.map (Value.int .i32))
  be : Below w.heap.size w wr
theorem own_type {W : World} {base e s n : Nat} {v : Value} {xs : List Value} (h : W.ownsRow base e s v n xs) {k : Nat} (hk : v.ownBlock = some k) : ∃ cs, W.heap[k]? = some (.cells cs e (0, 0)) := by
  rcases h.2 with ⟨e1, _⟩ | ⟨g, cap, cur, e1, _, hh, _⟩
  · rw [e1] at hk; cases hk
  · rw [e1] at hk
    obtain rfl : g = k := by simpa [Value.ownBlock] using hk
    exact ⟨_, hh⟩
theorem own_types {W : World} {base e e' s s' n n' : Nat} {v v' : Value} {xs xs' : List Value} (h : W.ownsRow base e s v n xs) (h' : W.ownsRow base e' s' v' n' xs') (he : e ≠ e') : v.ownBlock = none ∨ v.ownBlock ≠ v'.ownBlock := by
  cases hk : v.ownBlock with
  | none => exact .inl rfl
  | some k =>
    refine .inr fun e1 => ?_
    obtain ⟨cs, h1⟩ := own_type h hk
    obtain ⟨cs', h2⟩ := own_type h' e1.symm
    rw [h1] at h2
    injection h2 with h2
    injection h2 with _ h2
    exact he h2
section
variable {w wr w3 : World} {ov rv : Value} {R : List (List Int)} {row : List Int}
theorem rows_start (w : World) : RowsAt w w (.slice none 0 0) (.slice none 0 0) [] [] :=
  ⟨⟨[], World.ownsRow_nil _ _ _ _, fun i v r h => by simp at h⟩, World.ownsRow_nil _ _ _ _, Below.refl _ _⟩
/-- a number more in the row that is begun -/
theorem rows_num (h : RowsAt w wr ov rv R row) (o : Obj) {v3 : Value} {x : Int} (ho : w3.ownsRow w.heap.size 21 1 v3 (row.length + 1) (row.map (Value.int .i32) ++ [.int .i32 x])) (hg : (wr.alloc o).grownBy w3 rv.ownBlock) (hl : v3.ownBlock = rv.ownBlock ∨ v3.ownBlock = some (wr.alloc o).heap.size) :
    RowsAt w w3 ov v3 R (row ++ [x]) := by
  obtain ⟨vs, h1, h2⟩ := h.out
  have hs := h.be.size
  refine ⟨⟨vs, World.ownsRow.kept (h1.alloc o) hg (own_types h1 h.row (by decide)), fun i v r hv hr => ?_⟩, by simpa using ho, ?_⟩
  · obtain ⟨b, c, e1, e2, e3, e4, e5, cs, e6, e7⟩ := h2 i v r hv hr
    refine ⟨b, c, e1, e2, e3, e4, ?_, cs, (hg.block b (e6.alloc o).lt e5).trans (e6.alloc o), e7⟩
    rcases hl with hl | hl
    · rw [hl]; exact e5
    · rw [hl]
      have := e6.lt
      intro e; injection e with e; simp at e; omega
  · exact (h.be.alloc hs o).grown hg (by simp; omega) (fun k hk => (h.row.lt k hk).1)
/-- the row that is begun is laid down -/
theorem rows_lay (h : RowsAt w wr ov rv R row) (hne : row ≠ []) {v3 : Value} (ho : w3.ownsRow w.heap.size 22 1 v3 (R.length + 1) (Classical.choose h.out ++ [rv])) (hg : (wr.alloc (.cells #[rv] 22)).grownBy w3 ov.ownBlock) :
    RowsAt w w3 v3 (.slice none 0 0) (R ++ [row]) [] := by
  obtain ⟨h1, h2⟩ := Classical.choose_spec h.out
  generalize Classical.choose h.out = vs at *
  have hs := h.be.size
  have hvl : vs.length = R.length := by simpa using h1.1
  have keep : ∀ {b : Nat} {cs : Array Value}, Blk wr b 21 cs → Blk w3 b 21 cs := fun {b cs} hb => by
    refine (hg.block b (hb.alloc _).lt (fun e => ?_)).trans (hb.alloc _)
    obtain ⟨cs', hc⟩ := own_type h1 e.symm
    unfold Blk at hb
    rw [hb] at hc
    simp at hc
  refine ⟨⟨vs ++ [rv], by simpa using ho, fun i v r hv hr => ?_⟩, World.ownsRow_nil _ _ _ _, ?_⟩
  · by_cases hi : i < R.length
    · rw [List.getElem?_append_left (by omega)] at hv
      rw [List.getElem?_append_left hi] at hr
      obtain ⟨b, c, e1, e2, e3, e4, e5, cs, e6, e7⟩ := h2 i v r hv hr
      exact ⟨b, c, e1, e2, e3, e4, by simp [Value.ownBlock], cs, keep e6, e7⟩
    · rw [List.getElem?_append_right (by omega)] at hv
      rw [List.getElem?_append_right (by omega)] at hr
      have hi0 : i - R.length = 0 := by
        have := (List.getElem?_eq_some_iff.1 hr).1
        simp only [List.length_cons, List.length_nil] at this
        omega
      rw [hi0] at hr
      rw [hvl, hi0] at hv
      simp only [List.getElem?_cons_zero, Option.some.injEq] at hv hr
      subst hv hr
      rcases h.row.2 with ⟨e1, e2⟩ | ⟨g, cap, cur, hv, hb, hh, hnc, hm, hcs, ht⟩
      · exact absurd (List.length_eq_zero_iff.1 e2) hne
      · refine ⟨g, cap, hv, hnc, hm, hb, by simp [Value.ownBlock], cur, keep hh, fun j x hj => ?_⟩
        have hj' : (row.map (Value.int .i32))[j]? = some (.int .i32 x) := by simp [List.getElem?_map, hj]
        rw [← ht, List.getElem?_take] at hj'
        split at hj'
        · simpa using hj'
        · cases hj'
  · exact (h.be.alloc hs _).grown hg (by simp; omega) (fun k hk => (h1.lt k hk).1)
end

/-- rows in memory, below block B -/
def RowsIs (W : World) (B : Nat) (v : Value) (R : List (List Int)) : Prop :=
  ∃ A cap, v = .slice A R.length cap ∧ R.length ≤ cap ∧ cap ≤ maxLen ∧ (R = [] ∨ ∃ b, A = some ⟨b, 0, none⟩ ∧ b < B ∧ ∀ (i : Nat) (r : List Int), R[i]? = some r → ∃ bi ci, bi < B ∧ r.length ≤ ci ∧ ci ≤ maxLen ∧ W.cell? ⟨b, i, none⟩ = some (.slice (some ⟨bi, 0, none⟩) r.length ci) ∧ ∀ (j : Nat) (x : Int), r[j]? = some x → W.cell? ⟨bi, j, none⟩ = some (.int .i32 x))
theorem RowsIs.below {W W' : World} {B B' : Nat} {v : Value} {R : List (List Int)} (h : RowsIs W B v R) (hb : Below B' W W') (hB : B ≤ B') : RowsIs W' B v R := by
  obtain ⟨A, cap, e1, e2, e3, h⟩ := h
  refine ⟨A, cap, e1, e2, e3, h.imp id fun ⟨b, e4, e5, e6⟩ => ⟨b, e4, e5, fun i r hr => ?_⟩⟩
  obtain ⟨bi, ci, f1, f2, f3, f4, f5⟩ := e6 i r hr
  exact ⟨bi, ci, f1, f2, f3, (hb.cell (p := ⟨b, i, none⟩) (show b < B' by omega)).trans f4, fun j x hj => (hb.cell (p := ⟨bi, j, none⟩) (show bi < B' by omega)).trans (f5 j x hj)⟩
theorem RowsIs.more {W : World} {B B' : Nat} {v : Value} {R : List (List Int)} (h : RowsIs W B v R) (hB : B ≤ B') : RowsIs W B' v R := by
  obtain ⟨A, cap, e1, e2, e3, h⟩ := h
  refine ⟨A, cap, e1, e2, e3, h.imp id fun ⟨b, e4, e5, e6⟩ => ⟨b, e4, by omega, fun i r hr => ?_⟩⟩
  obtain ⟨bi, ci, f1, f2⟩ := e6 i r hr
  exact ⟨bi, ci, by omega, f2⟩
theorem rows_is {w wr : World} {ov rv : Value} {R : List (List Int)} {row : List Int} (h : RowsAt w wr ov rv R row) : RowsIs wr wr.heap.size ov R := by
  obtain ⟨vs, h1, h2⟩ := h.out
  have hvl : vs.length = R.length := by simpa using h1.1
  have hadd : ∀ (b k : Nat), (⟨b, 0, none⟩ : Addr).add k = ⟨b, k, none⟩ := fun b k => by unfold Addr.add; split <;> simp_all
  rcases h1.2 with ⟨e1, e2⟩ | ⟨g, cap, cur, hv, hb, hh, hnc, hm, hcs, ht⟩
  · exact ⟨none, 0, by rw [e1, e2], by omega, by simp [maxLen], .inl (List.length_eq_zero_iff.1 e2)⟩
  · refine ⟨_, cap, hv, hnc, hm, .inr ⟨g, rfl, (h1.lt g (by rw [hv]; rfl)).2, fun i r hr => ?_⟩⟩
    have hi : i < R.length := (List.getElem?_eq_some_iff.1 hr).1
    have hvi : vs[i]? = some vs[i] := List.getElem?_eq_getElem (by omega)
    obtain ⟨b, c, e1, e2, e3, e4, e5, cs, e6, e7⟩ := h2 i _ r hvi hr
    have hcell := h1.cells (g := g) (by rw [hv]; rfl) i _ hvi
    rw [hadd, e1] at hcell
    exact ⟨b, c, e6.lt, e2, e3, hcell, fun j x hj => (e6.cell j).trans (e7 j x hj)⟩
def RowsPost (w : World) (R : List (List Int)) (e : Ending) (w' : World) : Prop := ∃ v, e = .returned v ∧ RowsIs w' w'.heap.size v R ∧ Below w.heap.size w w'
theorem info_r5 : (Try.prog.info? 21).map (fun i => (i.zero, i.size, i.bytes)) = some (some (.int .i32 0), 1, 4) := by kernel_rfl
theorem info_s5 : (Try.prog.info? 22).map (fun i => (i.zero, i.size, i.bytes)) = some (some (.slice none 0 0), 1, 24) := by kernel_rfl

theorem rems_len : ∀ (p : List Nat) (s : RSt), (rems p s).length ≤ p.length
  | [], _ => Nat.le_refl _
  | b :: r, s => by
    have := rems_len r (rstep5 s b)
    show (bif !rdig b && rlays s b then rrow s b :: rems r (rstep5 s b) else rems r (rstep5 s b)).length ≤ r.length + 1
    cases (!rdig b && rlays s b)
    · simp only [cond_false]; omega
    · simp only [cond_true, List.length_cons]; omega
theorem rrow_len (s : RSt) (b : Nat) : (rrow s b).length ≤ s.row.length + 2 := by
  unfold rrow
  rw [List.length_append]
  cases s.i <;> cases Nat.beq b 33 <;> simp
theorem rcur_len : ∀ (p : List Nat) (s : RSt), (rcur p s).row.length ≤ s.row.length + 2 * p.length
  | [], s => by show s.row.length ≤ _; simp
  | b :: r, s => by
    have h1 := rcur_len r (rstep5 s b)
    have h2 : (rstep5 s b).row.length ≤ s.row.length + 2 := by
      unfold rstep5
      cases rdig b
      · simp only [cond_false]
        cases rlays s b
        · simpa using rrow_len s b
        · simp
      · simp
    show (rcur r (rstep5 s b)).row.length ≤ _
    simp only [List.length_cons]
    omega
def RLoop (w : World) (s : ByteArray) (s3 s4 s5 s6 s7 : Value) (wr : World) : Prop :=
  ∃ (k : Nat) (A3 : Option Addr) (c3 : Nat) (A4 : Option Addr) (c4 : Nat), k ≤ s.size + 1 ∧ s7 = .int .i64 k ∧ s5 = .int .i32 (rcur ((bytesOf s ++ [10]).take k) rzero).n ∧ s6 = .bool (rcur ((bytesOf s ++ [10]).take k) rzero).i ∧ s3 = .slice A3 (rems ((bytesOf s ++ [10]).take k) rzero).length c3 ∧ s4 = .slice A4 (rcur ((bytesOf s ++ [10]).take k) rzero).row.length c4 ∧ ((rcur ((bytesOf s ++ [10]).take k) rzero).row.length ≤ c4 ∧ c4 ≤ maxLen) ∧
    RowsAt w wr (.slice A3 (rems ((bytesOf s ++ [10]).take k) rzero).length c3) (.slice A4 (rcur ((bytesOf s ++ [10]).take k) rzero).row.length c4) (rems ((bytesOf s ++ [10]).take k) rzero) (rcur ((bytesOf s ++ [10]).take k) rzero).row

theorem rloop_mk {w : World} {s : ByteArray} {wr : World} (k : Nat) {R : List (List Int)} {row : List Int} {n : Nat} {i : Bool} {A3 A4 : Option Addr} {c3 c4 : Nat} (hk : k ≤ s.size + 1) (h1 : rcur ((bytesOf s ++ [10]).take k) rzero = ⟨n, i, row⟩) (h2 : rems ((bytesOf s ++ [10]).take k) rzero = R) (h3 : row.length ≤ c4 ∧ c4 ≤ maxLen)
    (h : RowsAt w wr (.slice A3 R.length c3) (.slice A4 row.length c4) R row) : RLoop w s (.slice A3 R.length c3) (.slice A4 row.length c4) (.int .i32 n) (.bool i) (.int .i64 k) wr := by
  refine ⟨k, A3, c3, A4, c4, hk, rfl, ?_, ?_, ?_, ?_, ?_, ?_⟩
  · rw [h1]
  · rw [h1]
  · rw [h2]
  · rw [h1]
  · rw [h1]; exact h3
  · rw [h1, h2]; exact h
theorem app_ne {α : Type} (r : List α) (x : α) : (r ++ [x]).isEmpty = false := by cases r <;> rfl
theorem row_ne {α : Type} {r : List α} (h : r ≠ []) : r.isEmpty = false := by
  cases r with
  | nil => exact absurd rfl h
  | cons _ _ => rfl
set_option maxRecDepth 100000 in
set_option maxHeartbeats 8000000 in
theorem rows_any (s : ByteArray) (w : World) (hs : s.size ≤ 65536) (hok : rokAll (bytesOf s ++ [10]) rzero = true) :
    Calls Try.prog 24 #[.string s] w (RowsPost w (rowsOf (bytesOf s))) := by
  have HOK := Lib.hid hok
  clear hok
  go_enter Try.func24, Try.ntmps24
  go_wp2
  go_loopw [3, 4, 5, 6, 7] (fun s3 s4 s5 s6 s7 wr => RLoop w s s3 s4 s5 s6 s7 wr) (fun _ _ _ _ i _ => s.size + 1 - (intOf i).toNat)
  case atStart => exact ⟨0, none, 0, none, 0, by omega, rfl, rfl, rfl, rfl, rfl, ⟨Nat.le_refl _, by simp [maxLen]⟩, rows_start w⟩
  case round =>
    obtain ⟨k, A3, c3, A4, c4, hk, rfl, rfl, rfl, rfl, rfl, ⟨hc1, hc2⟩, hR⟩ := hrel
    have hall : (bytesOf s ++ [10]).length = s.size + 1 := by rw [List.length_append, bytesOf_len]; rfl
    by_cases hle : k ≤ s.size
    · have hle' : (k : Int) ≤ s.size := by omega
      have hlk : k < (bytesOf s ++ [10]).length := by omega
      obtain ⟨b, hb, hb255⟩ : ∃ b, (bytesOf s ++ [10]).getD k 0 = b ∧ (k < s.size → ∃ h : k < s.size, b = (s[k]'h).toNat) ∧ (¬ k < s.size → b = 10) := by
        refine ⟨_, rfl, fun h => ⟨h, ?_⟩, fun h => ?_⟩
        · rw [List.getD_eq_getElem?_getD, List.getElem?_append_left (by rw [bytesOf_len]; exact h), ← List.getD_eq_getElem?_getD, bytesOf_at s k h]
        · rw [List.getD_eq_getElem?_getD, List.getElem?_append_right (by rw [bytesOf_len]; omega), bytesOf_len, show k - s.size = 0 by omega]; rfl
      obtain ⟨hb1, hb2⟩ := hb255
      have HT : Hid ((bytesOf s ++ [10]).take (k + 1) = (bytesOf s ++ [10]).take k ++ [b]) := Lib.hid (by
        rw [List.take_succ_eq_append_getElem hlk, ← hb, List.getD_eq_getElem?_getD, List.getElem?_eq_getElem hlk]; rfl)
      have hokk := rokAll_at _ _ HOK.out k hlk
      rw [hb] at hokk
      have HSN := Lib.hid (rems_snoc b ((bytesOf s ++ [10]).take k) rzero)
      have HCN := Lib.hid (rcur_snoc b ((bytesOf s ++ [10]).take k) rzero)
      have hrl := rems_len ((bytesOf s ++ [10]).take k) rzero
      have hcl := rcur_len ((bytesOf s ++ [10]).take k) rzero
      have htk : ((bytesOf s ++ [10]).take k).length ≤ k := List.length_take_le _ _
      have hcl : (rcur ((bytesOf s ++ [10]).take k) rzero).row.length ≤ 200000 := by simp only [rzero, List.length_nil] at hcl ⊢; omega
      have hrl : (rems ((bytesOf s ++ [10]).take k) rzero).length ≤ 65536 := by omega
      clear hb htk hlk hall
      generalize rems ((bytesOf s ++ [10]).take k) rzero = R at *
      generalize rcur ((bytesOf s ++ [10]).take k) rzero = st at *
      obtain ⟨n, i, row⟩ := st
      dsimp only at hR hcl hokk hc1 ⊢
      have HR := Lib.hid hR
      have hrs := hR.be.size
      clear hR
      by_cases hlt : k < s.size
      · obtain ⟨_, hbe⟩ := hb1 hlt
        clear hb1 hb2
        have hlt' : (k : Int) < s.size := by omega
        have hsx : (((s[k]'hlt).toNat : Nat) : Int) = (b : Int) := by rw [hbe]
        have hbb : b ≤ 255 := by rw [hbe]; have := (s[k]'hlt).toNat_lt; omega
        clear hbe
        by_cases hdig : isDig b = true
        · have hd1 := dgt_lt hdig
          have HD := Lib.hid (fun w => rdigit_yes b w hdig)
          simp only [rokE, rdig, hdig, Bool.not_true, Bool.false_or, Nat.ble_eq] at hokk
          have HST : Hid (rstep5 ⟨n, i, row⟩ b = ⟨16 * n + dgt b, true, row⟩) := Lib.hid (by unfold rstep5 rdig; rw [hdig]; rfl)
          have HLY : Hid ((bif !rdig b && rlays ⟨n, i, row⟩ b then [rrow ⟨n, i, row⟩ b] else []) = []) := Lib.hid (by unfold rdig; rw [hdig]; rfl)
          have n0 : (0 : Int) ≤ n := by omega
          have n1 : (n : Int) ≤ 100000000 := by omega
          have hd2 : (dgt b : Int) < 16 := by omega
          have hd3 : (0 : Int) ≤ (dgt b : Int) := by omega
          generalize hdg : dgt b = dg at *
          clear hdig hokk hd1 hdg hbb
          go_wp2_with fail
          with_reducible refine (HD.out _).mono ?_
          rintro e w' ⟨rfl, rfl⟩
          go_wp2_with fail
          with_reducible refine (HD.out _).mono ?_
          rintro e w' ⟨rfl, rfl⟩
          go_wp2
          go_roundw
          case rel =>
            have hrows := HR.out
            have := rloop_mk (w := w) (s := s) (R := R) (row := row) (n := 16 * n + dg) (i := true) (A3 := A3) (c3 := c3) (A4 := A4) (c4 := c4) (k + 1) (by omega) (by rw [HT.out, HCN.out, HST.out]) (by rw [HT.out, HSN.out, HLY.out, List.append_nil]) ⟨by first | omega | (simp; omega) | (simp at hx7 ⊢; omega) | (simp; done), by omega⟩ (by simpa using hrows)
            simpa using this
          case measure => simp [intOf]; omega
        · have hdf : isDig b = false := by simpa using hdig
          clear hokk hdig
          by_cases h33 : b = 33
          · subst h33
            have hsx : (((s[k]'hlt).toNat : Nat) : Int) = 33 := hsx
            have HD : Hid (∀ w : World, Calls Try.prog 30 #[.int .u8 33] w fun e w' => e = .returned (.int .i32 (-1)) ∧ w = w') := Lib.hid (fun w => rdigit_no 33 w (by decide))
            cases i with
            | true =>
              have HST : Hid (rstep5 ⟨n, true, row⟩ 33 = ⟨0, false, row ++ [(n : Int)] ++ [-1]⟩) := Lib.hid (by unfold rstep5 rdig rlays rrow; simp [isDig, isSep, Nat.ble, Nat.beq])
              have HLY : Hid ((bif !rdig 33 && rlays ⟨n, true, row⟩ 33 then [rrow ⟨n, true, row⟩ 33] else []) = []) := Lib.hid (by rfl)
              go_wp2_with fail
              with_reducible refine (HD.out _).mono ?_
              rintro e w' ⟨rfl, rfl⟩
              go_wp2_with (first
                | (at_builtin; refine wpList_appO rfl (.tmp 31) (.tmp 33) 22 rfl w.heap.size 21 (.int .i32 0) 1 4 Try.underlying22 info_r5 rfl (by decide) _ _ _ rfl (HR.out.row.alloc _) ⟨wr.heap.size, 0, none⟩ 1 1 [.int .i32 (n : Int)] rfl rfl (cells_new wr _ _) (by simp [Value.oneCell']) (by simp only [maxLen]; omega) (by omega) (by have := HR.out.be.size; simp; omega) ?_; intro v6 w6 ho6 hg6 hl6; have HR6 := Lib.hid (rows_num HR.out _ ho6 hg6 hl6); obtain ⟨A6, cc6, rfl, hx6, hy6⟩ := own_form ho6; clear ho6 hg6 hl6)
                | (at_builtin; refine wpList_appO rfl (.tmp 37) (.tmp 38) 22 rfl w.heap.size 21 (.int .i32 0) 1 4 Try.underlying22 info_r5 rfl (by decide) _ _ _ rfl (HR6.out.row.alloc _) ⟨w6.heap.size, 0, none⟩ 1 1 [.int .i32 (-1)] rfl rfl (cells_new w6 _ _) (by simp [Value.oneCell']) (by simp only [maxLen]; simp; omega) (by simp; omega) (by have := HR6.out.be.size; simp; omega) ?_; intro v7 w7 ho7 hg7 hl7; have HR7 := Lib.hid (rows_num HR6.out _ ho7 hg7 hl7); obtain ⟨A7, cc7, rfl, hx7, hy7⟩ := own_form ho7; clear ho7 hg7 hl7))
              go_roundw
              case rel =>
                have hrows := HR7.out
                have := rloop_mk (w := w) (s := s) (R := R) (row := row ++ [(n : Int)] ++ [-1]) (n := 0) (i := false) (A3 := A3) (c3 := c3) (A4 := A7) (c4 := cc7) (k + 1) (by omega) (by rw [HT.out, HCN.out, HST.out]) (by rw [HT.out, HSN.out, HLY.out, List.append_nil]) ⟨by first | omega | (simp; omega) | (simp at hx7 ⊢; omega) | (simp; done), by omega⟩ (by simpa using hrows)
                simpa using this
              case measure => simp [intOf]; omega
            | false =>
              have HST : Hid (rstep5 ⟨n, false, row⟩ 33 = ⟨0, false, row ++ [-1]⟩) := Lib.hid (by unfold rstep5 rdig rlays rrow; simp [isDig, isSep, Nat.ble, Nat.beq])
              have HLY : Hid ((bif !rdig 33 && rlays ⟨n, false, row⟩ 33 then [rrow ⟨n, false, row⟩ 33] else []) = []) := Lib.hid (by rfl)
              go_wp2_with fail
              with_reducible refine (HD.out _).mono ?_
              rintro e w' ⟨rfl, rfl⟩
              go_wp2_with (at_builtin; refine wpList_appO rfl (.tmp 37) (.tmp 38) 22 rfl w.heap.size 21 (.int .i32 0) 1 4 Try.underlying22 info_r5 rfl (by decide) _ _ _ rfl (HR.out.row.alloc _) ⟨wr.heap.size, 0, none⟩ 1 1 [.int .i32 (-1)] rfl rfl (cells_new wr _ _) (by simp [Value.oneCell']) (by simp only [maxLen]; omega) (by omega) (by have := HR.out.be.size; simp; omega) ?_; intro v7 w7 ho7 hg7 hl7; have HR7 := Lib.hid (rows_num HR.out _ ho7 hg7 hl7); obtain ⟨A7, cc7, rfl, hx7, hy7⟩ := own_form ho7; clear ho7 hg7 hl7)
              go_roundw
              case rel =>
                have hrows := HR7.out
                have := rloop_mk (w := w) (s := s) (R := R) (row := row ++ [-1]) (n := 0) (i := false) (A3 := A3) (c3 := c3) (A4 := A7) (c4 := cc7) (k + 1) (by omega) (by rw [HT.out, HCN.out, HST.out]) (by rw [HT.out, HSN.out, HLY.out, List.append_nil]) ⟨by first | omega | (simp; omega) | (simp at hx7 ⊢; omega) | (simp; done), by omega⟩ (by simpa using hrows)
                simpa using this
              case measure => simp [intOf]; omega
          by_cases h44 : b = 44
          · subst h44
            have hsx : (((s[k]'hlt).toNat : Nat) : Int) = 44 := hsx
            have HD : Hid (∀ w : World, Calls Try.prog 30 #[.int .u8 44] w fun e w' => e = .returned (.int .i32 (-1)) ∧ w = w') := Lib.hid (fun w => rdigit_no 44 w (by decide))
            cases i with
            | true =>
              have HST : Hid (rstep5 ⟨n, true, row⟩ 44 = ⟨0, false, []⟩) := Lib.hid (by unfold rstep5 rdig rlays rrow; simp [isDig, isSep, Nat.ble, Nat.beq, app_ne])
              have HLY : Hid ((bif !rdig 44 && rlays ⟨n, true, row⟩ 44 then [rrow ⟨n, true, row⟩ 44] else []) = [row ++ [(n : Int)]]) := Lib.hid (by unfold rdig rlays rrow; simp [isDig, isSep, Nat.ble, Nat.beq, app_ne])
              go_wp2_with fail
              with_reducible refine (HD.out _).mono ?_
              rintro e w' ⟨rfl, rfl⟩
              go_wp2_with (first
                | (at_builtin; refine wpList_appO rfl (.tmp 31) (.tmp 33) 22 rfl w.heap.size 21 (.int .i32 0) 1 4 Try.underlying22 info_r5 rfl (by decide) _ _ _ rfl (HR.out.row.alloc _) ⟨wr.heap.size, 0, none⟩ 1 1 [.int .i32 (n : Int)] rfl rfl (cells_new wr _ _) (by simp [Value.oneCell']) (by simp only [maxLen]; omega) (by omega) (by have := HR.out.be.size; simp; omega) ?_; intro v6 w6 ho6 hg6 hl6; have HR6 := Lib.hid (rows_num HR.out _ ho6 hg6 hl6); obtain ⟨A6, cc6, rfl, hx6, hy6⟩ := own_form ho6; clear ho6 hg6 hl6)
                | (at_builtin; refine wpList_appO rfl (.tmp 51) (.tmp 53) 62 rfl w.heap.size 22 (.slice none 0 0) 1 24 Try.underlying62 info_s5 rfl (by decide) _ R.length (Classical.choose HR6.out.out) rfl ((Classical.choose_spec HR6.out.out).1.alloc _) ⟨w6.heap.size, 0, none⟩ 1 1 [.slice A6 (row.length + 1) cc6] rfl rfl (cells_new w6 _ [.slice A6 (row.length + 1) cc6]) (by simp [Value.oneCell']) (by simp only [maxLen]; omega) (by omega) (by have := HR6.out.be.size; simp; omega) ?_; intro v9 w9 ho9 hg9 hl9))
              have HR9 := Lib.hid (rows_lay HR6.out (by simp) ho9 hg9)
              obtain ⟨A9, cc9, rfl, hx9, hy9⟩ := own_form ho9
              clear ho9 hg9 hl9
              go_wp2
              go_roundw
              case rel =>
                have hrows := HR9.out
                have := rloop_mk (w := w) (s := s) (R := R ++ [row ++ [(n : Int)]]) (row := ([] : List Int)) (n := 0) (i := false) (A3 := A9) (c3 := cc9) (A4 := none) (c4 := 0) (k + 1) (by omega) (by rw [HT.out, HCN.out, HST.out]) (by rw [HT.out, HSN.out, HLY.out]) ⟨by first | omega | (simp; omega) | (simp at hx7 ⊢; omega) | (simp; done), by omega⟩ (by simpa using hrows)
                simpa using this
              case measure => simp [intOf]; omega
            | false =>
              by_cases hrow : row = []
              · subst hrow
                have HST : Hid (rstep5 ⟨n, false, []⟩ 44 = ⟨0, false, []⟩) := Lib.hid (by unfold rstep5 rdig rlays rrow; simp [isDig, isSep, Nat.ble, Nat.beq])
                have HLY : Hid ((bif !rdig 44 && rlays ⟨n, false, []⟩ 44 then [rrow ⟨n, false, []⟩ 44] else []) = []) := Lib.hid (by rfl)
                go_wp2_with fail
                with_reducible refine (HD.out _).mono ?_
                rintro e w' ⟨rfl, rfl⟩
                go_wp2
                go_roundw
                case rel =>
                  have hrows := HR.out
                  have := rloop_mk (w := w) (s := s) (R := R) (row := ([] : List Int)) (n := 0) (i := false) (A3 := A3) (c3 := c3) (A4 := A4) (c4 := c4) (k + 1) (by omega) (by rw [HT.out, HCN.out, HST.out]) (by rw [HT.out, HSN.out, HLY.out, List.append_nil]) ⟨by first | omega | (simp; omega) | (simp at hx7 ⊢; omega) | (simp; done), by omega⟩ (by simpa using hrows)
                  simpa using this
                case measure => simp [intOf]; omega
              · have hpos : 0 < row.length := List.length_pos_iff.2 hrow
                have HST : Hid (rstep5 ⟨n, false, row⟩ 44 = ⟨0, false, []⟩) := Lib.hid (by unfold rstep5 rdig rlays rrow; simp [isDig, isSep, Nat.ble, Nat.beq, row_ne hrow])
                have HLY : Hid ((bif !rdig 44 && rlays ⟨n, false, row⟩ 44 then [rrow ⟨n, false, row⟩ 44] else []) = [row]) := Lib.hid (by unfold rdig rlays rrow; simp [isDig, isSep, Nat.ble, Nat.beq, row_ne hrow])
                go_wp2_with fail
                with_reducible refine (HD.out _).mono ?_
                rintro e w' ⟨rfl, rfl⟩
                go_wp2_with (first
                  | (at_builtin; refine wpList_appO rfl (.tmp 51) (.tmp 53) 62 rfl w.heap.size 22 (.slice none 0 0) 1 24 Try.underlying62 info_s5 rfl (by decide) _ R.length (Classical.choose HR.out.out) rfl ((Classical.choose_spec HR.out.out).1.alloc _) ⟨wr.heap.size, 0, none⟩ 1 1 [.slice A4 row.length c4] rfl rfl (cells_new wr _ [.slice A4 row.length c4]) (by simp [Value.oneCell']) (by simp only [maxLen]; omega) (by omega) (by have := HR.out.be.size; simp; omega) ?_; intro v9 w9 ho9 hg9 hl9))
                have HR9 := Lib.hid (rows_lay HR.out hrow ho9 hg9)
                obtain ⟨A9, cc9, rfl, hx9, hy9⟩ := own_form ho9
                clear ho9 hg9 hl9
                go_wp2
                go_roundw
                case rel =>
                  have hrows := HR9.out
                  have := rloop_mk (w := w) (s := s) (R := R ++ [row]) (row := ([] : List Int)) (n := 0) (i := false) (A3 := A9) (c3 := cc9) (A4 := none) (c4 := 0) (k + 1) (by omega) (by rw [HT.out, HCN.out, HST.out]) (by rw [HT.out, HSN.out, HLY.out]) ⟨by first | omega | (simp; omega) | (simp at hx7 ⊢; omega) | (simp; done), by omega⟩ (by simpa using hrows)
                  simpa using this
                case measure => simp [intOf]; omega
          by_cases h10 : b = 10
          · subst h10
            have hsx : (((s[k]'hlt).toNat : Nat) : Int) = 10 := hsx
            have HD : Hid (∀ w : World, Calls Try.prog 30 #[.int .u8 10] w fun e w' => e = .returned (.int .i32 (-1)) ∧ w = w') := Lib.hid (fun w => rdigit_no 10 w (by decide))
            cases i with
            | true =>
              have HST : Hid (rstep5 ⟨n, true, row⟩ 10 = ⟨0, false, []⟩) := Lib.hid (by unfold rstep5 rdig rlays rrow; simp [isDig, isSep, Nat.ble, Nat.beq, app_ne])
              have HLY : Hid ((bif !rdig 10 && rlays ⟨n, true, row⟩ 10 then [rrow ⟨n, true, row⟩ 10] else []) = [row ++ [(n : Int)]]) := Lib.hid (by unfold rdig rlays rrow; simp [isDig, isSep, Nat.ble, Nat.beq, app_ne])
              go_wp2_with fail
              with_reducible refine (HD.out _).mono ?_
              rintro e w' ⟨rfl, rfl⟩
              go_wp2_with (first
                | (at_builtin; refine wpList_appO rfl (.tmp 31) (.tmp 33) 22 rfl w.heap.size 21 (.int .i32 0) 1 4 Try.underlying22 info_r5 rfl (by decide) _ _ _ rfl (HR.out.row.alloc _) ⟨wr.heap.size, 0, none⟩ 1 1 [.int .i32 (n : Int)] rfl rfl (cells_new wr _ _) (by simp [Value.oneCell']) (by simp only [maxLen]; omega) (by omega) (by have := HR.out.be.size; simp; omega) ?_; intro v6 w6 ho6 hg6 hl6; have HR6 := Lib.hid (rows_num HR.out _ ho6 hg6 hl6); obtain ⟨A6, cc6, rfl, hx6, hy6⟩ := own_form ho6; clear ho6 hg6 hl6)
                | (at_builtin; refine wpList_appO rfl (.tmp 51) (.tmp 53) 62 rfl w.heap.size 22 (.slice none 0 0) 1 24 Try.underlying62 info_s5 rfl (by decide) _ R.length (Classical.choose HR6.out.out) rfl ((Classical.choose_spec HR6.out.out).1.alloc _) ⟨w6.heap.size, 0, none⟩ 1 1 [.slice A6 (row.length + 1) cc6] rfl rfl (cells_new w6 _ [.slice A6 (row.length + 1) cc6]) (by simp [Value.oneCell']) (by simp only [maxLen]; omega) (by omega) (by have := HR6.out.be.size; simp; omega) ?_; intro v9 w9 ho9 hg9 hl9))
              have HR9 := Lib.hid (rows_lay HR6.out (by simp) ho9 hg9)
              obtain ⟨A9, cc9, rfl, hx9, hy9⟩ := own_form ho9
              clear ho9 hg9 hl9
              go_wp2
              go_roundw
              case rel =>
                have hrows := HR9.out
                have := rloop_mk (w := w) (s := s) (R := R ++ [row ++ [(n : Int)]]) (row := ([] : List Int)) (n := 0) (i := false) (A3 := A9) (c3 := cc9) (A4 := none) (c4 := 0) (k + 1) (by omega) (by rw [HT.out, HCN.out, HST.out]) (by rw [HT.out, HSN.out, HLY.out]) ⟨by first | omega | (simp; omega) | (simp at hx7 ⊢; omega) | (simp; done), by omega⟩ (by simpa using hrows)
                simpa using this
              case measure => simp [intOf]; omega
            | false =>
              by_cases hrow : row = []
              · subst hrow
                have HST : Hid (rstep5 ⟨n, false, []⟩ 10 = ⟨0, false, []⟩) := Lib.hid (by unfold rstep5 rdig rlays rrow; simp [isDig, isSep, Nat.ble, Nat.beq])
                have HLY : Hid ((bif !rdig 10 && rlays ⟨n, false, []⟩ 10 then [rrow ⟨n, false, []⟩ 10] else []) = []) := Lib.hid (by rfl)
                go_wp2_with fail
                with_reducible refine (HD.out _).mono ?_
                rintro e w' ⟨rfl, rfl⟩
                go_wp2
                go_roundw
                case rel =>
                  have hrows := HR.out
                  have := rloop_mk (w := w) (s := s) (R := R) (row := ([] : List Int)) (n := 0) (i := false) (A3 := A3) (c3 := c3) (A4 := A4) (c4 := c4) (k + 1) (by omega) (by rw [HT.out, HCN.out, HST.out]) (by rw [HT.out, HSN.out, HLY.out, List.append_nil]) ⟨by first | omega | (simp; omega) | (simp at hx7 ⊢; omega) | (simp; done), by omega⟩ (by simpa using hrows)
                  simpa using this
                case measure => simp [intOf]; omega
              · have hpos : 0 < row.length := List.length_pos_iff.2 hrow
                have HST : Hid (rstep5 ⟨n, false, row⟩ 10 = ⟨0, false, []⟩) := Lib.hid (by unfold rstep5 rdig rlays rrow; simp [isDig, isSep, Nat.ble, Nat.beq, row_ne hrow])
                have HLY : Hid ((bif !rdig 10 && rlays ⟨n, false, row⟩ 10 then [rrow ⟨n, false, row⟩ 10] else []) = [row]) := Lib.hid (by unfold rdig rlays rrow; simp [isDig, isSep, Nat.ble, Nat.beq, row_ne hrow])
                go_wp2_with fail
                with_reducible refine (HD.out _).mono ?_
                rintro e w' ⟨rfl, rfl⟩
                go_wp2_with (first
                  | (at_builtin; refine wpList_appO rfl (.tmp 51) (.tmp 53) 62 rfl w.heap.size 22 (.slice none 0 0) 1 24 Try.underlying62 info_s5 rfl (by decide) _ R.length (Classical.choose HR.out.out) rfl ((Classical.choose_spec HR.out.out).1.alloc _) ⟨wr.heap.size, 0, none⟩ 1 1 [.slice A4 row.length c4] rfl rfl (cells_new wr _ [.slice A4 row.length c4]) (by simp [Value.oneCell']) (by simp only [maxLen]; omega) (by omega) (by have := HR.out.be.size; simp; omega) ?_; intro v9 w9 ho9 hg9 hl9))
                have HR9 := Lib.hid (rows_lay HR.out hrow ho9 hg9)
                obtain ⟨A9, cc9, rfl, hx9, hy9⟩ := own_form ho9
                clear ho9 hg9 hl9
                go_wp2
                go_roundw
                case rel =>
                  have hrows := HR9.out
                  have := rloop_mk (w := w) (s := s) (R := R ++ [row]) (row := ([] : List Int)) (n := 0) (i := false) (A3 := A9) (c3 := cc9) (A4 := none) (c4 := 0) (k + 1) (by omega) (by rw [HT.out, HCN.out, HST.out]) (by rw [HT.out, HSN.out, HLY.out]) ⟨by first | omega | (simp; omega) | (simp at hx7 ⊢; omega) | (simp; done), by omega⟩ (by simpa using hrows)
                  simpa using this
                case measure => simp [intOf]; omega
          have HD : Hid (∀ w : World, Calls Try.prog 30 #[.int .u8 (b : Int)] w fun e w' => e = .returned (.int .i32 (-1)) ∧ w = w') := Lib.hid (fun w => rdigit_no b w hdf)
          have hsep : isSep b = false := by unfold isSep; rw [show Nat.beq b 44 = false by rw [Bool.eq_false_iff]; simpa [Nat.beq_eq] using h44, show Nat.beq b 10 = false by rw [Bool.eq_false_iff]; simpa [Nat.beq_eq] using h10]; rfl
          have h33b : Nat.beq b 33 = false := by rw [Bool.eq_false_iff]; simpa [Nat.beq_eq] using h33
          have b33 : ((b : Int) == 33) = false := by simp; omega
          have b44 : ((b : Int) == 44) = false := by simp; omega
          have b10 : ((b : Int) == 10) = false := by simp; omega
          cases i with
          | true =>
            have HST : Hid (rstep5 ⟨n, true, row⟩ b = ⟨0, false, row ++ [(n : Int)]⟩) := Lib.hid (by unfold rstep5 rdig rlays rrow; rw [hdf, hsep, h33b]; simp)
            have HLY : Hid ((bif !rdig b && rlays ⟨n, true, row⟩ b then [rrow ⟨n, true, row⟩ b] else []) = []) := Lib.hid (by unfold rdig rlays; rw [hdf, hsep]; rfl)
            go_wp2_with fail
            with_reducible refine (HD.out _).mono ?_
            rintro e w' ⟨rfl, rfl⟩
            go_wp2_with (at_builtin; refine wpList_appO rfl (.tmp 31) (.tmp 33) 22 rfl w.heap.size 21 (.int .i32 0) 1 4 Try.underlying22 info_r5 rfl (by decide) _ _ _ rfl (HR.out.row.alloc _) ⟨wr.heap.size, 0, none⟩ 1 1 [.int .i32 (n : Int)] rfl rfl (cells_new wr _ _) (by simp [Value.oneCell']) (by simp only [maxLen]; omega) (by omega) (by have := HR.out.be.size; simp; omega) ?_; intro v6 w6 ho6 hg6 hl6; have HR6 := Lib.hid (rows_num HR.out _ ho6 hg6 hl6); obtain ⟨A6, cc6, rfl, hx6, hy6⟩ := own_form ho6; clear ho6 hg6 hl6)
            go_roundw
            case rel =>
              have hrows := HR6.out
              have := rloop_mk (w := w) (s := s) (R := R) (row := row ++ [(n : Int)]) (n := 0) (i := false) (A3 := A3) (c3 := c3) (A4 := A6) (c4 := cc6) (k + 1) (by omega) (by rw [HT.out, HCN.out, HST.out]) (by rw [HT.out, HSN.out, HLY.out, List.append_nil]) ⟨by first | omega | (simp; omega) | (simp at hx7 ⊢; omega) | (simp; done), by omega⟩ (by simpa using hrows)
              simpa using this
            case measure => simp [intOf]; omega
          | false =>
            have HST : Hid (rstep5 ⟨n, false, row⟩ b = ⟨0, false, row⟩) := Lib.hid (by unfold rstep5 rdig rlays rrow; rw [hdf, hsep, h33b]; simp)
            have HLY : Hid ((bif !rdig b && rlays ⟨n, false, row⟩ b then [rrow ⟨n, false, row⟩ b] else []) = []) := Lib.hid (by unfold rdig rlays; rw [hdf, hsep]; rfl)
            go_wp2_with fail
            with_reducible refine (HD.out _).mono ?_
            rintro e w' ⟨rfl, rfl⟩
            go_wp2
            go_roundw
            case rel =>
              have hrows := HR.out
              have := rloop_mk (w := w) (s := s) (R := R) (row := row) (n := 0) (i := false) (A3 := A3) (c3 := c3) (A4 := A4) (c4 := c4) (k + 1) (by omega) (by rw [HT.out, HCN.out, HST.out]) (by rw [HT.out, HSN.out, HLY.out, List.append_nil]) ⟨by first | omega | (simp; omega) | (simp at hx7 ⊢; omega) | (simp; done), by omega⟩ (by simpa using hrows)
              simpa using this
            case measure => simp [intOf]; omega
      · have hbe := hb2 hlt
        have hlt' : ¬ (k : Int) < s.size := by omega
        clear hb1 hb2
        subst hbe
        have hdf : isDig 10 = false := by decide
        have HD : Hid (∀ w : World, Calls Try.prog 30 #[.int .u8 10] w fun e w' => e = .returned (.int .i32 (-1)) ∧ w = w') := Lib.hid (fun w => rdigit_no 10 w hdf)
        clear hokk
        cases i with
        | true =>
          have HST : Hid (rstep5 ⟨n, true, row⟩ 10 = ⟨0, false, []⟩) := Lib.hid (by unfold rstep5 rdig rlays rrow; simp [isDig, isSep, Nat.ble, Nat.beq, app_ne])
          have HLY : Hid ((bif !rdig 10 && rlays ⟨n, true, row⟩ 10 then [rrow ⟨n, true, row⟩ 10] else []) = [row ++ [(n : Int)]]) := Lib.hid (by unfold rdig rlays rrow; simp [isDig, isSep, Nat.ble, Nat.beq, app_ne])
          go_wp2_with fail
          with_reducible refine (HD.out _).mono ?_
          rintro e w' ⟨rfl, rfl⟩
          go_wp2_with (first
            | (at_builtin; refine wpList_appO rfl (.tmp 31) (.tmp 33) 22 rfl w.heap.size 21 (.int .i32 0) 1 4 Try.underlying22 info_r5 rfl (by decide) _ _ _ rfl (HR.out.row.alloc _) ⟨wr.heap.size, 0, none⟩ 1 1 [.int .i32 (n : Int)] rfl rfl (cells_new wr _ _) (by simp [Value.oneCell']) (by simp only [maxLen]; omega) (by omega) (by have := HR.out.be.size; simp; omega) ?_; intro v6 w6 ho6 hg6 hl6; have HR6 := Lib.hid (rows_num HR.out _ ho6 hg6 hl6); obtain ⟨A6, cc6, rfl, hx6, hy6⟩ := own_form ho6; clear ho6 hg6 hl6)
            | (at_builtin; refine wpList_appO rfl (.tmp 51) (.tmp 53) 62 rfl w.heap.size 22 (.slice none 0 0) 1 24 Try.underlying62 info_s5 rfl (by decide) _ R.length (Classical.choose HR6.out.out) rfl ((Classical.choose_spec HR6.out.out).1.alloc _) ⟨w6.heap.size, 0, none⟩ 1 1 [.slice A6 (row.length + 1) cc6] rfl rfl (cells_new w6 _ [.slice A6 (row.length + 1) cc6]) (by simp [Value.oneCell']) (by simp only [maxLen]; omega) (by omega) (by have := HR6.out.be.size; simp; omega) ?_; intro v9 w9 ho9 hg9 hl9))
          have HR9 := Lib.hid (rows_lay HR6.out (by simp) ho9 hg9)
          obtain ⟨A9, cc9, rfl, hx9, hy9⟩ := own_form ho9
          clear ho9 hg9 hl9
          go_wp2
          go_roundw
          case rel =>
            have hrows := HR9.out
            have := rloop_mk (w := w) (s := s) (R := R ++ [row ++ [(n : Int)]]) (row := ([] : List Int)) (n := 0) (i := false) (A3 := A9) (c3 := cc9) (A4 := none) (c4 := 0) (k + 1) (by omega) (by rw [HT.out, HCN.out, HST.out]) (by rw [HT.out, HSN.out, HLY.out]) ⟨by first | omega | (simp; omega) | (simp at hx7 ⊢; omega) | (simp; done), by omega⟩ (by simpa using hrows)
            simpa using this
          case measure => simp [intOf]; omega
        | false =>
          by_cases hrow : row = []
          · subst hrow
            have HST : Hid (rstep5 ⟨n, false, []⟩ 10 = ⟨0, false, []⟩) := Lib.hid (by unfold rstep5 rdig rlays rrow; simp [isDig, isSep, Nat.ble, Nat.beq])
            have HLY : Hid ((bif !rdig 10 && rlays ⟨n, false, []⟩ 10 then [rrow ⟨n, false, []⟩ 10] else []) = []) := Lib.hid (by rfl)
            go_wp2_with fail
            with_reducible refine (HD.out _).mono ?_
            rintro e w' ⟨rfl, rfl⟩
            go_wp2
            go_roundw
            case rel =>
              have hrows := HR.out
              have := rloop_mk (w := w) (s := s) (R := R) (row := ([] : List Int)) (n := 0) (i := false) (A3 := A3) (c3 := c3) (A4 := A4) (c4 := c4) (k + 1) (by omega) (by rw [HT.out, HCN.out, HST.out]) (by rw [HT.out, HSN.out, HLY.out, List.append_nil]) ⟨by first | omega | (simp; omega) | (simp at hx7 ⊢; omega) | (simp; done), by omega⟩ (by simpa using hrows)
              simpa using this
            case measure => simp [intOf]; omega
          · have hpos : 0 < row.length := List.length_pos_iff.2 hrow
            have HST : Hid (rstep5 ⟨n, false, row⟩ 10 = ⟨0, false, []⟩) := Lib.hid (by unfold rstep5 rdig rlays rrow; simp [isDig, isSep, Nat.ble, Nat.beq, row_ne hrow])
            have HLY : Hid ((bif !rdig 10 && rlays ⟨n, false, row⟩ 10 then [rrow ⟨n, false, row⟩ 10] else []) = [row]) := Lib.hid (by unfold rdig rlays rrow; simp [isDig, isSep, Nat.ble, Nat.beq, row_ne hrow])
            go_wp2_with fail
            with_reducible refine (HD.out _).mono ?_
            rintro e w' ⟨rfl, rfl⟩
            go_wp2_with (first
              | (at_builtin; refine wpList_appO rfl (.tmp 51) (.tmp 53) 62 rfl w.heap.size 22 (.slice none 0 0) 1 24 Try.underlying62 info_s5 rfl (by decide) _ R.length (Classical.choose HR.out.out) rfl ((Classical.choose_spec HR.out.out).1.alloc _) ⟨wr.heap.size, 0, none⟩ 1 1 [.slice A4 row.length c4] rfl rfl (cells_new wr _ [.slice A4 row.length c4]) (by simp [Value.oneCell']) (by simp only [maxLen]; omega) (by omega) (by have := HR.out.be.size; simp; omega) ?_; intro v9 w9 ho9 hg9 hl9))
            have HR9 := Lib.hid (rows_lay HR.out hrow ho9 hg9)
            obtain ⟨A9, cc9, rfl, hx9, hy9⟩ := own_form ho9
            clear ho9 hg9 hl9
            go_wp2
            go_roundw
            case rel =>
              have hrows := HR9.out
              have := rloop_mk (w := w) (s := s) (R := R ++ [row]) (row := ([] : List Int)) (n := 0) (i := false) (A3 := A9) (c3 := cc9) (A4 := none) (c4 := 0) (k + 1) (by omega) (by rw [HT.out, HCN.out, HST.out]) (by rw [HT.out, HSN.out, HLY.out]) ⟨by first | omega | (simp; omega) | (simp at hx7 ⊢; omega) | (simp; done), by omega⟩ (by simpa using hrows)
              simpa using this
            case measure => simp [intOf]; omega
    · have hkk : k = s.size + 1 := by omega
      subst hkk
      have hle' : ¬ ((s.size + 1 : Nat) : Int) ≤ s.size := by omega
      have htk : (bytesOf s ++ [10]).take (s.size + 1) = bytesOf s ++ [10] := List.take_of_length_le (by rw [hall]; exact Nat.le_refl _)
      rw [htk] at hR ⊢
      clear htk
      have HR := Lib.hid hR
      clear hR hall
      go_wp2
      go_ret
      exact ⟨_, rfl, rows_is HR.out, HR.out.be⟩
end Go.Proofs.Ytmphfdnpnhlpjaa
