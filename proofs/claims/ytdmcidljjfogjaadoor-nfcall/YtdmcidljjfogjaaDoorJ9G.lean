/- Joined of: App, R6Kind, Row, Same7, H6S, H6J, R6S, R6, H6, H6K, Arg, AnyH, AppG. -/
import Derived.Test.YtdmcidljjfogjaaDoorJ9A
import Derived.Maps.AppendAt
import Derived.OwnWalk
import Derived.Test.YtdmcidljjfogjaaDoorRows
import Derived.Test.YtdmcidljjfogjaaDoorProg
import Derived.ChangeOld
import Derived.OrdersHeld
/- append of a row of numbers, nil or not, onto a row of the call's own. -/
namespace Go.Proofs.YtdmcidljjfogjaaDoor
open Go.RowKit

abbrev Own (w : World) (base : Nat) (e : TypeId) (k : IntKind) (v : Value) (xs : List Int) : Prop := w.ownsRow base e 1 v xs.length (xs.map (Value.int k))

theorem app_run {P : Program} (w : World) (base : Nat) (t ty e : TypeId) (k : IntKind) (bytes : Nat) (ht : P.underlying t = some (.slice e)) (hi : (P.info? e).map (fun i => (i.zero, i.size, i.bytes)) = some (some (.int k 0), 1, bytes)) (h8 : bytes ≤ 8)
    (v : Value) (xs : List Int) (hown : Own w base e k v xs) (B : Nat) (A : Option Addr) (c : Nat) (ys : List Int) (hA : A = none → c = 0) (hr : Ints w B k A ys) (hlen : xs.length + ys.length ≤ 1099511627776) (hbase : base ≤ w.heap.size) :
    ∃ v' w', (Builtin.append_ #[t, t] ty #[v, .slice A ys.length c]).run P w = .ok v' w' ∧ Own w' base e k v' (xs ++ ys) ∧ w.grownBy w' v.ownBlock := by
  obtain ⟨i, hi0, hz, hsz, hby⟩ := info_parts hi
  have hb8 : (xs.length + ys.length) * bytes ≤ 140737488355328 := by
    have := Nat.mul_le_mul hlen h8
    omega
  cases A with
  | none =>
    have hy : ys = [] := by
      rcases hr with h | ⟨b, o, e, _⟩
      · exact h
      · cases e
    subst hy
    rw [hA rfl]
    exact ⟨v, w, run_append_owned_none w base t ty e i 1 ht hi0 v xs.length _ hown, by rw [List.append_nil]; exact hown, World.grownBy.refl w _⟩
  | some ad =>
    have hn : ∀ j u, (ys.map (Value.int k))[j]? = some u → w.cell? (ad.add j) = some u := by
      intro j u hu
      rcases hr with h | ⟨b, o, e, _, hc⟩
      · subst h; simp at hu
      · injection e with e
        subst e
        have hj : j < ys.length := by
          apply Classical.byContradiction; intro hn
          rw [List.getElem?_eq_none (by simp; omega)] at hu; cases hu
        have ha : (⟨b, o, none⟩ : Addr).add j = ⟨b, o + j, none⟩ := by unfold Addr.add; split <;> simp_all
        rw [ha, hc j hj, ← hu]
        simp [List.getElem?_map, List.getD_eq_getElem?_getD, List.getElem?_eq_getElem hj]
    obtain ⟨v', w', hrun, h2, h3, _, _⟩ := run_append_own_at (P := P) w base t ty e i (.int k 0) 1 bytes ht hi0 hz hsz hby rfl (by omega) v xs.length _ hown ad ys.length c (ys.map (Value.int k)) (by simp) hn (ints_oneCell k ys)
      (by simp only [maxLen]; omega) hb8 hbase
    exact ⟨v', w', hrun, by
      have : (xs ++ ys).length = xs.length + ys.length := by simp
      rw [Own, this, List.map_append]; exact h2, h3⟩

theorem own_grown_below {w w' : World} {base : Nat} {e : TypeId} {k : IntKind} {v : Value} {xs : List Int} (hown : Own w base e k v xs) (hg : w.grownBy w' v.ownBlock) (hbase : base ≤ w.heap.size) : Below base w w' :=
  (Below.refl base w).grown hg hbase fun g hv => (hown.lt g hv).1

theorem wp_app {P : Program} {w : World} {o : Oper} {a : Act} {K : Act → World → Prop} {Q : Exit → Act → World → Prop} (s x : Operand) (t : TypeId)
    (ho : o.op = .call { callee := .builtin .append, args := #[s, x], argTypes := #[t, t] })
    (base : Nat) (e : TypeId) (k : IntKind) (bytes : Nat) (ht : P.underlying t = some (.slice e)) (hi : (P.info? e).map (fun i => (i.zero, i.size, i.bytes)) = some (some (.int k 0), 1, bytes)) (h8 : bytes ≤ 8)
    (v : Value) (xs : List Int) (hs : a.eval s = v) (hown : Own w base e k v xs) (B : Nat) (A : Option Addr) (c : Nat) (ys : List Int) (hx : a.eval x = .slice A ys.length c) (hA : A = none → c = 0) (hr : Ints w B k A ys)
    (hlen : xs.length + ys.length ≤ 1099511627776) (hbase : base ≤ w.heap.size)
    (h : ∀ v' w', Own w' base e k v' (xs ++ ys) → w.grownBy w' v.ownBlock → K (a.put o.dst v') w') : o.wp P a w K Q := by
  obtain ⟨v', w', hrun, h2, h3⟩ := app_run (P := P) w base t o.type e k bytes ht hi h8 v xs hown B A c ys hA hr hlen hbase
  unfold Oper.wp execOp
  simp only [ho, resolve, invoke, builtin, Sem.run_bind, Sem.run_pure, Result.andThen_ok, List.map_toArray, List.map_cons, List.map_nil, hs, hx, hrun]
  exact h v' w' h2 h3

theorem wpList_app {P : Program} {w : World} {ops : Array Oper} {rest : List Oper} {o : Oper} {a : Act} {Q : Exit → Act → World → Prop} (hgd : o.guard = none) (s x : Operand) (t : TypeId)
    (ho : o.op = .call { callee := .builtin .append, args := #[s, x], argTypes := #[t, t] })
    (base : Nat) (e : TypeId) (k : IntKind) (bytes : Nat) (ht : P.underlying t = some (.slice e)) (hi : (P.info? e).map (fun i => (i.zero, i.size, i.bytes)) = some (some (.int k 0), 1, bytes)) (h8 : bytes ≤ 8)
    (v : Value) (xs : List Int) (hs : a.eval s = v) (hown : Own w base e k v xs) (B : Nat) (A : Option Addr) (c : Nat) (ys : List Int) (hx : a.eval x = .slice A ys.length c) (hA : A = none → c = 0) (hr : Ints w B k A ys)
    (hlen : xs.length + ys.length ≤ 1099511627776) (hbase : base ≤ w.heap.size)
    (h : ∀ v' w', Own w' base e k v' (xs ++ ys) → w.grownBy w' v.ownBlock → wpList P ops Q rest (a.put o.dst v') w') : wpList P ops Q (o :: rest) a w :=
  wpList_plain hgd fun _ hK => wp_app s x t ho base e k bytes ht hi h8 v xs hs hown B A c ys hx hA hr hlen hbase fun v' w' h2 h3 => hK _ _ (h v' w' h2 h3)

/-- a row that a literal has just laid -/
theorem Ints.lit (w : World) (t : TypeId) (k : IntKind) (ys : List Int) : Ints (w.alloc (.cells (ys.map (Value.int k)).toArray t)) (w.heap.size + 1) k (some ⟨w.heap.size, 0, none⟩) ys := by
  refine .inr ⟨_, _, rfl, by omega, fun j hj => ?_⟩
  rw [Nat.zero_add, (Blk.new w t (ys.map (Value.int k)).toArray).cell j]
  simp [List.getD_eq_getElem?_getD, List.getElem?_eq_getElem hj]
end Go.Proofs.YtdmcidljjfogjaaDoor

/- orthoepyref06's Kind by its contract. -/
namespace Go.Proofs.YtdmcidljjfogjaaDoor
open Go.ChangeShapes Go.WideShapes Go.ChangeAt Go.RowKit
set_option linter.unusedVariables false

def kind6 (c : Int) : Int := if 4352 ≤ c ∧ c ≤ 4370 then 1 else if 4449 ≤ c ∧ c ≤ 4469 then 2 else if 4520 ≤ c ∧ c ≤ 4546 then 3 else if c < 44032 ∨ 55203 < c then 0 else if (c - 44032) % 28 = 0 then 4 else 5
theorem kind6_big {c : Int} (h : 3 < kind6 c) : 44032 ≤ c ∧ c ≤ 55203 := by
  unfold kind6 at h
  split at h
  · omega
  · split at h
    · omega
    · split at h
      · omega
      · split at h
        · omega
        · omega
theorem kind_any (c : Int) (w : World) : Calls Tryd.prog 37 #[.int .i32 c] w fun e w' => e = .returned (.int .i64 (kind6 c)) ∧ w = w' := by
  by_cases h1 : 4352 ≤ c ∧ c ≤ 4370
  · have e : kind6 c = 1 := by unfold kind6; rw [if_pos h1]
    rw [e]
    obtain ⟨a1, a2⟩ := h1
    clear e
    go_enter Tryd.func37, Tryd.ntmps37
    go_wp2
    go_ret
    exact ⟨rfl, rfl⟩
  by_cases h2 : 4449 ≤ c ∧ c ≤ 4469
  · have e : kind6 c = 2 := by unfold kind6; rw [if_neg h1, if_pos h2]
    rw [e]
    obtain ⟨a1, a2⟩ := h2
    have a3 : 4352 ≤ c := by omega
    have a4 : ¬ c ≤ 4370 := by omega
    clear e h1
    go_enter Tryd.func37, Tryd.ntmps37
    go_wp2
    go_ret
    exact ⟨rfl, rfl⟩
  by_cases h3 : 4520 ≤ c ∧ c ≤ 4546
  · have e : kind6 c = 3 := by unfold kind6; rw [if_neg h1, if_neg h2, if_pos h3]
    rw [e]
    obtain ⟨a1, a2⟩ := h3
    have a3 : 4352 ≤ c := by omega
    have a4 : ¬ c ≤ 4370 := by omega
    have a5 : 4449 ≤ c := by omega
    have a6 : ¬ c ≤ 4469 := by omega
    clear e h1 h2
    go_enter Tryd.func37, Tryd.ntmps37
    go_wp2
    go_ret
    exact ⟨rfl, rfl⟩
  by_cases h4 : c < 44032 ∨ 55203 < c
  · have e : kind6 c = 0 := by unfold kind6; rw [if_neg h1, if_neg h2, if_neg h3, if_pos h4]
    rw [e]
    clear e
    by_cases b1 : 4352 ≤ c <;> by_cases b2 : c ≤ 4370 <;> by_cases b3 : 4449 ≤ c <;> by_cases b4 : c ≤ 4469 <;> by_cases b5 : 4520 ≤ c <;> by_cases b6 : c ≤ 4546 <;> by_cases b7 : c < 44032 <;> (try omega)
    all_goals
      try have b8 : 55203 < c := by omega
      clear h1 h2 h3 h4
      go_enter Tryd.func37, Tryd.ntmps37
      go_wp2
      go_ret
      exact ⟨rfl, rfl⟩
  · have a1 : 44032 ≤ c := by omega
    have a2 : c ≤ 55203 := by omega
    have a3 : ¬ c ≤ 4370 := by omega
    have a4 : ¬ c ≤ 4469 := by omega
    have a5 : ¬ c ≤ 4546 := by omega
    have a6 : 4352 ≤ c := by omega
    have a7 : 4449 ≤ c := by omega
    have a8 : 4520 ≤ c := by omega
    have a9 : ¬ c < 44032 := by omega
    have a10 : ¬ 55203 < c := by omega
    by_cases h5 : (c - 44032) % 28 = 0
    · have e : kind6 c = 4 := by unfold kind6; rw [if_neg h1, if_neg h2, if_neg h3, if_neg h4, if_pos h5]
      rw [e]
      have b1 : (((c - 44032) % 28) == 0) = true := by simp; omega
      clear e h1 h2 h3 h4 h5
      go_enter Tryd.func37, Tryd.ntmps37
      go_wp2
      go_ret
      exact ⟨rfl, rfl⟩
    · have e : kind6 c = 5 := by unfold kind6; rw [if_neg h1, if_neg h2, if_neg h3, if_neg h4, if_neg h5]
      rw [e]
      have b1 : (((c - 44032) % 28) == 0) = false := by simp; omega
      clear e h1 h2 h3 h4 h5
      go_enter Tryd.func37, Tryd.ntmps37
      go_wp2
      go_ret
      exact ⟨rfl, rfl⟩
end Go.Proofs.YtdmcidljjfogjaaDoor

/- Rows of runes of a call's own, as contracts tell of them; what they have in common. -/
namespace Go.Proofs.YtdmcidljjfogjaaDoor
open Go.RowKit
set_option linter.unusedVariables false

/-- a row of the call's own, these numbers -/
def RowRes (t : TypeId) (k : IntKind) (w : World) (zs : List Int) (e : Ending) (w' : World) : Prop :=
  ∃ v, e = .returned v ∧ Own w' w.heap.size t k v zs ∧ Below w.heap.size w w'
theorem info_i32 : (Tryd.prog.info? 21).map (fun i => (i.zero, i.size, i.bytes)) = some (some (.int .i32 0), 1, 4) := by kernel_rfl
theorem own_lit (w : World) (base : Nat) (t : TypeId) (k : IntKind) (ys : List Int) (hb : base ≤ w.heap.size) (hm : ys.length ≤ maxLen) :
    Own (w.alloc (.cells (ys.map (Value.int k)).toArray t)) base t k (.slice (some ⟨w.heap.size, 0, none⟩) ys.length ys.length) ys := by
  have := World.ownsRow_lit (size := 1) (e := t) w (ys.map (Value.int k)).toArray ys.length hb hm (by simp)
  simpa using this
theorem own_nil {w : World} {base : Nat} {t : TypeId} {k : IntKind} {A : Option Addr} {n c : Nat} {xs : List Int} (h : w.ownsRow base t 1 (.slice A n c) n (xs.map (Value.int k))) : A = none → c = 0 := by
  rcases h.2 with ⟨e1, e2⟩ | ⟨g, cap, cur, hv, _⟩
  · injection e1 with e1 e2 e3; intro _; exact e3
  · injection hv with e1 e2 e3; intro h; rw [h] at e1; cases e1
theorem Ints.litAt (w : World) (t : TypeId) (k : IntKind) (ys : List Int) {g : Nat} (hg : w.heap.size = g) : Ints (w.alloc (.cells (ys.map (Value.int k)).toArray t)) (g + 1) k (some ⟨g, 0, none⟩) ys := by
  subst hg; exact Ints.lit w t k ys
/-- a row, told by its cells -/
def RowSl (k : IntKind) (w : World) (zs : List Int) (e : Ending) (w' : World) : Prop :=
  ∃ A c, e = .returned (.slice A zs.length c) ∧ Ints w' w'.heap.size k A zs ∧ (zs.length ≤ c ∧ c ≤ maxLen) ∧ Below w.heap.size w w'
theorem RowRes.sl {t : TypeId} {k : IntKind} {w w' : World} {zs : List Int} {e : Ending} (h : RowRes t k w zs e w') : RowSl k w zs e w' := by
  obtain ⟨v, rfl, hO, hb⟩ := h
  obtain ⟨A, c, rfl, hc, hcm⟩ := own_form hO
  exact ⟨A, c, rfl, Ints.own hO, ⟨hc, hcm⟩, hb⟩
theorem Ints.go {w w' : World} {k : IntKind} {A : Option Addr} {xs : List Int} (h : Ints w w.heap.size k A xs) (hb : Below w.heap.size w w') : Ints w' w'.heap.size k A xs := (h.below hb (Nat.le_refl _)).more hb.size
theorem take_snoc (l : List Int) (k : Nat) (hk : k < l.length) : l.take (k + 1) = l.take k ++ [l.getD k 0] := by
  rw [List.take_succ_eq_append_getElem hk]
  simp [List.getD_eq_getElem?_getD, List.getElem?_eq_getElem hk]
end Go.Proofs.YtdmcidljjfogjaaDoor

/- The document's Same by its contract. -/
namespace Go.Proofs.YtdmcidljjfogjaaDoor
open Go.ChangeShapes Go.WideShapes Go.ChangeAt Go.RowKit
set_option linter.unusedVariables false

theorem ne_at {xs ys : List Int} {k : Nat} (h : xs.getD k 0 ≠ ys.getD k 0) : decide (xs = ys) = false := decide_eq_false (fun e => h (by rw [e]))
def SameLoop (w : World) (xs ys : List Int) (i : Value) (w1 : World) : Prop := ∃ k : Nat, k ≤ xs.length ∧ i = .int .i64 k ∧ xs.take k = ys.take k ∧ Still w w1

set_option maxHeartbeats 1000000 in
theorem same_any (A B : Option Addr) (n m c d : Nat) (xs ys : List Int) (w : World) (hn : xs.length = n) (hm : ys.length = m) (hA : Ints w w.heap.size .i32 A xs) (hB : Ints w w.heap.size .i32 B ys) (hl : n ≤ 1048576) (hl2 : m ≤ 1048576) :
    Calls Tryd.prog 11 #[.slice A n c, .slice B m d] w fun e w' => e = .returned (.bool (decide (xs = ys))) ∧ Still w w' := by
  have HA := Lib.hid hA
  have HB := Lib.hid hB
  clear hA hB
  by_cases hnm : n = m
  · subst hnm
    generalize hres : decide (xs = ys) = R
    have HRES := Lib.hid hres
    clear hres
    have HM := Lib.hid hm
    clear hm
    have hne : ((n : Int) != n) = false := by simp
    have HN := Lib.hid hn
    clear hn
    go_enter Tryd.func11, Tryd.ntmps11
    go_wp2_with fail
    go_loopw [5] (fun i w1 => SameLoop w xs ys i w1) (fun i _ => n - (intOf i).toNat)
    case atStart => exact ⟨0, by omega, rfl, rfl, Still.refl w⟩
    case round =>
      obtain ⟨k, hk, rfl, hT, hst⟩ := hrel
      rw [HN.out] at hk
      by_cases hlt : k < n
      · have hkx : k < xs.length := by rw [HN.out]; exact hlt
        have hky : k < ys.length := by rw [HM.out]; exact hlt
        obtain ⟨b, o, rfl, hbl, hc⟩ := HA.out.at (by omega)
        obtain ⟨b', o', rfl, hbl', hc'⟩ := HB.out.at (by omega)
        have h1 : wr.cell? ⟨b, o + k, none⟩ = some (.int .i32 (xs.getD k 0)) := (hst.cell _).trans (hc k hkx)
        have h2 : wr.cell? ⟨b', o' + k, none⟩ = some (.int .i32 (ys.getD k 0)) := (hst.cell _).trans (hc' k hky)
        have hlt' : (k : Int) < n := by omega
        have HS := Lib.hid (take_snoc xs k hkx)
        have HS' := Lib.hid (take_snoc ys k hky)
        have HT := Lib.hid hT
        have HE := Lib.hid (ne_at (xs := xs) (ys := ys) (k := k))
        generalize xs.getD k 0 = x at *
        generalize ys.getD k 0 = y at *
        clear hc hc' hT hkx hky
        by_cases hxy : x = y
        · subst hxy
          have hx : (x != x) = false := by simp
          go_wp2_with fail
          go_quiet (fail)
          go_wp2
          go_roundw
          case rel => exact ⟨k + 1, by rw [HN.out]; omega, by go_num, by rw [HS.out, HS'.out, HT.out], hst.drewN _⟩
          case measure => simp [intOf]; omega
        · have hx : (x != y) = true := by simp [hxy]
          have hr : R = false := HRES.out.symm.trans (HE.out hxy)
          subst hr
          clear HRES HE
          go_wp2_with fail
          go_quiet (fail)
          go_wp2
          go_ret
          exact ⟨rfl, hst.drewN _⟩
      · have hkk : k = n := by omega
        subst hkk
        have hlt' : ¬ (k : Int) < k := by omega
        have hr : R = true := by
          rw [← HRES.out]
          refine decide_eq_true ?_
          have e := hT
          rw [List.take_of_length_le (by rw [HN.out]; exact Nat.le_refl _), List.take_of_length_le (by rw [HM.out]; exact Nat.le_refl _)] at e
          exact e
        subst hr
        clear HRES hT
        go_wp2
        go_ret
        exact ⟨rfl, hst⟩
  · have hr : decide (xs = ys) = false := decide_eq_false (fun e => hnm (by rw [← hn, ← hm, e]))
    rw [hr]
    have hne : ((n : Int) != m) = true := by simp; omega
    clear hr hn hm
    go_enter Tryd.func11, Tryd.ntmps11
    go_wp2
    go_ret
    exact ⟨rfl, Still.refl w⟩

end Go.Proofs.YtdmcidljjfogjaaDoor

/- hangul.Split by its contract. -/
namespace Go.Proofs.YtdmcidljjfogjaaDoor
open Go.ChangeShapes Go.WideShapes Go.ChangeAt Go.RowKit
set_option linter.unusedVariables false

theorem kindOf_any (c : Int) (w : World) : Calls Tryd.prog 83 #[.int .i32 c] w fun e w' => e = .returned (.int .i64 (kind6 c)) ∧ w = w' := by
  by_cases h1 : 4352 ≤ c ∧ c ≤ 4370
  · have e : kind6 c = 1 := by unfold kind6; rw [if_pos h1]
    rw [e]
    obtain ⟨a1, a2⟩ := h1
    clear e
    go_enter Tryd.func83, Tryd.ntmps83
    go_wp2
    go_ret
    exact ⟨rfl, rfl⟩
  by_cases h2 : 4449 ≤ c ∧ c ≤ 4469
  · have e : kind6 c = 2 := by unfold kind6; rw [if_neg h1, if_pos h2]
    rw [e]
    obtain ⟨a1, a2⟩ := h2
    have a3 : 4352 ≤ c := by omega
    have a4 : ¬ c ≤ 4370 := by omega
    clear e h1
    go_enter Tryd.func83, Tryd.ntmps83
    go_wp2
    go_ret
    exact ⟨rfl, rfl⟩
  by_cases h3 : 4520 ≤ c ∧ c ≤ 4546
  · have e : kind6 c = 3 := by unfold kind6; rw [if_neg h1, if_neg h2, if_pos h3]
    rw [e]
    obtain ⟨a1, a2⟩ := h3
    have a3 : 4352 ≤ c := by omega
    have a4 : ¬ c ≤ 4370 := by omega
    have a5 : 4449 ≤ c := by omega
    have a6 : ¬ c ≤ 4469 := by omega
    clear e h1 h2
    go_enter Tryd.func83, Tryd.ntmps83
    go_wp2
    go_ret
    exact ⟨rfl, rfl⟩
  by_cases h4 : c < 44032 ∨ 55203 < c
  · have e : kind6 c = 0 := by unfold kind6; rw [if_neg h1, if_neg h2, if_neg h3, if_pos h4]
    rw [e]
    clear e
    by_cases b1 : 4352 ≤ c <;> by_cases b2 : c ≤ 4370 <;> by_cases b3 : 4449 ≤ c <;> by_cases b4 : c ≤ 4469 <;> by_cases b5 : 4520 ≤ c <;> by_cases b6 : c ≤ 4546 <;> by_cases b7 : c < 44032 <;> (try omega)
    all_goals
      try have b8 : 55203 < c := by omega
      clear h1 h2 h3 h4
      go_enter Tryd.func83, Tryd.ntmps83
      go_wp2
      go_ret
      exact ⟨rfl, rfl⟩
  · have a1 : 44032 ≤ c := by omega
    have a2 : c ≤ 55203 := by omega
    have a3 : ¬ c ≤ 4370 := by omega
    have a4 : ¬ c ≤ 4469 := by omega
    have a5 : ¬ c ≤ 4546 := by omega
    have a6 : 4352 ≤ c := by omega
    have a7 : 4449 ≤ c := by omega
    have a8 : 4520 ≤ c := by omega
    have a9 : ¬ c < 44032 := by omega
    have a10 : ¬ 55203 < c := by omega
    by_cases h5 : (c - 44032) % 28 = 0
    · have e : kind6 c = 4 := by unfold kind6; rw [if_neg h1, if_neg h2, if_neg h3, if_neg h4, if_pos h5]
      rw [e]
      have b1 : (((c - 44032) % 28) == 0) = true := by simp; omega
      clear e h1 h2 h3 h4 h5
      go_enter Tryd.func83, Tryd.ntmps83
      go_wp2
      go_ret
      exact ⟨rfl, rfl⟩
    · have e : kind6 c = 5 := by unfold kind6; rw [if_neg h1, if_neg h2, if_neg h3, if_neg h4, if_neg h5]
      rw [e]
      have b1 : (((c - 44032) % 28) == 0) = false := by simp; omega
      clear e h1 h2 h3 h4 h5
      go_enter Tryd.func83, Tryd.ntmps83
      go_wp2
      go_ret
      exact ⟨rfl, rfl⟩

theorem lead_any (s : Int) (w : World) (h0 : 0 ≤ s) (h1 : s ≤ 11171) : Calls Tryd.prog 94 #[.int .i32 s] w fun e w' => e = .returned (.int .i32 (4352 + s / 588)) ∧ w = w' := by
  go_enter Tryd.func94, Tryd.ntmps94
  go_wp2
  go_ret
  exact ⟨rfl, rfl⟩
theorem vowel_any (s : Int) (w : World) (h0 : 0 ≤ s) (h1 : s ≤ 11171) : Calls Tryd.prog 95 #[.int .i32 s] w fun e w' => e = .returned (.int .i32 (4449 + s % 588 / 28)) ∧ w = w' := by
  go_enter Tryd.func95, Tryd.ntmps95
  go_wp2
  go_ret
  exact ⟨rfl, rfl⟩
theorem tail_any (s : Int) (w : World) (h0 : 0 ≤ s) (h1 : s ≤ 11171) : Calls Tryd.prog 96 #[.int .i32 s] w fun e w' => e = .returned (.int .i32 (4519 + s % 28)) ∧ w = w' := by
  go_enter Tryd.func96, Tryd.ntmps96
  go_wp2
  go_ret
  exact ⟨rfl, rfl⟩

/-- the parts of a syllable -/
def split6 (c : Int) : List Int :=
  if kind6 c = 4 then [4352 + (c - 44032) / 588, 4449 + (c - 44032) % 588 / 28] else if kind6 c = 5 then [4352 + (c - 44032) / 588, 4449 + (c - 44032) % 588 / 28, 4519 + (c - 44032) % 28] else []
theorem kind6_bd (c : Int) : 0 ≤ kind6 c ∧ kind6 c ≤ 5 := by unfold kind6; repeat' split <;> omega
theorem split6_len (c : Int) : (split6 c).length ≤ 3 := by unfold split6; split <;> (try split) <;> simp
theorem kindOf_is {c k : Int} (h : kind6 c = k) (w : World) : Calls Tryd.prog 83 #[.int .i32 c] w fun e w' => e = .returned (.int .i64 k) ∧ w = w' := by subst h; exact kindOf_any c w
theorem kindR_is {c k : Int} (h : kind6 c = k) (w : World) : Calls Tryd.prog 37 #[.int .i32 c] w fun e w' => e = .returned (.int .i64 k) ∧ w = w' := by subst h; exact kind_any c w

theorem hsplit_any (c : Int) (w : World) (hc0 : -2147483648 ≤ c) (hc1 : c ≤ 2147483647) : Calls Tryd.prog 87 #[.int .i32 c] w (RowRes 21 .i32 w (split6 c)) := by
  by_cases h4 : kind6 c = 4
  · have hb := kind6_big (c := c) (by omega)
    have HE : Hid (split6 c = [4352 + (c - 44032) / 588, 4449 + (c - 44032) % 588 / 28]) := by unfold Hid split6; rw [if_pos h4]
    have HK := Lib.hid (fun W => kindOf_is h4 W)
    obtain ⟨b1, b2⟩ := hb
    clear h4
    go_enter Tryd.func87, Tryd.ntmps87
    go_wp2_with fail
    with_reducible refine (HK.out _).mono ?_
    rintro e w' ⟨rfl, rfl⟩
    go_wp2_with fail
    with_reducible refine (lead_any _ _ (by omega) (by omega)).mono ?_
    rintro e w' ⟨rfl, rfl⟩
    go_wp2_with fail
    with_reducible refine (vowel_any _ _ (by omega) (by omega)).mono ?_
    rintro e w' ⟨rfl, rfl⟩
    go_wp2
    go_ret
    exact ⟨_, rfl, by rw [HE.out]; exact own_lit w _ 21 .i32 [4352 + (c - 44032) / 588, 4449 + (c - 44032) % 588 / 28] (Nat.le_refl _) (by simp [maxLen]), (Below.refl _ _).alloc (Nat.le_refl _) _⟩
  by_cases h5 : kind6 c = 5
  · have hb := kind6_big (c := c) (by omega)
    have HE : Hid (split6 c = [4352 + (c - 44032) / 588, 4449 + (c - 44032) % 588 / 28, 4519 + (c - 44032) % 28]) := by unfold Hid split6; rw [if_neg h4, if_pos h5]
    have HK := Lib.hid (fun W => kindOf_is h5 W)
    obtain ⟨b1, b2⟩ := hb
    clear h4 h5
    go_enter Tryd.func87, Tryd.ntmps87
    go_wp2_with fail
    with_reducible refine (HK.out _).mono ?_
    rintro e w' ⟨rfl, rfl⟩
    go_wp2_with fail
    with_reducible refine (lead_any _ _ (by omega) (by omega)).mono ?_
    rintro e w' ⟨rfl, rfl⟩
    go_wp2_with fail
    with_reducible refine (vowel_any _ _ (by omega) (by omega)).mono ?_
    rintro e w' ⟨rfl, rfl⟩
    go_wp2_with fail
    with_reducible refine (tail_any _ _ (by omega) (by omega)).mono ?_
    rintro e w' ⟨rfl, rfl⟩
    go_wp2
    go_ret
    exact ⟨_, rfl, by rw [HE.out]; exact own_lit w _ 21 .i32 [4352 + (c - 44032) / 588, 4449 + (c - 44032) % 588 / 28, 4519 + (c - 44032) % 28] (Nat.le_refl _) (by simp [maxLen]), (Below.refl _ _).alloc (Nat.le_refl _) _⟩
  · have HE : Hid (split6 c = []) := by unfold Hid split6; rw [if_neg h4, if_neg h5]
    have HK := Lib.hid (fun W => kindOf_any c W)
    have e4 : (kind6 c == 4) = false := beq_eq_false_iff_ne.2 h4
    have e5 : (kind6 c == 5) = false := beq_eq_false_iff_ne.2 h5
    generalize kind6 c = k at *
    clear h4 h5
    go_enter Tryd.func87, Tryd.ntmps87
    go_wp2_with fail
    with_reducible refine (HK.out _).mono ?_
    rintro e w' ⟨rfl, rfl⟩
    go_wp2
    go_ret
    exact ⟨_, rfl, by rw [HE.out]; exact World.ownsRow_nil _ _ _ _, Below.refl _ _⟩

end Go.Proofs.YtdmcidljjfogjaaDoor

/- Layer 6: what two join to, as mathematics. -/
namespace Go.Proofs.YtdmcidljjfogjaaDoor

/-- what two join to -/
def joinC (a b : Int) : Int := if kind6 a = 1 ∧ kind6 b = 2 then 44032 + (a - 4352) * 588 + (b - 4449) * 28 else if kind6 a = 4 ∧ kind6 b = 3 then a + b - 4519 else 0
def joinOk (a b : Int) : Bool := decide (kind6 a = 1 ∧ kind6 b = 2) || decide (kind6 a = 4 ∧ kind6 b = 3)
theorem kind6_1 {c : Int} (h : kind6 c = 1) : 4352 ≤ c ∧ c ≤ 4370 := by unfold kind6 at h; repeat' split at h <;> omega
theorem kind6_2 {c : Int} (h : kind6 c = 2) : 4449 ≤ c ∧ c ≤ 4469 := by unfold kind6 at h; repeat' split at h <;> omega
theorem kind6_3 {c : Int} (h : kind6 c = 3) : 4520 ≤ c ∧ c ≤ 4546 := by unfold kind6 at h; repeat' split at h <;> omega
end Go.Proofs.YtdmcidljjfogjaaDoor

/- The document's layer 6: Split and Join by their contracts. -/
namespace Go.Proofs.YtdmcidljjfogjaaDoor
open Go.ChangeShapes Go.WideShapes Go.ChangeAt Go.RowKit
set_option linter.unusedVariables false

theorem kind6_45 {c : Int} (h : 4 ≤ kind6 c) : kind6 c = if (c - 44032) % 28 = 0 then 4 else 5 := by
  obtain ⟨h1, h2⟩ := kind6_big (c := c) (by omega)
  unfold kind6
  rw [if_neg (by omega), if_neg (by omega), if_neg (by omega), if_neg (by omega)]
theorem rsplit_any (c : Int) (w : World) : Calls Tryd.prog 62 #[.int .i32 c] w (RowRes 21 .i32 w (split6 c)) := by
  by_cases h4 : kind6 c = 4
  · obtain ⟨b1, b2⟩ := kind6_big (c := c) (by omega)
    have HE : Hid (split6 c = [4352 + (c - 44032) / 588, 4449 + (c - 44032) % 588 / 28]) := by unfold Hid split6; rw [if_pos h4]
    have HK := Lib.hid (fun W => kindR_is h4 W)
    have hz : (c - 44032) % 28 = 0 := by
      have := kind6_45 (c := c) (by omega)
      rw [h4] at this
      split at this
      · assumption
      · omega
    have hz' : decide (0 < (c - 44032) % 28) = false := decide_eq_false (by omega)
    have HZ := Lib.hid hz
    clear h4 hz
    go_enter Tryd.func62, Tryd.ntmps62
    go_wp2_with fail
    with_reducible refine (HK.out _).mono ?_
    rintro e w' ⟨rfl, rfl⟩
    go_wp2
    go_ret
    exact ⟨_, rfl, by rw [HE.out]; exact own_lit w _ 21 .i32 [4352 + (c - 44032) / 588, 4449 + (c - 44032) % 588 / 28] (Nat.le_refl _) (by simp [maxLen]), (Below.refl _ _).alloc (Nat.le_refl _) _⟩
  by_cases h5 : kind6 c = 5
  · obtain ⟨b1, b2⟩ := kind6_big (c := c) (by omega)
    have HE : Hid (split6 c = [4352 + (c - 44032) / 588, 4449 + (c - 44032) % 588 / 28] ++ [4519 + (c - 44032) % 28]) := by unfold Hid split6; rw [if_neg h4, if_pos h5]; rfl
    have HK := Lib.hid (fun W => kindR_is h5 W)
    have hz : 0 < (c - 44032) % 28 := by
      have := kind6_45 (c := c) (by omega)
      rw [h5] at this
      split at this
      · omega
      · omega
    clear h4 h5
    go_enter Tryd.func62, Tryd.ntmps62
    go_wp2_with fail
    with_reducible refine (HK.out _).mono ?_
    rintro e w' ⟨rfl, rfl⟩
    go_wp2_with (first
      | (at_builtin; refine wpList_app rfl (.tmp 21) (.tmp 25) 22 rfl w.heap.size 21 .i32 4 Tryd.underlying22 info_i32 (by omega) _ [4352 + (c - 44032) / 588, 4449 + (c - 44032) % 588 / 28] rfl ((own_lit w _ 21 .i32 [4352 + (c - 44032) / 588, 4449 + (c - 44032) % 588 / 28] (Nat.le_refl _) (by simp [maxLen])).alloc _) _ _ 1 [4519 + (c - 44032) % 28] rfl (fun h => by cases h) (Ints.litAt (w.alloc (.cells #[.int .i32 (4352 + (c - 44032) / 588), .int .i32 (4449 + (c - 44032) % 588 / 28)] 21)) 21 .i32 [4519 + (c - 44032) % 28] (by simp)) (by simp) (by simp; omega) ?_; intro v3 w3 hO3 hg3))
    go_ret
    refine ⟨_, rfl, by rw [HE.out]; exact hO3, ?_⟩
    exact (((Below.refl _ _).alloc (Nat.le_refl _) _).alloc (by simp) _).trans (own_grown_below ((own_lit w _ 21 .i32 [4352 + (c - 44032) / 588, 4449 + (c - 44032) % 588 / 28] (Nat.le_refl _) (by simp [maxLen])).alloc _) hg3 (by simp; omega))
  · have HE : Hid (split6 c = []) := by unfold Hid split6; rw [if_neg h4, if_neg h5]
    have HK := Lib.hid (fun W => kind_any c W)
    have hk : kind6 c < 4 := by have := kind6_bd c; omega
    generalize kind6 c = k at *
    clear h4 h5
    go_enter Tryd.func62, Tryd.ntmps62
    go_wp2_with fail
    with_reducible refine (HK.out _).mono ?_
    rintro e w' ⟨rfl, rfl⟩
    go_wp2
    go_ret
    exact ⟨_, rfl, by rw [HE.out]; exact World.ownsRow_nil _ _ _ _, Below.refl _ _⟩

end Go.Proofs.YtdmcidljjfogjaaDoor

/- The document's layer 6: Join by its contract. -/
namespace Go.Proofs.YtdmcidljjfogjaaDoor
open Go.ChangeShapes Go.WideShapes Go.ChangeAt Go.RowKit
set_option linter.unusedVariables false

theorem rjoin_any (a b : Int) (w : World) : Calls Tryd.prog 71 #[.int .i32 a, .int .i32 b] w fun e w' => e = .returned (.tuple #[.int .i32 (joinC a b), .bool (joinOk a b)]) ∧ w = w' := by
  by_cases h1 : kind6 a = 1 ∧ kind6 b = 2
  · have e1 : joinC a b = 44032 + (a - 4352) * 588 + (b - 4449) * 28 := by unfold joinC; rw [if_pos h1]
    have e2 : joinOk a b = true := by unfold joinOk; rw [decide_eq_true h1]; rfl
    rw [e1, e2]
    obtain ⟨a1, a2⟩ := kind6_1 h1.1
    obtain ⟨a3, a4⟩ := kind6_2 h1.2
    have HA := Lib.hid (fun W => kindR_is h1.1 W)
    have HB := Lib.hid (fun W => kindR_is h1.2 W)
    clear e1 e2 h1
    go_enter Tryd.func71, Tryd.ntmps71
    go_wp2_with fail
    with_reducible refine (HA.out _).mono ?_
    rintro e w' ⟨rfl, rfl⟩
    go_wp2_with fail
    with_reducible refine (HB.out _).mono ?_
    rintro e w' ⟨rfl, rfl⟩
    go_wp2
    go_ret2
    exact ⟨rfl, rfl⟩
  by_cases h2 : kind6 a = 4 ∧ kind6 b = 3
  · have e1 : joinC a b = a + b - 4519 := by unfold joinC; rw [if_neg h1, if_pos h2]
    have e2 : joinOk a b = true := by unfold joinOk; rw [decide_eq_true h2]; simp
    rw [e1, e2]
    obtain ⟨a1, a2⟩ := kind6_big (c := a) (by omega)
    obtain ⟨a3, a4⟩ := kind6_3 h2.2
    have HA := Lib.hid (fun W => kindR_is h2.1 W)
    have HB := Lib.hid (fun W => kindR_is h2.2 W)
    clear e1 e2 h1 h2
    go_enter Tryd.func71, Tryd.ntmps71
    go_wp2_with fail
    with_reducible refine (HA.out _).mono ?_
    rintro e w' ⟨rfl, rfl⟩
    go_wp2_with fail
    with_reducible refine (HA.out _).mono ?_
    rintro e w' ⟨rfl, rfl⟩
    go_wp2_with fail
    with_reducible refine (HB.out _).mono ?_
    rintro e w' ⟨rfl, rfl⟩
    go_wp2
    go_ret2
    exact ⟨rfl, rfl⟩
  · have e1 : joinC a b = 0 := by unfold joinC; rw [if_neg h1, if_neg h2]
    have e2 : joinOk a b = false := by unfold joinOk; rw [decide_eq_false h1, decide_eq_false h2]; rfl
    rw [e1, e2]
    have HA := Lib.hid (fun W => kind_any a W)
    have HB := Lib.hid (fun W => kind_any b W)
    clear e1 e2
    generalize kind6 a = p at *
    generalize kind6 b = q at *
    by_cases p1 : p = 1
    · subst p1
      have q2 : (q == 2) = false := beq_eq_false_iff_ne.2 (by omega)
      clear h1 h2
      go_enter Tryd.func71, Tryd.ntmps71
      go_wp2_with fail
      with_reducible refine (HA.out _).mono ?_
      rintro e w' ⟨rfl, rfl⟩
      go_wp2_with fail
      with_reducible refine (HB.out _).mono ?_
      rintro e w' ⟨rfl, rfl⟩
      go_wp2_with fail
      with_reducible refine (HA.out _).mono ?_
      rintro e w' ⟨rfl, rfl⟩
      go_wp2
      go_ret2
      exact ⟨rfl, rfl⟩
    by_cases p4 : p = 4
    · subst p4
      have q2 : (q == 3) = false := beq_eq_false_iff_ne.2 (by omega)
      clear h1 h2 p1
      go_enter Tryd.func71, Tryd.ntmps71
      go_wp2_with fail
      with_reducible refine (HA.out _).mono ?_
      rintro e w' ⟨rfl, rfl⟩
      go_wp2_with fail
      with_reducible refine (HA.out _).mono ?_
      rintro e w' ⟨rfl, rfl⟩
      go_wp2_with fail
      with_reducible refine (HB.out _).mono ?_
      rintro e w' ⟨rfl, rfl⟩
      go_wp2
      go_ret2
      exact ⟨rfl, rfl⟩
    have e1 : (p == 1) = false := beq_eq_false_iff_ne.2 p1
    have e4 : (p == 4) = false := beq_eq_false_iff_ne.2 p4
    clear h1 h2 p1 p4
    go_enter Tryd.func71, Tryd.ntmps71
    go_wp2_with fail
    with_reducible refine (HA.out _).mono ?_
    rintro e w' ⟨rfl, rfl⟩
    go_wp2_with fail
    with_reducible refine (HA.out _).mono ?_
    rintro e w' ⟨rfl, rfl⟩
    go_wp2
    go_ret2
    exact ⟨rfl, rfl⟩
end Go.Proofs.YtdmcidljjfogjaaDoor

/- hangul.Join by its contract. -/
namespace Go.Proofs.YtdmcidljjfogjaaDoor
open Go.ChangeShapes Go.WideShapes Go.ChangeAt Go.RowKit
set_option linter.unusedVariables false

theorem hjoin_any (a b : Int) (w : World) : Calls Tryd.prog 84 #[.int .i32 a, .int .i32 b] w fun e w' => e = .returned (.tuple #[.int .i32 (joinC a b), .bool (joinOk a b)]) ∧ w = w' := by
  by_cases h1 : kind6 a = 1 ∧ kind6 b = 2
  · have e1 : joinC a b = 44032 + (a - 4352) * 588 + (b - 4449) * 28 := by unfold joinC; rw [if_pos h1]
    have e2 : joinOk a b = true := by unfold joinOk; rw [decide_eq_true h1]; rfl
    rw [e1, e2]
    obtain ⟨a1, a2⟩ := kind6_1 h1.1
    obtain ⟨a3, a4⟩ := kind6_2 h1.2
    have HA := Lib.hid (fun W => kindOf_is h1.1 W)
    have HB := Lib.hid (fun W => kindOf_is h1.2 W)
    clear e1 e2 h1
    go_enter Tryd.func84, Tryd.ntmps84
    go_wp2_with fail
    with_reducible refine (HA.out _).mono ?_
    rintro e w' ⟨rfl, rfl⟩
    go_wp2_with fail
    with_reducible refine (HB.out _).mono ?_
    rintro e w' ⟨rfl, rfl⟩
    go_wp2
    go_ret2
    exact ⟨rfl, rfl⟩
  by_cases h2 : kind6 a = 4 ∧ kind6 b = 3
  · have e1 : joinC a b = a + b - 4519 := by unfold joinC; rw [if_neg h1, if_pos h2]
    have e2 : joinOk a b = true := by unfold joinOk; rw [decide_eq_true h2]; simp
    rw [e1, e2]
    obtain ⟨a1, a2⟩ := kind6_big (c := a) (by omega)
    obtain ⟨a3, a4⟩ := kind6_3 h2.2
    have HA := Lib.hid (fun W => kindOf_is h2.1 W)
    have HB := Lib.hid (fun W => kindOf_is h2.2 W)
    clear e1 e2 h1 h2
    go_enter Tryd.func84, Tryd.ntmps84
    go_wp2_with fail
    with_reducible refine (HA.out _).mono ?_
    rintro e w' ⟨rfl, rfl⟩
    go_wp2_with fail
    with_reducible refine (HB.out _).mono ?_
    rintro e w' ⟨rfl, rfl⟩
    go_wp2
    go_ret2
    exact ⟨rfl, rfl⟩
  · have e1 : joinC a b = 0 := by unfold joinC; rw [if_neg h1, if_neg h2]
    have e2 : joinOk a b = false := by unfold joinOk; rw [decide_eq_false h1, decide_eq_false h2]; rfl
    rw [e1, e2]
    have HA := Lib.hid (fun W => kindOf_any a W)
    have HB := Lib.hid (fun W => kindOf_any b W)
    clear e1 e2
    generalize kind6 a = p at *
    generalize kind6 b = q at *
    by_cases p1 : p = 1
    · subst p1
      have q2 : (q == 2) = false := beq_eq_false_iff_ne.2 (by omega)
      clear h1 h2
      go_enter Tryd.func84, Tryd.ntmps84
      go_wp2_with fail
      with_reducible refine (HA.out _).mono ?_
      rintro e w' ⟨rfl, rfl⟩
      go_wp2_with fail
      with_reducible refine (HB.out _).mono ?_
      rintro e w' ⟨rfl, rfl⟩
      go_wp2
      go_ret2
      exact ⟨rfl, rfl⟩
    by_cases p4 : p = 4
    · subst p4
      have q2 : (q == 3) = false := beq_eq_false_iff_ne.2 (by omega)
      clear h1 h2 p1
      go_enter Tryd.func84, Tryd.ntmps84
      go_wp2_with fail
      with_reducible refine (HA.out _).mono ?_
      rintro e w' ⟨rfl, rfl⟩
      go_wp2_with fail
      with_reducible refine (HB.out _).mono ?_
      rintro e w' ⟨rfl, rfl⟩
      go_wp2
      go_ret2
      exact ⟨rfl, rfl⟩
    have e1 : (p == 1) = false := beq_eq_false_iff_ne.2 p1
    have e4 : (p == 4) = false := beq_eq_false_iff_ne.2 p4
    clear h1 h2 p1 p4
    go_enter Tryd.func84, Tryd.ntmps84
    go_wp2_with fail
    with_reducible refine (HA.out _).mono ?_
    rintro e w' ⟨rfl, rfl⟩
    go_wp2_with fail
    with_reducible refine (HB.out _).mono ?_
    rintro e w' ⟨rfl, rfl⟩
    go_wp2
    go_ret2
    exact ⟨rfl, rfl⟩
end Go.Proofs.YtdmcidljjfogjaaDoor

/- hangul.Kind by its contract. -/
namespace Go.Proofs.YtdmcidljjfogjaaDoor
open Go.ChangeShapes Go.WideShapes Go.ChangeAt Go.RowKit
set_option linter.unusedVariables false

theorem hkind_any (c : Int) (w : World) : Calls Tryd.prog 69 #[.int .i32 c] w fun e w' => e = .returned (.int .i64 (kind6 c)) ∧ w = w' := by
  go_enter Tryd.func69, Tryd.ntmps69
  go_wp2_with fail
  with_reducible refine (kindOf_any _ _).mono ?_
  rintro e w' ⟨rfl, rfl⟩
  go_wp2
  go_ret
  exact ⟨rfl, rfl⟩
end Go.Proofs.YtdmcidljjfogjaaDoor

/- A slice of numbers that came in, as the walks are told of it. -/
namespace Go.Proofs.YtdmcidljjfogjaaDoor
open Go.ChangeShapes Go.WideShapes Go.ChangeAt Go.RowKit

structure ArgRow (k : IntKind) (w : World) (a : Option Addr) (len cap : Nat) (z : List Int) : Prop where
  size : z.length = len
  le : len ≤ cap
  max : cap ≤ maxLen
  nil : a = none → cap = 0
  row : Ints w w.heap.size k a z
  wf : ∀ n ∈ z, (Lit.int k n).wf = true
theorem ArgRow.ofNil (k : IntKind) (w : World) : ArgRow k w none 0 0 [] := ⟨rfl, Nat.le_refl _, by simp [maxLen], fun _ => rfl, .inl rfl, fun n h => by cases h⟩
theorem ArgRow.ofRow {k : IntKind} {w : World} {x : Addr} {len cap : Nat} {zs : List Int} (hl : len ≤ cap) (hm : cap ≤ maxLen) (hz : zs.length = cap)
    (hc : ∀ i, i < zs.length → w.cell? (x.add i) = some (.int k (zs.getD i 0))) (hw : ∀ n ∈ zs, (Lit.int k n).wf = true) : ArgRow k w (some x) len cap (zs.take len) := by
  refine ⟨by rw [List.length_take]; omega, hl, hm, fun h => (by cases h), ?_, fun n hn => hw n (List.mem_of_mem_take hn)⟩
  by_cases h0 : len = 0
  · subst h0; exact .inl (by simp)
  · obtain ⟨b, off, rfl, hcc⟩ := ints_at hc (by omega)
    refine .inr ⟨b, off, rfl, World.block_lt_of_cell? w _ (hcc 0 (by omega)), fun j hj => ?_⟩
    rw [List.length_take] at hj
    rw [hcc j (by omega)]
    simp only [List.getD_eq_getElem?_getD, List.getElem?_take]
    rw [if_pos (by omega)]
end Go.Proofs.YtdmcidljjfogjaaDoor

/- A region that draws its order, walked by hand under a condition on the world that every operation of it keeps: what yields the same in every such world is taken first. The laws beneath are the library's (OrdersHeld). -/
namespace Go.Proofs.YtdmcidljjfogjaaDoor
open Go.RowKit
section
variable {P : Program} {ops : Array Oper} {Q : Exit → Act → World → Prop} {md : Region.Mode} {S : World → Prop}
theorem wpH_take (i d : Nat) {oi : Oper} {v : Value} {fuel : Nat} {listed : Array Bool} {a : Act} {w : World} (hi : ops[i]? = some oi) (hd : oi.dst = some d)
    (hs : Region.noSelect ops = true) (hf : Region.free md ops listed i = true) (hr : (Region.ready md ops listed).contains i = true)
    (hQ : ∀ c a w, Q (.panic c) (a.put (some d) v) w → Q (.panic c) a w) (hS : S w) (hy : YieldsIf P ops S oi v a)
    (h : wpAnyH P md ops Q S fuel (listed.setIfInBounds i true) (a.put (some d) v) w) : wpAnyH P md ops Q S (fuel + 1) listed a w :=
  wpAnyH_take hi hs hf hr (by rw [hd]; exact hQ) hy hS (by rw [hd]; exact h)
/-- it comes up alone -/
theorem wpH_one (i : Nat) {o : Oper} {fuel : Nat} {listed : Array Bool} {a : Act} {w : World} (hr : Region.ready md ops listed = [i]) (ho : ops[i]? = some o)
    (h : ∀ K' : Act → World → Prop, Shut (∀ a' w', S w' → wpAnyH P md ops Q S fuel (listed.setIfInBounds i true) a' w' → K' a' w') → if Region.wanted o (yielded ops a.tmps) = true then Oper.wp P o a w K' Q else K' (a.put o.dst undef) w) :
    wpAnyH P md ops Q S (fuel + 1) listed a w :=
  wpAnyH_all hr (by simp) fun j hj => by
    obtain rfl : j = i := by simpa using hj
    exact wpOp_step ho fun K' hK => h K' fun a' w' h1 h2 => hK a' w' ⟨h1, h2⟩
/-- one of two comes up -/
theorem wpH_two (i j : Nat) {o o' : Oper} {fuel : Nat} {listed : Array Bool} {a : Act} {w : World} (hr : Region.ready md ops listed = [i, j]) (ho : ops[i]? = some o) (ho' : ops[j]? = some o')
    (h : ∀ K' : Act → World → Prop, Shut (∀ a' w', S w' → wpAnyH P md ops Q S fuel (listed.setIfInBounds i true) a' w' → K' a' w') → if Region.wanted o (yielded ops a.tmps) = true then Oper.wp P o a w K' Q else K' (a.put o.dst undef) w)
    (h' : ∀ K' : Act → World → Prop, Shut (∀ a' w', S w' → wpAnyH P md ops Q S fuel (listed.setIfInBounds j true) a' w' → K' a' w') → if Region.wanted o' (yielded ops a.tmps) = true then Oper.wp P o' a w K' Q else K' (a.put o'.dst undef) w) :
    wpAnyH P md ops Q S (fuel + 1) listed a w :=
  wpAnyH_all hr (by simp) fun k hk => by
    rcases List.mem_cons.1 hk with rfl | hk
    · exact wpOp_step ho fun K' hK => h K' fun a' w' h1 h2 => hK a' w' ⟨h1, h2⟩
    · obtain rfl : k = j := by simpa using hk
      exact wpOp_step ho' fun K' hK => h' K' fun a' w' h1 h2 => hK a' w' ⟨h1, h2⟩
theorem wpH_done {listed : Array Bool} {a : Act} {w : World} (hr : Region.ready md ops listed = []) (h : Q .normal a w) (fuel : Nat) : wpAnyH P md ops Q S fuel listed a w := wpAnyH_done hr h fuel
theorem wp_region_H (S : World → Prop) {id : Nat} {a : Act} {w : World} (hm : P.follows .mixedOrders = true)
    (h : wpAnyH P .any ops Q S ops.size (Array.replicate ops.size false) a w.drew) : (Code.region id ops true).wp P Q a w := wp_region_held hm h
end
end Go.Proofs.YtdmcidljjfogjaaDoor

/- append under a guard that lets it by. -/
namespace Go.Proofs.YtdmcidljjfogjaaDoor
open Go.RowKit

/-- the same where the operation bears a guard that lets it by -/
theorem wpList_app_g {P : Program} {w : World} {ops : Array Oper} {rest : List Oper} {o : Oper} {a : Act} {Q : Exit → Act → World → Prop} (hgd : Region.wanted o (yielded ops a.tmps) = true) (s x : Operand) (t : TypeId)
    (ho : o.op = .call { callee := .builtin .append, args := #[s, x], argTypes := #[t, t] })
    (base : Nat) (e : TypeId) (k : IntKind) (bytes : Nat) (ht : P.underlying t = some (.slice e)) (hi : (P.info? e).map (fun i => (i.zero, i.size, i.bytes)) = some (some (.int k 0), 1, bytes)) (h8 : bytes ≤ 8)
    (v : Value) (xs : List Int) (hs : a.eval s = v) (hown : Own w base e k v xs) (B : Nat) (A : Option Addr) (c : Nat) (ys : List Int) (hx : a.eval x = .slice A ys.length c) (hA : A = none → c = 0) (hr : Ints w B k A ys)
    (hlen : xs.length + ys.length ≤ 1099511627776) (hbase : base ≤ w.heap.size)
    (h : ∀ v' w', Own w' base e k v' (xs ++ ys) → w.grownBy w' v.ownBlock → wpList P ops Q rest (a.put o.dst v') w') : wpList P ops Q (o :: rest) a w :=
  wpList_step fun K hK => by
    rw [if_pos hgd]
    exact wp_app s x t ho base e k bytes ht hi h8 v xs hs hown B A c ys hx hA hr hlen hbase fun v' w' h2 h3 => hK _ _ (h v' w' h2 h3)

/-- the source's length by another name -/
theorem wpList_app_n {P : Program} {w : World} {ops : Array Oper} {rest : List Oper} {o : Oper} {a : Act} {Q : Exit → Act → World → Prop} (hgd : Region.wanted o (yielded ops a.tmps) = true) (s x : Operand) (t : TypeId)
    (ho : o.op = .call { callee := .builtin .append, args := #[s, x], argTypes := #[t, t] })
    (base : Nat) (e : TypeId) (k : IntKind) (bytes : Nat) (ht : P.underlying t = some (.slice e)) (hi : (P.info? e).map (fun i => (i.zero, i.size, i.bytes)) = some (some (.int k 0), 1, bytes)) (h8 : bytes ≤ 8)
    (v : Value) (xs : List Int) (hs : a.eval s = v) (hown : Own w base e k v xs) (B : Nat) (A : Option Addr) (m c : Nat) (ys : List Int) (hm : ys.length = m) (hx : a.eval x = .slice A m c) (hA : A = none → c = 0) (hr : Ints w B k A ys)
    (hlen : xs.length + m ≤ 1099511627776) (hbase : base ≤ w.heap.size)
    (h : ∀ v' w', Own w' base e k v' (xs ++ ys) → w.grownBy w' v.ownBlock → wpList P ops Q rest (a.put o.dst v') w') : wpList P ops Q (o :: rest) a w := by
  subst hm
  exact wpList_app_g hgd s x t ho base e k bytes ht hi h8 v xs hs hown B A c ys hx hA hr hlen hbase h

/-- a literal without a cell -/
theorem own_empty (w : World) (base : Nat) (t : TypeId) (k : IntKind) (hb : base ≤ w.heap.size) : Own (w.alloc (.cells #[] t)) base t k (.slice (some ⟨w.heap.size, 0, none⟩) 0 0) [] := by
  exact World.ownsRow_lit (size := 1) (e := t) w #[] 0 hb (by simp [maxLen]) (by simp)
end Go.Proofs.YtdmcidljjfogjaaDoor
