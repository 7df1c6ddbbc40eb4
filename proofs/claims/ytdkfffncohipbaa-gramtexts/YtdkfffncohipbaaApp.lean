/- append of a row of numbers, nil or not, onto a row of the call's own. -/
import Derived.Test.YtdkfffncohipbaaMem
import Derived.Maps.AppendAt
import Derived.OwnWalk
namespace Go.Proofs.Ytdkfffncohipbaa
open Go.RowKit

abbrev Own (w : World) (base : Nat) (e : TypeId) (k : IntKind) (v : Value) (xs : List Int) : Prop := w.ownsRow base e 1 v xs.length (xs.map (Value.int k))

theorem app_run {P : Program} (w : World) (base : Nat) (t ty e : TypeId) (k : IntKind) (bytes : Nat) (ht : P.underlying t = some (.slice e)) (hi : (P.info? e).map (fun i => (i.zero, i.size, i.bytes)) = some (some (.int k 0), 1, bytes)) (h8 : bytes ≤ 8)
    (v : Value) (xs : List Int) (hown : Own w base e k v xs) (B : Nat) (A : Option Addr) (c : Nat) (ys : List Int) (hA : A = none → c = 0) (hr : Ints w B k A ys) (hlen : xs.length + ys.length ≤ 1099511627776) (hbase : base ≤ w.heap.size) :
    ∃ v' w', (Builtin.append_ #[t, t] ty #[v, .slice A ys.length c]).run P w = .ok v' w' ∧ Own w' base e k v' (xs ++ ys) ∧ w.grownBy w' v.ownBlock := by
  obtain ⟨i, hi0, hz, hsz, hby⟩ := info_parts hi
  have hb8 : (xs.length + ys.length) * bytes ≤ 140737488355328 := by
    have := Nat.mul_le_mul hlen h8
    omega
  cases A with
  | none =>
    have hy : ys = [] := by
      rcases hr with h | ⟨b, o, e, _⟩
      · exact h
      · cases e
    subst hy
    rw [hA rfl]
    exact ⟨v, w, run_append_owned_none w base t ty e i 1 ht hi0 v xs.length _ hown, by rw [List.append_nil]; exact hown, World.grownBy.refl w _⟩
  | some ad =>
    have hn : ∀ j u, (ys.map (Value.int k))[j]? = some u → w.cell? (ad.add j) = some u := by
      intro j u hu
      rcases hr with h | ⟨b, o, e, _, hc⟩
      · subst h; simp at hu
      · injection e with e
        subst e
        have hj : j < ys.length := by
          apply Classical.byContradiction; intro hn
          rw [List.getElem?_eq_none (by simp; omega)] at hu; cases hu
        have ha : (⟨b, o, none⟩ : Addr).add j = ⟨b, o + j, none⟩ := by unfold Addr.add; split <;> simp_all
        rw [ha, hc j hj, ← hu]
        simp [List.getElem?_map, List.getD_eq_getElem?_getD, List.getElem?_eq_getElem hj]
    obtain ⟨v', w', hrun, h2, h3, _, _⟩ := run_append_own_at (P := P) w base t ty e i (.int k 0) 1 bytes ht hi0 hz hsz hby rfl (by omega) v xs.length _ hown ad ys.length c (ys.map (Value.int k)) (by simp) hn (ints_oneCell k ys)
      (by simp only [maxLen]; omega) hb8 hbase
    exact ⟨v', w', hrun, by
      have : (xs ++ ys).length = xs.length + ys.length := by simp
      rw [Own, this, List.map_append]; exact h2, h3⟩

theorem own_grown_below {w w' : World} {base : Nat} {e : TypeId} {k : IntKind} {v : Value} {xs : List Int} (hown : Own w base e k v xs) (hg : w.grownBy w' v.ownBlock) (hbase : base ≤ w.heap.size) : Below base w w' :=
  (Below.refl base w).grown hg hbase fun g hv => (hown.lt g hv).1

theorem wp_app {P : Program} {w : World} {o : Oper} {a : Act} {K : Act → World → Prop} {Q : Exit → Act → World → Prop} (s x : Operand) (t : TypeId)
    (ho : o.op = .call { callee := .builtin .append, args := #[s, x], argTypes := #[t, t] })
    (base : Nat) (e : TypeId) (k : IntKind) (bytes : Nat) (ht : P.underlying t = some (.slice e)) (hi : (P.info? e).map (fun i => (i.zero, i.size, i.bytes)) = some (some (.int k 0), 1, bytes)) (h8 : bytes ≤ 8)
    (v : Value) (xs : List Int) (hs : a.eval s = v) (hown : Own w base e k v xs) (B : Nat) (A : Option Addr) (c : Nat) (ys : List Int) (hx : a.eval x = .slice A ys.length c) (hA : A = none → c = 0) (hr : Ints w B k A ys)
    (hlen : xs.length + ys.length ≤ 1099511627776) (hbase : base ≤ w.heap.size)
    (h : ∀ v' w', Own w' base e k v' (xs ++ ys) → w.grownBy w' v.ownBlock → K (a.put o.dst v') w') : o.wp P a w K Q := by
  obtain ⟨v', w', hrun, h2, h3⟩ := app_run (P := P) w base t o.type e k bytes ht hi h8 v xs hown B A c ys hA hr hlen hbase
  unfold Oper.wp execOp
  simp only [ho, resolve, invoke, builtin, Sem.run_bind, Sem.run_pure, Result.andThen_ok, List.map_toArray, List.map_cons, List.map_nil, hs, hx, hrun]
  exact h v' w' h2 h3

theorem wpList_app {P : Program} {w : World} {ops : Array Oper} {rest : List Oper} {o : Oper} {a : Act} {Q : Exit → Act → World → Prop} (hgd : o.guard = none) (s x : Operand) (t : TypeId)
    (ho : o.op = .call { callee := .builtin .append, args := #[s, x], argTypes := #[t, t] })
    (base : Nat) (e : TypeId) (k : IntKind) (bytes : Nat) (ht : P.underlying t = some (.slice e)) (hi : (P.info? e).map (fun i => (i.zero, i.size, i.bytes)) = some (some (.int k 0), 1, bytes)) (h8 : bytes ≤ 8)
    (v : Value) (xs : List Int) (hs : a.eval s = v) (hown : Own w base e k v xs) (B : Nat) (A : Option Addr) (c : Nat) (ys : List Int) (hx : a.eval x = .slice A ys.length c) (hA : A = none → c = 0) (hr : Ints w B k A ys)
    (hlen : xs.length + ys.length ≤ 1099511627776) (hbase : base ≤ w.heap.size)
    (h : ∀ v' w', Own w' base e k v' (xs ++ ys) → w.grownBy w' v.ownBlock → wpList P ops Q rest (a.put o.dst v') w') : wpList P ops Q (o :: rest) a w :=
  wpList_plain hgd fun _ hK => wp_app s x t ho base e k bytes ht hi h8 v xs hs hown B A c ys hx hA hr hlen hbase fun v' w' h2 h3 => hK _ _ (h v' w' h2 h3)

/-- a row that a literal has just laid -/
theorem Ints.lit (w : World) (t : TypeId) (k : IntKind) (ys : List Int) : Ints (w.alloc (.cells (ys.map (Value.int k)).toArray t)) (w.heap.size + 1) k (some ⟨w.heap.size, 0, none⟩) ys := by
  refine .inr ⟨_, _, rfl, by omega, fun j hj => ?_⟩
  rw [Nat.zero_add, (Blk.new w t (ys.map (Value.int k)).toArray).cell j]
  simp [List.getD_eq_getElem?_getD, List.getElem?_eq_getElem hj]
end Go.Proofs.Ytdkfffncohipbaa
