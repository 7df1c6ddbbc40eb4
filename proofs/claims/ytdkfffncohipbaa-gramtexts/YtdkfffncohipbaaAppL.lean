/- append onto a row that may have been handed in, told by where it lies: what a call does to the row that it is handed. -/
import Derived.Test.YtdkfffncohipbaaRow
namespace Go.Proofs.Ytdkfffncohipbaa
open Go.RowKit
set_option linter.unusedVariables false

/-- nothing but v's own row has turned, and v' lies there or is new -/
def Grew (w w' : World) (v v' : Value) : Prop := w.grownBy w' v.ownBlock ∧ ∀ g, v'.ownBlock = some g → v.ownBlock = some g ∨ w.heap.size ≤ g
theorem Grew.refl (w : World) (v : Value) : Grew w w v v := ⟨World.grownBy.refl w _, fun g h => .inl h⟩
theorem Grew.trans {w w1 w2 : World} {v v1 v2 : Value} (h : Grew w w1 v v1) (k : Grew w1 w2 v1 v2) : Grew w w2 v v2 := by
  refine ⟨⟨k.1.os.trans h.1.os, k.1.tape.trans h.1.tape, k.1.output.trans h.1.output, Nat.le_trans h.1.size k.1.size, fun i hi hne => ?_⟩, fun g hg => ?_⟩
  · refine (k.1.block i (Nat.lt_of_lt_of_le hi h.1.size) (fun e => ?_)).trans (h.1.block i hi hne)
    rcases h.2 i e.symm with h' | h'
    · exact hne h'.symm
    · omega
  · rcases k.2 g hg with h' | h'
    · exact h.2 g h'
    · exact .inr (Nat.le_trans h.1.size h')
theorem Grew.of_below {w w' : World} (v : Value) (h : Below w.heap.size w w') : Grew w w' v v := ⟨⟨h.os, h.tape, h.output, h.size, fun i hi _ => h.block i hi⟩, fun g h => .inl h⟩
theorem Grew.below {w w' : World} {base : Nat} {t : TypeId} {k : IntKind} {v v' : Value} {xs : List Int} (h : Grew w w' v v') (hO : Own w base t k v xs) (hb : base ≤ w.heap.size) : Below base w w' := own_grown_below hO h.1 hb
/-- a row that is read lies elsewhere -/
def Apart (A : Option Addr) (v : Value) : Prop := ∀ b o, A = some ⟨b, o, none⟩ → v.ownBlock ≠ some b
theorem apart_nil (A : Option Addr) (n c : Nat) : Apart A (.slice none n c) := fun b o _ h => by cases h
theorem Grew.ints {w w' : World} {k : IntKind} {A : Option Addr} {v v' : Value} {xs : List Int} (h : Grew w w' v v') (hI : Ints w w.heap.size k A xs) (hA : Apart A v) : Ints w' w'.heap.size k A xs := by
  rcases hI with h' | ⟨b, o, e, hb, hc⟩
  · exact .inl h'
  · exact .inr ⟨b, o, e, Nat.lt_of_lt_of_le hb h.1.size, fun j hj => h.1.cell (a := ⟨b, o + j, none⟩) (hc j hj) (fun e' => hA b o e e'.symm)⟩
theorem app_runL {P : Program} (w : World) (base : Nat) (t ty e : TypeId) (k : IntKind) (bytes : Nat) (ht : P.underlying t = some (.slice e)) (hi : (P.info? e).map (fun i => (i.zero, i.size, i.bytes)) = some (some (.int k 0), 1, bytes)) (h8 : bytes ≤ 8)
    (v : Value) (xs : List Int) (hown : Own w base e k v xs) (B : Nat) (A : Option Addr) (c : Nat) (ys : List Int) (hA : A = none → c = 0) (hr : Ints w B k A ys) (hlen : xs.length + ys.length ≤ 1099511627776) (hbase : base ≤ w.heap.size) :
    ∃ v' w', (Builtin.append_ #[t, t] ty #[v, .slice A ys.length c]).run P w = .ok v' w' ∧ Own w' base e k v' (xs ++ ys) ∧ Grew w w' v v' := by
  obtain ⟨i, hi0, hz, hsz, hby⟩ := info_parts hi
  have hb8 : (xs.length + ys.length) * bytes ≤ 140737488355328 := by
    have := Nat.mul_le_mul hlen h8
    omega
  cases A with
  | none =>
    have hy : ys = [] := by
      rcases hr with h | ⟨b, o, e, _⟩
      · exact h
      · cases e
    subst hy
    rw [hA rfl]
    exact ⟨v, w, run_append_owned_none w base t ty e i 1 ht hi0 v xs.length _ hown, by rw [List.append_nil]; exact hown, Grew.refl w _⟩
  | some ad =>
    have hn : ∀ j u, (ys.map (Value.int k))[j]? = some u → w.cell? (ad.add j) = some u := by
      intro j u hu
      rcases hr with h | ⟨b, o, e, _, hc⟩
      · subst h; simp at hu
      · injection e with e
        subst e
        have hj : j < ys.length := by
          apply Classical.byContradiction; intro hn
          rw [List.getElem?_eq_none (by simp; omega)] at hu; cases hu
        have ha : (⟨b, o, none⟩ : Addr).add j = ⟨b, o + j, none⟩ := by unfold Addr.add; split <;> simp_all
        rw [ha, hc j hj, ← hu]
        simp [List.getElem?_map, List.getD_eq_getElem?_getD, List.getElem?_eq_getElem hj]
    obtain ⟨v', w', hrun, h2, h3, _, h5⟩ := run_append_own_at (P := P) w base t ty e i (.int k 0) 1 bytes ht hi0 hz hsz hby rfl (by omega) v xs.length _ hown ad ys.length c (ys.map (Value.int k)) (by simp) hn (ints_oneCell k ys)
      (by simp only [maxLen]; omega) hb8 hbase
    exact ⟨v', w', hrun, by
      have : (xs ++ ys).length = xs.length + ys.length := by simp
      rw [Own, this, List.map_append]; exact h2, h3, fun g hg => by
      rcases h5 with h5 | h5
      · exact .inl (h5 ▸ hg)
      · rw [h5] at hg; injection hg with hg; exact .inr (by omega)⟩
theorem wpList_appL {P : Program} {w : World} {ops : Array Oper} {rest : List Oper} {o : Oper} {a : Act} {Q : Exit → Act → World → Prop} (hgd : o.guard = none) (s x : Operand) (t : TypeId)
    (ho : o.op = .call { callee := .builtin .append, args := #[s, x], argTypes := #[t, t] })
    (base : Nat) (e : TypeId) (k : IntKind) (bytes : Nat) (ht : P.underlying t = some (.slice e)) (hi : (P.info? e).map (fun i => (i.zero, i.size, i.bytes)) = some (some (.int k 0), 1, bytes)) (h8 : bytes ≤ 8)
    (v : Value) (xs : List Int) (hs : a.eval s = v) (hown : Own w base e k v xs) (B : Nat) (A : Option Addr) (n c : Nat) (ys : List Int) (hn : ys.length = n) (hx : a.eval x = .slice A n c) (hA : A = none → c = 0) (hr : Ints w B k A ys)
    (hlen : xs.length + ys.length ≤ 1099511627776) (hbase : base ≤ w.heap.size)
    (h : ∀ v' w', Own w' base e k v' (xs ++ ys) → Grew w w' v v' → wpList P ops Q rest (a.put o.dst v') w') : wpList P ops Q (o :: rest) a w := by
  subst hn
  refine wpList_plain hgd fun _ hK => ?_
  obtain ⟨v', w', hrun, h2, h3⟩ := app_runL (P := P) w base t o.type e k bytes ht hi h8 v xs hown B A c ys hA hr hlen hbase
  unfold Oper.wp execOp
  simp only [ho, resolve, invoke, builtin, Sem.run_bind, Sem.run_pure, Result.andThen_ok, List.map_toArray, List.map_cons, List.map_nil, hs, hx, hrun]
  exact hK _ _ (h v' w' h2 h3)
theorem wp_appL {P : Program} {w : World} {o : Oper} {a : Act} {K : Act → World → Prop} {Q : Exit → Act → World → Prop} (s x : Operand) (t : TypeId)
    (ho : o.op = .call { callee := .builtin .append, args := #[s, x], argTypes := #[t, t] })
    (base : Nat) (e : TypeId) (k : IntKind) (bytes : Nat) (ht : P.underlying t = some (.slice e)) (hi : (P.info? e).map (fun i => (i.zero, i.size, i.bytes)) = some (some (.int k 0), 1, bytes)) (h8 : bytes ≤ 8)
    (v : Value) (xs : List Int) (hs : a.eval s = v) (hown : Own w base e k v xs) (B : Nat) (A : Option Addr) (n c : Nat) (ys : List Int) (hn : ys.length = n) (hx : a.eval x = .slice A n c) (hA : A = none → c = 0) (hr : Ints w B k A ys)
    (hlen : xs.length + ys.length ≤ 1099511627776) (hbase : base ≤ w.heap.size)
    (h : ∀ v' w', Own w' base e k v' (xs ++ ys) → Grew w w' v v' → K (a.put o.dst v') w') : o.wp P a w K Q := by
  subst hn
  obtain ⟨v', w', hrun, h2, h3⟩ := app_runL (P := P) w base t o.type e k bytes ht hi h8 v xs hown B A c ys hA hr hlen hbase
  unfold Oper.wp execOp
  simp only [ho, resolve, invoke, builtin, Sem.run_bind, Sem.run_pure, Result.andThen_ok, List.map_toArray, List.map_cons, List.map_nil, hs, hx, hrun]
  exact h v' w' h2 h3
/-- the same, the row that comes out by letters -/
theorem wpList_appN {P : Program} {w : World} {ops : Array Oper} {rest : List Oper} {o : Oper} {a : Act} {Q : Exit → Act → World → Prop} (hgd : o.guard = none) (s x : Operand) (t : TypeId)
    (ho : o.op = .call { callee := .builtin .append, args := #[s, x], argTypes := #[t, t] })
    (base : Nat) (e : TypeId) (k : IntKind) (bytes : Nat) (ht : P.underlying t = some (.slice e)) (hi : (P.info? e).map (fun i => (i.zero, i.size, i.bytes)) = some (some (.int k 0), 1, bytes)) (h8 : bytes ≤ 8)
    (v : Value) (xs : List Int) (hs : a.eval s = v) (hown : Own w base e k v xs) (B : Nat) (A : Option Addr) (n c : Nat) (ys : List Int) (hn : ys.length = n) (hx : a.eval x = .slice A n c) (hA : A = none → c = 0) (hr : Ints w B k A ys)
    (hlen : xs.length + ys.length ≤ 1099511627776) (hbase : base ≤ w.heap.size)
    (h : ∀ A' m' c' w', xs.length + ys.length = m' → Own w' base e k (.slice A' m' c') (xs ++ ys) → Below base w w' → wpList P ops Q rest (a.put o.dst (.slice A' m' c')) w') : wpList P ops Q (o :: rest) a w :=
  wpList_appL hgd s x t ho base e k bytes ht hi h8 v xs hs hown B A n c ys hn hx hA hr hlen hbase fun v' w' hO hG => by
    obtain ⟨A', c', rfl, _, _⟩ := own_form hO
    exact h A' _ c' w' (by rw [List.length_append]) hO (hG.below hown hbase)
end Go.Proofs.Ytdkfffncohipbaa
