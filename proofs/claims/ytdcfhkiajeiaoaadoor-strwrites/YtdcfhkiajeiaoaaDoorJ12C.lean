/- Joined of: AppL, Any, AnyH, AnyV, AppG, Arg, Reg, St4Math, Map4, RefIs, Str8. -/
import Derived.Test.YtdcfhkiajeiaoaaDoorJ12B
import Derived.Test.YtdcfhkiajeiaoaaDoorJ12A
import Derived.Orders
import Derived.RegionTactic
import Derived.Deep.RegionHeld
import Derived.Maps.AppendAt
import Derived.OwnWalk
import Derived.Great.BuildSlice
import Derived.Great.FillDense
import Derived.OrdersHeld
import Derived.ChangeOld
import Derived.Maps.Own
import Derived.Maps.OwnOps
import Derived.Maps.OwnSet
import Derived.DeepKeys4
import Derived.Test.YtdcfhkiajeiaoaaDoorRows
import Derived.WalkKit
import Derived.ProofKit
import Derived.OpenShut
import Derived.WalkLawsBesides
import Derived.Laws.Strings2
import Derived.Laws.Concat
/- append onto a row that may have been handed in, told by where it lies: what a call does to the row that it is handed. -/
namespace Go.Proofs.YtdcfhkiajeiaoaaDoor
open Go.RowKit
set_option linter.unusedVariables false

/-- nothing but v's own row has turned, and v' lies there or is new -/
def Grew (w w' : World) (v v' : Value) : Prop := w.grownBy w' v.ownBlock ∧ ∀ g, v'.ownBlock = some g → v.ownBlock = some g ∨ w.heap.size ≤ g
theorem Grew.refl (w : World) (v : Value) : Grew w w v v := ⟨World.grownBy.refl w _, fun g h => .inl h⟩
theorem Grew.trans {w w1 w2 : World} {v v1 v2 : Value} (h : Grew w w1 v v1) (k : Grew w1 w2 v1 v2) : Grew w w2 v v2 := by
  refine ⟨⟨k.1.os.trans h.1.os, k.1.tape.trans h.1.tape, k.1.output.trans h.1.output, Nat.le_trans h.1.size k.1.size, fun i hi hne => ?_⟩, fun g hg => ?_⟩
  · refine (k.1.block i (Nat.lt_of_lt_of_le hi h.1.size) (fun e => ?_)).trans (h.1.block i hi hne)
    rcases h.2 i e.symm with h' | h'
    · exact hne h'.symm
    · omega
  · rcases k.2 g hg with h' | h'
    · exact h.2 g h'
    · exact .inr (Nat.le_trans h.1.size h')
theorem Grew.of_below {w w' : World} (v : Value) (h : Below w.heap.size w w') : Grew w w' v v := ⟨⟨h.os, h.tape, h.output, h.size, fun i hi _ => h.block i hi⟩, fun g h => .inl h⟩
theorem Grew.below {w w' : World} {base : Nat} {t : TypeId} {k : IntKind} {v v' : Value} {xs : List Int} (h : Grew w w' v v') (hO : Own w base t k v xs) (hb : base ≤ w.heap.size) : Below base w w' := own_grown_below hO h.1 hb
/-- a row that is read lies elsewhere -/
def Apart (A : Option Addr) (v : Value) : Prop := ∀ b o, A = some ⟨b, o, none⟩ → v.ownBlock ≠ some b
theorem apart_nil (A : Option Addr) (n c : Nat) : Apart A (.slice none n c) := fun b o _ h => by cases h
theorem Grew.ints {w w' : World} {k : IntKind} {A : Option Addr} {v v' : Value} {xs : List Int} (h : Grew w w' v v') (hI : Ints w w.heap.size k A xs) (hA : Apart A v) : Ints w' w'.heap.size k A xs := by
  rcases hI with h' | ⟨b, o, e, hb, hc⟩
  · exact .inl h'
  · exact .inr ⟨b, o, e, Nat.lt_of_lt_of_le hb h.1.size, fun j hj => h.1.cell (a := ⟨b, o + j, none⟩) (hc j hj) (fun e' => hA b o e e'.symm)⟩
theorem app_runL {P : Program} (w : World) (base : Nat) (t ty e : TypeId) (k : IntKind) (bytes : Nat) (ht : P.underlying t = some (.slice e)) (hi : (P.info? e).map (fun i => (i.zero, i.size, i.bytes)) = some (some (.int k 0), 1, bytes)) (h8 : bytes ≤ 8)
    (v : Value) (xs : List Int) (hown : Own w base e k v xs) (B : Nat) (A : Option Addr) (c : Nat) (ys : List Int) (hA : A = none → c = 0) (hr : Ints w B k A ys) (hlen : xs.length + ys.length ≤ 1099511627776) (hbase : base ≤ w.heap.size) :
    ∃ v' w', (Builtin.append_ #[t, t] ty #[v, .slice A ys.length c]).run P w = .ok v' w' ∧ Own w' base e k v' (xs ++ ys) ∧ Grew w w' v v' := by
  obtain ⟨i, hi0, hz, hsz, hby⟩ := info_parts hi
  have hb8 : (xs.length + ys.length) * bytes ≤ 140737488355328 := by
    have := Nat.mul_le_mul hlen h8
    omega
  cases A with
  | none =>
    have hy : ys = [] := by
      rcases hr with h | ⟨b, o, e, _⟩
      · exact h
      · cases e
    subst hy
    rw [hA rfl]
    exact ⟨v, w, run_append_owned_none w base t ty e i 1 ht hi0 v xs.length _ hown, by rw [List.append_nil]; exact hown, Grew.refl w _⟩
  | some ad =>
    have hn : ∀ j u, (ys.map (Value.int k))[j]? = some u → w.cell? (ad.add j) = some u := by
      intro j u hu
      rcases hr with h | ⟨b, o, e, _, hc⟩
      · subst h; simp at hu
      · injection e with e
        subst e
        have hj : j < ys.length := by
          apply Classical.byContradiction; intro hn
          rw [List.getElem?_eq_none (by simp; omega)] at hu; cases hu
        have ha : (⟨b, o, none⟩ : Addr).add j = ⟨b, o + j, none⟩ := by unfold Addr.add; split <;> simp_all
        rw [ha, hc j hj, ← hu]
        simp [List.getElem?_map, List.getD_eq_getElem?_getD, List.getElem?_eq_getElem hj]
    obtain ⟨v', w', hrun, h2, h3, _, h5⟩ := run_append_own_at (P := P) w base t ty e i (.int k 0) 1 bytes ht hi0 hz hsz hby rfl (by omega) v xs.length _ hown ad ys.length c (ys.map (Value.int k)) (by simp) hn (ints_oneCell k ys)
      (by simp only [maxLen]; omega) hb8 hbase
    exact ⟨v', w', hrun, by
      have : (xs ++ ys).length = xs.length + ys.length := by simp
      rw [Own, this, List.map_append]; exact h2, h3, fun g hg => by
      rcases h5 with h5 | h5
      · exact .inl (h5 ▸ hg)
      · rw [h5] at hg; injection hg with hg; exact .inr (by omega)⟩
theorem wpList_appL {P : Program} {w : World} {ops : Array Oper} {rest : List Oper} {o : Oper} {a : Act} {Q : Exit → Act → World → Prop} (hgd : o.guard = none) (s x : Operand) (t : TypeId)
    (ho : o.op = .call { callee := .builtin .append, args := #[s, x], argTypes := #[t, t] })
    (base : Nat) (e : TypeId) (k : IntKind) (bytes : Nat) (ht : P.underlying t = some (.slice e)) (hi : (P.info? e).map (fun i => (i.zero, i.size, i.bytes)) = some (some (.int k 0), 1, bytes)) (h8 : bytes ≤ 8)
    (v : Value) (xs : List Int) (hs : a.eval s = v) (hown : Own w base e k v xs) (B : Nat) (A : Option Addr) (n c : Nat) (ys : List Int) (hn : ys.length = n) (hx : a.eval x = .slice A n c) (hA : A = none → c = 0) (hr : Ints w B k A ys)
    (hlen : xs.length + ys.length ≤ 1099511627776) (hbase : base ≤ w.heap.size)
    (h : ∀ v' w', Own w' base e k v' (xs ++ ys) → Grew w w' v v' → wpList P ops Q rest (a.put o.dst v') w') : wpList P ops Q (o :: rest) a w := by
  subst hn
  refine wpList_plain hgd fun _ hK => ?_
  obtain ⟨v', w', hrun, h2, h3⟩ := app_runL (P := P) w base t o.type e k bytes ht hi h8 v xs hown B A c ys hA hr hlen hbase
  unfold Oper.wp execOp
  simp only [ho, resolve, invoke, builtin, Sem.run_bind, Sem.run_pure, Result.andThen_ok, List.map_toArray, List.map_cons, List.map_nil, hs, hx, hrun]
  exact hK _ _ (h v' w' h2 h3)
theorem wp_appL {P : Program} {w : World} {o : Oper} {a : Act} {K : Act → World → Prop} {Q : Exit → Act → World → Prop} (s x : Operand) (t : TypeId)
    (ho : o.op = .call { callee := .builtin .append, args := #[s, x], argTypes := #[t, t] })
    (base : Nat) (e : TypeId) (k : IntKind) (bytes : Nat) (ht : P.underlying t = some (.slice e)) (hi : (P.info? e).map (fun i => (i.zero, i.size, i.bytes)) = some (some (.int k 0), 1, bytes)) (h8 : bytes ≤ 8)
    (v : Value) (xs : List Int) (hs : a.eval s = v) (hown : Own w base e k v xs) (B : Nat) (A : Option Addr) (n c : Nat) (ys : List Int) (hn : ys.length = n) (hx : a.eval x = .slice A n c) (hA : A = none → c = 0) (hr : Ints w B k A ys)
    (hlen : xs.length + ys.length ≤ 1099511627776) (hbase : base ≤ w.heap.size)
    (h : ∀ v' w', Own w' base e k v' (xs ++ ys) → Grew w w' v v' → K (a.put o.dst v') w') : o.wp P a w K Q := by
  subst hn
  obtain ⟨v', w', hrun, h2, h3⟩ := app_runL (P := P) w base t o.type e k bytes ht hi h8 v xs hown B A c ys hA hr hlen hbase
  unfold Oper.wp execOp
  simp only [ho, resolve, invoke, builtin, Sem.run_bind, Sem.run_pure, Result.andThen_ok, List.map_toArray, List.map_cons, List.map_nil, hs, hx, hrun]
  exact h v' w' h2 h3
/-- the same, the row that comes out by letters -/
theorem wpList_appN {P : Program} {w : World} {ops : Array Oper} {rest : List Oper} {o : Oper} {a : Act} {Q : Exit → Act → World → Prop} (hgd : o.guard = none) (s x : Operand) (t : TypeId)
    (ho : o.op = .call { callee := .builtin .append, args := #[s, x], argTypes := #[t, t] })
    (base : Nat) (e : TypeId) (k : IntKind) (bytes : Nat) (ht : P.underlying t = some (.slice e)) (hi : (P.info? e).map (fun i => (i.zero, i.size, i.bytes)) = some (some (.int k 0), 1, bytes)) (h8 : bytes ≤ 8)
    (v : Value) (xs : List Int) (hs : a.eval s = v) (hown : Own w base e k v xs) (B : Nat) (A : Option Addr) (n c : Nat) (ys : List Int) (hn : ys.length = n) (hx : a.eval x = .slice A n c) (hA : A = none → c = 0) (hr : Ints w B k A ys)
    (hlen : xs.length + ys.length ≤ 1099511627776) (hbase : base ≤ w.heap.size)
    (h : ∀ A' m' c' w', xs.length + ys.length = m' → Own w' base e k (.slice A' m' c') (xs ++ ys) → Below base w w' → wpList P ops Q rest (a.put o.dst (.slice A' m' c')) w') : wpList P ops Q (o :: rest) a w :=
  wpList_appL hgd s x t ho base e k bytes ht hi h8 v xs hs hown B A n c ys hn hx hA hr hlen hbase fun v' w' hO hG => by
    obtain ⟨A', c', rfl, _, _⟩ := own_form hO
    exact h A' _ c' w' (by rw [List.length_append]) hO (hG.below hown hbase)
end Go.Proofs.YtdcfhkiajeiaoaaDoor

/- A region that draws its order, walked by hand: what yields the same in whatever world is taken first; what is left comes up alone, or each that may come up is walked. The laws beneath are the library's (Orders). -/
namespace Go.Proofs.YtdcfhkiajeiaoaaDoor
open Go.RowKit
section
variable {P : Program} {ops : Array Oper} {Q : Exit → Act → World → Prop} {md : Region.Mode}
theorem wpA_take (i d : Nat) {oi : Oper} {v : Value} {fuel : Nat} {listed : Array Bool} {a : Act} {w : World} (hi : ops[i]? = some oi) (hd : oi.dst = some d)
    (hs : Region.noSelect ops = true) (hf : Region.free md ops listed i = true) (hr : (Region.ready md ops listed).contains i = true)
    (hQ : ∀ c a w, Q (.panic c) (a.put (some d) v) w → Q (.panic c) a w) (hy : Yields P ops oi v a)
    (h : wpAny P md ops Q fuel (listed.setIfInBounds i true) (a.put (some d) v) w) : wpAny P md ops Q (fuel + 1) listed a w :=
  wpAny_take hi hs hf hr (by rw [hd]; exact hQ) hy (by rw [hd]; exact h)
/-- it comes up alone -/
theorem wpA_one (i : Nat) {o : Oper} {fuel : Nat} {listed : Array Bool} {a : Act} {w : World} (hr : Region.ready md ops listed = [i]) (ho : ops[i]? = some o)
    (h : ∀ K' : Act → World → Prop, Shut (∀ a' w', wpAny P md ops Q fuel (listed.setIfInBounds i true) a' w' → K' a' w') → if Region.wanted o (yielded ops a.tmps) = true then Oper.wp P o a w K' Q else K' (a.put o.dst undef) w) :
    wpAny P md ops Q (fuel + 1) listed a w :=
  wpAny_all hr (by simp) fun j hj => by
    obtain rfl : j = i := by simpa using hj
    exact wpOp_step ho h
/-- one of two comes up -/
theorem wpA_two (i j : Nat) {o o' : Oper} {fuel : Nat} {listed : Array Bool} {a : Act} {w : World} (hr : Region.ready md ops listed = [i, j]) (ho : ops[i]? = some o) (ho' : ops[j]? = some o')
    (h : ∀ K' : Act → World → Prop, Shut (∀ a' w', wpAny P md ops Q fuel (listed.setIfInBounds i true) a' w' → K' a' w') → if Region.wanted o (yielded ops a.tmps) = true then Oper.wp P o a w K' Q else K' (a.put o.dst undef) w)
    (h' : ∀ K' : Act → World → Prop, Shut (∀ a' w', wpAny P md ops Q fuel (listed.setIfInBounds j true) a' w' → K' a' w') → if Region.wanted o' (yielded ops a.tmps) = true then Oper.wp P o' a w K' Q else K' (a.put o'.dst undef) w) :
    wpAny P md ops Q (fuel + 1) listed a w :=
  wpAny_all hr (by simp) fun k hk => by
    rcases List.mem_cons.1 hk with rfl | hk
    · exact wpOp_step ho h
    · obtain rfl : k = j := by simpa using hk
      exact wpOp_step ho' h'
theorem wpA_done {listed : Array Bool} {a : Act} {w : World} (hr : Region.ready md ops listed = []) (h : Q .normal a w) (fuel : Nat) : wpAny P md ops Q fuel listed a w := wpAny_done hr h fuel
theorem wp_region_A {id : Nat} {a : Act} {w : World} (hm : P.follows .mixedOrders = true)
    (h : wpAny P .any ops Q ops.size (Array.replicate ops.size false) a w.drew) : (Code.region id ops true).wp P Q a w := wp_region_any hm h
theorem wpA_if {c : Bool} {p q : Prop} (h : c = true) (hp : p) : if c = true then p else q := by rw [if_pos h]; exact hp

/-- append of a row onto a row of the call's own, whatever the elements' size -/
theorem wpO_append {o : Oper} {a : Act} {w : World} {K : Act → World → Prop} (s x : Operand) (t : TypeId)
    (ho : o.op = .call { callee := .builtin .append, args := #[s, x], argTypes := #[t, t] })
    (base : Nat) (e : TypeId) (z : Value) (size bytes : Nat) (ht : P.underlying t = some (.slice e)) (hi : (P.info? e).map (fun i => (i.zero, i.size, i.bytes)) = some (some z, size, bytes)) (hzs : z.cells.size = size) (hsz : 0 < size)
    (v : Value) (n : Nat) (xs : List Value) (hs : a.eval s = v) (hown : w.ownsRow base e size v n xs)
    (ad : Addr) (m c : Nat) (news : List Value) (hx : a.eval x = .slice (some ad) m c) (hl : news.length = m * size) (hnews : ∀ j u, news[j]? = some u → w.cell? (ad.add j) = some u) (h1 : ∀ u ∈ news, u.oneCell' = true)
    (h63 : n + m ≤ maxLen) (hbytes : (n + m) * bytes ≤ 140737488355328) (hbase : base ≤ w.heap.size)
    (h : ∀ v' w', w'.ownsRow base e size v' (n + m) (xs ++ news) → w.grownBy w' v.ownBlock → (v'.ownBlock = v.ownBlock ∨ v'.ownBlock = some w.heap.size) → K (a.put o.dst v') w') : o.wp P a w K Q := by
  obtain ⟨i, hi0, hz, hsi, hby⟩ := info_parts hi
  obtain ⟨v', w', hr, h2, h3, _, h5⟩ := run_append_own_at (P := P) w base t o.type e i z size bytes ht hi0 hz hsi hby hzs hsz v n xs hown ad m c news hl hnews h1 h63 hbytes hbase
  unfold Oper.wp execOp
  simp only [ho, resolve, invoke, builtin, Sem.run_bind, Sem.run_pure, Result.andThen_ok, List.map_toArray, List.map_cons, List.map_nil, hs, hx, hr]
  exact h v' w' h2 h3 h5

/-- a literal of elements that are aggregates, each place written -/
theorem wpO_lit {o : Oper} {a : Act} {w : World} {K : Act → World → Prop} (t e : TypeId) (len : Nat) (parts : Array (Nat × Operand)) (ho : o.op = .buildSlice t len parts) (z : Value) (size bytes : Nat)
    (ht : P.underlying t = some (.slice e)) (hi : (P.info? e).map (fun i => (i.zero, i.size, i.bytes)) = some (some z, size, bytes)) (hsz : 0 < size) (hlen : 0 < len) (hsmall : len * size ≤ 2 ^ 24)
    (vs : List Value) (hp : (parts.map fun (i, x) => (i, a.eval x)).toList = (vs.zipIdx 0).map fun x => (x.2, x.1)) (hvs : ∀ v ∈ vs, v.cells.size = size) (hvl : vs.length = len) (cells : Array Value) (hc : (vs.flatMap fun v => v.cells.toList).toArray = cells)
    (h : K (a.put o.dst (.slice (some ⟨w.heap.size, 0, none⟩) len len)) (w.alloc (.cells cells e))) : o.wp P a w K Q := by
  subst hc
  obtain ⟨i, hi0, hz, hsi, hby⟩ := info_parts hi
  refine wp_buildSlice t e len parts ho _ i z ht hi0 hz (by rw [hsi]; omega) (by rw [hsi]; exact Nat.ne_of_gt (Nat.mul_pos hlen hsz)) ?_ h
  rw [hp, hsi]
  exact Great.fill_whole hsz vs _ hvs (by simp [hvl])
end
end Go.Proofs.YtdcfhkiajeiaoaaDoor

/- A region that draws its order, walked by hand under a condition on the world that every operation of it keeps: what yields the same in every such world is taken first. The laws beneath are the library's (OrdersHeld). -/
namespace Go.Proofs.YtdcfhkiajeiaoaaDoor
open Go.RowKit
section
variable {P : Program} {ops : Array Oper} {Q : Exit → Act → World → Prop} {md : Region.Mode} {S : World → Prop}
theorem wpH_take (i d : Nat) {oi : Oper} {v : Value} {fuel : Nat} {listed : Array Bool} {a : Act} {w : World} (hi : ops[i]? = some oi) (hd : oi.dst = some d)
    (hs : Region.noSelect ops = true) (hf : Region.free md ops listed i = true) (hr : (Region.ready md ops listed).contains i = true)
    (hQ : ∀ c a w, Q (.panic c) (a.put (some d) v) w → Q (.panic c) a w) (hS : S w) (hy : YieldsIf P ops S oi v a)
    (h : wpAnyH P md ops Q S fuel (listed.setIfInBounds i true) (a.put (some d) v) w) : wpAnyH P md ops Q S (fuel + 1) listed a w :=
  wpAnyH_take hi hs hf hr (by rw [hd]; exact hQ) hy hS (by rw [hd]; exact h)
/-- it comes up alone -/
theorem wpH_one (i : Nat) {o : Oper} {fuel : Nat} {listed : Array Bool} {a : Act} {w : World} (hr : Region.ready md ops listed = [i]) (ho : ops[i]? = some o)
    (h : ∀ K' : Act → World → Prop, Shut (∀ a' w', S w' → wpAnyH P md ops Q S fuel (listed.setIfInBounds i true) a' w' → K' a' w') → if Region.wanted o (yielded ops a.tmps) = true then Oper.wp P o a w K' Q else K' (a.put o.dst undef) w) :
    wpAnyH P md ops Q S (fuel + 1) listed a w :=
  wpAnyH_all hr (by simp) fun j hj => by
    obtain rfl : j = i := by simpa using hj
    exact wpOp_step ho fun K' hK => h K' fun a' w' h1 h2 => hK a' w' ⟨h1, h2⟩
/-- one of two comes up -/
theorem wpH_two (i j : Nat) {o o' : Oper} {fuel : Nat} {listed : Array Bool} {a : Act} {w : World} (hr : Region.ready md ops listed = [i, j]) (ho : ops[i]? = some o) (ho' : ops[j]? = some o')
    (h : ∀ K' : Act → World → Prop, Shut (∀ a' w', S w' → wpAnyH P md ops Q S fuel (listed.setIfInBounds i true) a' w' → K' a' w') → if Region.wanted o (yielded ops a.tmps) = true then Oper.wp P o a w K' Q else K' (a.put o.dst undef) w)
    (h' : ∀ K' : Act → World → Prop, Shut (∀ a' w', S w' → wpAnyH P md ops Q S fuel (listed.setIfInBounds j true) a' w' → K' a' w') → if Region.wanted o' (yielded ops a.tmps) = true then Oper.wp P o' a w K' Q else K' (a.put o'.dst undef) w) :
    wpAnyH P md ops Q S (fuel + 1) listed a w :=
  wpAnyH_all hr (by simp) fun k hk => by
    rcases List.mem_cons.1 hk with rfl | hk
    · exact wpOp_step ho fun K' hK => h K' fun a' w' h1 h2 => hK a' w' ⟨h1, h2⟩
    · obtain rfl : k = j := by simpa using hk
      exact wpOp_step ho' fun K' hK => h' K' fun a' w' h1 h2 => hK a' w' ⟨h1, h2⟩
theorem wpH_done {listed : Array Bool} {a : Act} {w : World} (hr : Region.ready md ops listed = []) (h : Q .normal a w) (fuel : Nat) : wpAnyH P md ops Q S fuel listed a w := wpAnyH_done hr h fuel
theorem wp_region_H (S : World → Prop) {id : Nat} {a : Act} {w : World} (hm : P.follows .mixedOrders = true)
    (h : wpAnyH P .any ops Q S ops.size (Array.replicate ops.size false) a w.drew) : (Code.region id ops true).wp P Q a w := wp_region_held hm h
end
end Go.Proofs.YtdcfhkiajeiaoaaDoor

/- A region that draws its order: what reads memory is taken first under a condition on the world that every operation keeps but those (a Bool on their numbers) that wait for all that is taken so: also what reads cells that the region writes. -/
namespace Go.Proofs.YtdcfhkiajeiaoaaDoor
open Go.RowKit
section
variable {P : Program} {ops : Array Oper} {Q : Exit → Act → World → Prop} {md : Region.Mode} {S : World → Prop} {Z : Nat → Bool}

/-- whatever order the rest comes up in: S holds behind each operation but those of Z -/
def wpAnyV (P : Program) (md : Region.Mode) (ops : Array Oper) (Q : Exit → Act → World → Prop) (S : World → Prop) (Z : Nat → Bool) : Nat → Array Bool → Act → World → Prop
  | 0, listed, a, w => Region.ready md ops listed = [] ∧ Q .normal a w
  | fuel + 1, listed, a, w =>
    (Region.ready md ops listed = [] → Q .normal a w) ∧
    ∀ i ∈ Region.ready md ops listed, wpOp P ops Q i (fun a' w' => (Z i = true ∨ S w') ∧ wpAnyV P md ops Q S Z fuel (listed.setIfInBounds i true) a' w') a w
theorem wpAny_of_V : ∀ (fuel : Nat) (listed : Array Bool) (a : Act) (w : World), wpAnyV P md ops Q S Z fuel listed a w → wpAny P md ops Q fuel listed a w
  | 0, _, _, _, h => h
  | fuel + 1, _, _, _, h => ⟨h.1, fun i hi => wpOp_mono (fun a' w' h' => wpAny_of_V fuel _ a' w' h'.2) (h.2 i hi)⟩
/-- does number z wait for number i, in n steps at most -/
def waitsV (md : Region.Mode) (ops : Array Oper) : Nat → Nat → Nat → Bool
  | 0, _, _ => false
  | n + 1, z, i => match ops[z]? with
    | some o => o.after.any fun e => Region.binds md e && (e.on == i || waitsV md ops n e.on i)
    | none => false
/-- what came up came up behind all that it waits for -/
def ClosedV (md : Region.Mode) (ops : Array Oper) (listed : Array Bool) : Prop := ∀ (j : Nat) (o : Oper), ops[j]? = some o → listed.getD j false = true → ∀ e ∈ o.after, Region.binds md e = true → listed.getD e.on false = true
def closedV (md : Region.Mode) (ops : Array Oper) (listed : Array Bool) : Bool := (List.range ops.size).all fun j => match ops[j]? with
  | some o => !listed.getD j false || o.after.all fun e => !Region.binds md e || listed.getD e.on false
  | none => true
theorem closedV_spec {listed : Array Bool} (h : closedV md ops listed = true) : ClosedV md ops listed := fun j o ho hl e he hb => by
  have h1 := List.all_eq_true.1 h j (List.mem_range.2 (Array.getElem?_eq_some_iff.1 ho).1)
  rw [ho] at h1
  dsimp only at h1
  rw [hl, Bool.not_true, Bool.false_or] at h1
  obtain ⟨k, hk, hek⟩ := Array.mem_iff_getElem.1 he
  have h2 := Array.all_eq_true.1 h1 k hk
  rw [hek, hb] at h2
  simpa using h2
theorem getD_set_on {listed : Array Bool} {i j : Nat} (h : listed.getD i false = true) : (listed.setIfInBounds j true).getD i false = true := by
  by_cases hij : j = i
  · subst hij
    rcases Nat.lt_or_ge j listed.size with h' | h'
    · simp [h']
    · simp [Array.getElem?_eq_none h'] at h
  · simp only [Array.getD_eq_getD_getElem?] at h ⊢
    rw [Array.getElem?_setIfInBounds_ne hij]; exact h
theorem ClosedV.step {listed : Array Bool} {j : Nat} (h : ClosedV md ops listed) (hr : j ∈ Region.ready md ops listed) : ClosedV md ops (listed.setIfInBounds j true) := fun k o ho hl e he hb => by
  by_cases hjk : j = k
  · subst hjk
    obtain ⟨_, oj, hoj, hall⟩ := mem_ready.1 hr
    rw [hoj] at ho
    obtain rfl := Option.some.inj ho
    exact getD_set_on (hall e he hb)
  · refine getD_set_on (h k o ho ?_ e he hb)
    simp only [Array.getD_eq_getD_getElem?] at hl ⊢
    rwa [Array.getElem?_setIfInBounds_ne hjk] at hl
theorem waitsV_all {listed : Array Bool} (hc : ClosedV md ops listed) {i : Nat} : ∀ (n z : Nat), waitsV md ops n z i = true → (∀ o, ops[z]? = some o → ∀ e ∈ o.after, Region.binds md e = true → listed.getD e.on false = true) → listed.getD i false = true
  | 0, _, h, _ => by cases h
  | n + 1, z, h, hz => by
    unfold waitsV at h
    cases ho : ops[z]? with
    | none => rw [ho] at h; cases h
    | some o =>
      rw [ho] at h
      obtain ⟨k, hk, hb⟩ := Array.any_eq_true.1 h
      simp only [Bool.and_eq_true, Bool.or_eq_true, beq_iff_eq] at hb
      have h1 := hz o ho _ (Array.getElem_mem hk) hb.1
      rcases hb.2 with e | e
      · rw [e] at h1; exact h1
      · exact waitsV_all hc n _ e fun o' ho' => hc _ o' ho' h1
theorem not_readyV {n i z : Nat} {listed : Array Bool} (hc : ClosedV md ops listed) (hw : waitsV md ops n z i = true) (hr : i ∈ Region.ready md ops listed) : z ∉ Region.ready md ops listed := fun hj => by
  obtain ⟨_, oj, hoj, hall⟩ := mem_ready.1 hj
  have h1 := waitsV_all hc n z hw fun o ho e he hb => by
    rw [hoj] at ho
    obtain rfl := Option.some.inj ho
    exact hall e he hb
  have h0 := (mem_ready.1 hr).1
  rcases Nat.lt_or_ge i listed.size with h' | h'
  · simp [h'] at h0 h1; rw [h0] at h1; cases h1
  · simp [Array.getElem?_eq_none h'] at h1

theorem wpAnyV_first {i : Nat} {oi : Oper} {v : Value} (hi : ops[i]? = some oi) (hsel : ∀ (j : Nat) (o : Oper) cs b, ops[j]? = some o → o.op ≠ .select cs b)
    (hz : ∀ z, Z z = true → waitsV md ops ops.size z i = true)
    (hQ : ∀ c a w, Q (.panic c) (a.put oi.dst v) w → Q (.panic c) a w) :
    ∀ (fuel : Nat) (listed : Array Bool) (a : Act) (w : World),
      (∀ j oj, ops[j]? = some oj → j ≠ i → listed.getD j true = false → (∀ e ∈ oj.after, Region.binds md e = true → e.on ≠ i) → oi.apart ops oj = true) → ClosedV md ops listed →
      i ∈ Region.ready md ops listed → YieldsIf P ops S oi v a → S w →
      wpAnyV P md ops Q S Z fuel (listed.setIfInBounds i true) (a.put oi.dst v) w → wpAnyV P md ops Q S Z (fuel + 1) listed a w := by
  intro fuel
  induction fuel with
  | zero =>
    intro listed a w _ _ hr hy hS H
    refine ⟨fun h => (by rw [h] at hr; cases hr), fun j hj => ?_⟩
    by_cases hji : j = i
    · subst hji; exact hy.wpOp hi hS ⟨.inr hS, H⟩
    · have := ready_mono hj hji
      rw [H.1] at this
      cases this
  | succ fuel ih =>
    intro listed a w hfree hcl hr hy hS H
    refine ⟨fun h => (by rw [h] at hr; cases hr), fun j hj => ?_⟩
    by_cases hji : j = i
    · subst hji; exact hy.wpOp hi hS ⟨.inr hS, H⟩
    · have hjz : ¬ Z j = true := fun ejz => not_readyV hcl (hz j ejz) hr hj
      have h1 := H.2 j (ready_mono hj hji)
      obtain ⟨hjun, oj, hoj, hall⟩ := mem_ready.1 hj
      have hnot : ∀ e ∈ oj.after, Region.binds md e = true → e.on ≠ i := fun e he hb heq => by
        have h1 := hall e he hb
        have h0 := (mem_ready.1 hr).1
        rw [heq] at h1
        rcases Nat.lt_or_ge i listed.size with h' | h'
        · simp [h'] at h0 h1; rw [h0] at h1; cases h1
        · simp [Array.getElem?_eq_none h'] at h1
      have h2 := wpOp_putIf hoj (hfree j oj hoj hji hjun hnot) (fun cs b => hsel i oi cs b hi) (fun cs b => hsel j oj cs b hoj) hQ hy h1
      have hfree' : ∀ k ok, ops[k]? = some ok → k ≠ i → (listed.setIfInBounds j true).getD k true = false →
          (∀ e ∈ ok.after, Region.binds md e = true → e.on ≠ i) → oi.apart ops ok = true := fun k ok hk hki hun hno => by
        refine hfree k ok hk hki ?_ hno
        by_cases hjk : j = k
        · subst hjk; exact hjun
        · rw [getD_set_ne true hjk] at hun; exact hun
      refine wpOp_mono (fun a' w' h3 => ?_) h2
      have hS' : S w' := h3.2.1.resolve_left hjz
      refine ⟨.inr hS', ih (listed.setIfInBounds j true) a' w' hfree' (hcl.step hj) (ready_mono hr (Ne.symm hji)) h3.1 hS' ?_⟩
      rw [Array.setIfInBounds_comm _ _ hji]
      exact h3.2.2
/-- all of a list wait for number i -/
theorem wpV_take (i d : Nat) (zs : List Nat) {oi : Oper} {v : Value} {fuel : Nat} {listed : Array Bool} {a : Act} {w : World} (hi : ops[i]? = some oi) (hd : oi.dst = some d)
    (hs : Region.noSelect ops = true) (hf : Region.free md ops listed i = true) (hr : (Region.ready md ops listed).contains i = true)
    (hz : (zs.all (fun z => waitsV md ops ops.size z i) && closedV md ops listed) = true) (hQ : ∀ c a w, Q (.panic c) (a.put (some d) v) w → Q (.panic c) a w) (hS : S w) (hy : YieldsIf P ops S oi v a)
    (h : wpAnyV P md ops Q S zs.contains fuel (listed.setIfInBounds i true) (a.put (some d) v) w) : wpAnyV P md ops Q S zs.contains (fuel + 1) listed a w :=
  have hz := (Bool.and_eq_true _ _).mp hz
  wpAnyV_first hi (Region.noSelect_spec hs) (fun z hzz => List.all_eq_true.1 hz.1 z (by simpa using hzz)) (by rw [hd]; exact hQ) fuel listed a w (Region.free_spec hi hf) (closedV_spec hz.2) (by simpa using hr) hy hS (by rw [hd]; exact h)
/-- one that comes up, whatever comes up behind it: one that keeps S -/
abbrev ComesV (P : Program) (md : Region.Mode) (ops : Array Oper) (Q : Exit → Act → World → Prop) (S : World → Prop) (Z : Nat → Bool) (fuel : Nat) (listed : Array Bool) (a : Act) (w : World) (i : Nat) (o : Oper) : Prop :=
  ∀ K' : Act → World → Prop, Shut (∀ a' w', (Z i = true ∨ S w') → wpAnyV P md ops Q S Z fuel (listed.setIfInBounds i true) a' w' → K' a' w') → if Region.wanted o (yielded ops a.tmps) = true then Oper.wp P o a w K' Q else K' (a.put o.dst undef) w
theorem wpV_one (i : Nat) {o : Oper} {fuel : Nat} {listed : Array Bool} {a : Act} {w : World} (hr : Region.ready md ops listed = [i]) (ho : ops[i]? = some o)
    (h : ComesV P md ops Q S Z fuel listed a w i o) : wpAnyV P md ops Q S Z (fuel + 1) listed a w :=
  ⟨fun h0 => (by rw [hr] at h0; cases h0), fun j hj => by
    rw [hr] at hj
    obtain rfl : j = i := by simpa using hj
    exact wpOp_step ho fun K' hK => h K' fun a' w' h1 h2 => hK a' w' ⟨h1, h2⟩⟩
theorem wpV_two (i j : Nat) {o o' : Oper} {fuel : Nat} {listed : Array Bool} {a : Act} {w : World} (hr : Region.ready md ops listed = [i, j]) (ho : ops[i]? = some o) (ho' : ops[j]? = some o')
    (h : ComesV P md ops Q S Z fuel listed a w i o) (h' : ComesV P md ops Q S Z fuel listed a w j o') : wpAnyV P md ops Q S Z (fuel + 1) listed a w :=
  ⟨fun h0 => (by rw [hr] at h0; cases h0), fun k hk => by
    rw [hr] at hk
    rcases List.mem_cons.1 hk with rfl | hk
    · exact wpOp_step ho fun K' hK => h K' fun a' w' h1 h2 => hK a' w' ⟨h1, h2⟩
    · obtain rfl : k = j := by simpa using hk
      exact wpOp_step ho' fun K' hK => h' K' fun a' w' h1 h2 => hK a' w' ⟨h1, h2⟩⟩
theorem wpV_done {listed : Array Bool} {a : Act} {w : World} (hr : Region.ready md ops listed = []) (h : Q .normal a w) (fuel : Nat) : wpAnyV P md ops Q S Z fuel listed a w := by
  cases fuel with
  | zero => exact ⟨hr, h⟩
  | succ f => exact ⟨fun _ => h, by rw [hr]; simp⟩
theorem wp_region_V (S : World → Prop) (zs : List Nat) {id : Nat} {a : Act} {w : World} (hm : P.follows .mixedOrders = true)
    (h : wpAnyV P .any ops Q S zs.contains ops.size (Array.replicate ops.size false) a w.drew) : (Code.region id ops true).wp P Q a w := wp_region_any hm (wpAny_of_V _ _ _ _ h)
end
end Go.Proofs.YtdcfhkiajeiaoaaDoor

/- append under a guard that lets it by. -/
namespace Go.Proofs.YtdcfhkiajeiaoaaDoor
open Go.RowKit

/-- the same where the operation bears a guard that lets it by -/
theorem wpList_app_g {P : Program} {w : World} {ops : Array Oper} {rest : List Oper} {o : Oper} {a : Act} {Q : Exit → Act → World → Prop} (hgd : Region.wanted o (yielded ops a.tmps) = true) (s x : Operand) (t : TypeId)
    (ho : o.op = .call { callee := .builtin .append, args := #[s, x], argTypes := #[t, t] })
    (base : Nat) (e : TypeId) (k : IntKind) (bytes : Nat) (ht : P.underlying t = some (.slice e)) (hi : (P.info? e).map (fun i => (i.zero, i.size, i.bytes)) = some (some (.int k 0), 1, bytes)) (h8 : bytes ≤ 8)
    (v : Value) (xs : List Int) (hs : a.eval s = v) (hown : Own w base e k v xs) (B : Nat) (A : Option Addr) (c : Nat) (ys : List Int) (hx : a.eval x = .slice A ys.length c) (hA : A = none → c = 0) (hr : Ints w B k A ys)
    (hlen : xs.length + ys.length ≤ 1099511627776) (hbase : base ≤ w.heap.size)
    (h : ∀ v' w', Own w' base e k v' (xs ++ ys) → w.grownBy w' v.ownBlock → wpList P ops Q rest (a.put o.dst v') w') : wpList P ops Q (o :: rest) a w :=
  wpList_step fun K hK => by
    rw [if_pos hgd]
    exact wp_app s x t ho base e k bytes ht hi h8 v xs hs hown B A c ys hx hA hr hlen hbase fun v' w' h2 h3 => hK _ _ (h v' w' h2 h3)

/-- the source's length by another name -/
theorem wpList_app_n {P : Program} {w : World} {ops : Array Oper} {rest : List Oper} {o : Oper} {a : Act} {Q : Exit → Act → World → Prop} (hgd : Region.wanted o (yielded ops a.tmps) = true) (s x : Operand) (t : TypeId)
    (ho : o.op = .call { callee := .builtin .append, args := #[s, x], argTypes := #[t, t] })
    (base : Nat) (e : TypeId) (k : IntKind) (bytes : Nat) (ht : P.underlying t = some (.slice e)) (hi : (P.info? e).map (fun i => (i.zero, i.size, i.bytes)) = some (some (.int k 0), 1, bytes)) (h8 : bytes ≤ 8)
    (v : Value) (xs : List Int) (hs : a.eval s = v) (hown : Own w base e k v xs) (B : Nat) (A : Option Addr) (m c : Nat) (ys : List Int) (hm : ys.length = m) (hx : a.eval x = .slice A m c) (hA : A = none → c = 0) (hr : Ints w B k A ys)
    (hlen : xs.length + m ≤ 1099511627776) (hbase : base ≤ w.heap.size)
    (h : ∀ v' w', Own w' base e k v' (xs ++ ys) → w.grownBy w' v.ownBlock → wpList P ops Q rest (a.put o.dst v') w') : wpList P ops Q (o :: rest) a w := by
  subst hm
  exact wpList_app_g hgd s x t ho base e k bytes ht hi h8 v xs hs hown B A c ys hx hA hr hlen hbase h

/-- a literal without a cell -/
theorem own_empty (w : World) (base : Nat) (t : TypeId) (k : IntKind) (hb : base ≤ w.heap.size) : Own (w.alloc (.cells #[] t)) base t k (.slice (some ⟨w.heap.size, 0, none⟩) 0 0) [] := by
  exact World.ownsRow_lit (size := 1) (e := t) w #[] 0 hb (by simp [maxLen]) (by simp)
end Go.Proofs.YtdcfhkiajeiaoaaDoor

/- A slice of numbers that came in, as the walks are told of it. -/
namespace Go.Proofs.YtdcfhkiajeiaoaaDoor
open Go.ChangeShapes Go.WideShapes Go.ChangeAt Go.RowKit

structure ArgRow (k : IntKind) (w : World) (a : Option Addr) (len cap : Nat) (z : List Int) : Prop where
  size : z.length = len
  le : len ≤ cap
  max : cap ≤ maxLen
  nil : a = none → cap = 0
  row : Ints w w.heap.size k a z
  wf : ∀ n ∈ z, (Lit.int k n).wf = true
theorem ArgRow.ofNil (k : IntKind) (w : World) : ArgRow k w none 0 0 [] := ⟨rfl, Nat.le_refl _, by simp [maxLen], fun _ => rfl, .inl rfl, fun n h => by cases h⟩
theorem ArgRow.ofRow {k : IntKind} {w : World} {x : Addr} {len cap : Nat} {zs : List Int} (hl : len ≤ cap) (hm : cap ≤ maxLen) (hz : zs.length = cap)
    (hc : ∀ i, i < zs.length → w.cell? (x.add i) = some (.int k (zs.getD i 0))) (hw : ∀ n ∈ zs, (Lit.int k n).wf = true) : ArgRow k w (some x) len cap (zs.take len) := by
  refine ⟨by rw [List.length_take]; omega, hl, hm, fun h => (by cases h), ?_, fun n hn => hw n (List.mem_of_mem_take hn)⟩
  by_cases h0 : len = 0
  · subst h0; exact .inl (by simp)
  · obtain ⟨b, off, rfl, hcc⟩ := ints_at hc (by omega)
    refine .inr ⟨b, off, rfl, World.block_lt_of_cell? w _ (hcc 0 (by omega)), fun j hj => ?_⟩
    rw [List.length_take] at hj
    rw [hcc j (by omega)]
    simp only [List.getD_eq_getElem?_getD, List.getElem?_take]
    rw [if_pos (by omega)]
end Go.Proofs.YtdcfhkiajeiaoaaDoor

/- A region that draws its order, walked in one order: what only reads is taken as soon as it may come up, if it yields the same in every world that has only grown; what calls comes up alone. The laws beneath are the library's (OrdersHeld); here the condition on the world moves on with the world. -/
namespace Go.Proofs.YtdcfhkiajeiaoaaDoor
open Go.RowKit

/-- nothing that was there has turned -/
def Grow (w w' : World) : Prop := Below w.heap.size w w'
theorem Grow.refl (w : World) : Grow w w := Below.refl _ _
theorem Grow.trans {a b c : World} (h : Grow a b) (k : Grow b c) : Grow a c := Below.trans h (k.mono h.size)
theorem Grow.below {w w' : World} (h : Grow w w') : Below w.heap.size w w' := h
theorem Grow.drew (w : World) : Grow w w.drew := (Below.refl _ _).drew
theorem Ints.grow {w w' : World} {k : IntKind} {A : Option Addr} {xs : List Int} (h : Ints w w.heap.size k A xs) (hg : Grow w w') : Ints w' w'.heap.size k A xs := (h.below hg (Nat.le_refl _)).more hg.size

section
variable {P : Program} {ops : Array Oper} {Q : Exit → Act → World → Prop} {md : Region.Mode}

/-- whatever order the rest comes up in, the world only grows from w on -/
def wpG (P : Program) (md : Region.Mode) (ops : Array Oper) (Q : Exit → Act → World → Prop) (fuel : Nat) (listed : Array Bool) (a : Act) (w : World) : Prop := wpAnyH P md ops Q (Grow w) fuel listed a w

/-- a narrower condition serves for a wider one -/
theorem wpAnyH_wider {S S' : World → Prop} (hS : ∀ w, S' w → S w) : ∀ (fuel : Nat) (listed : Array Bool) (a : Act) (w : World), wpAnyH P md ops Q S' fuel listed a w → wpAnyH P md ops Q S fuel listed a w
  | 0, _, _, _, h => h
  | fuel + 1, _, _, _, h => ⟨h.1, fun i hi => wpOp_mono (fun a' w' k => ⟨hS w' k.1, wpAnyH_wider hS fuel _ a' w' k.2⟩) (h.2 i hi)⟩

/-- what only reads is taken -/
theorem wpG_take (i d : Nat) {oi : Oper} {v : Value} {fuel : Nat} {listed : Array Bool} {a : Act} {w : World} (hi : ops[i]? = some oi) (hd : oi.dst = some d)
    (hs : Region.noSelect ops = true) (hf : Region.free md ops listed i = true) (hr : (Region.ready md ops listed).contains i = true)
    (hQ : ∀ c a w, Q (.panic c) (a.put (some d) v) w → Q (.panic c) a w) (hy : YieldsIf P ops (Grow w) oi v a)
    (h : wpG P md ops Q fuel (listed.setIfInBounds i true) (a.put (some d) v) w) : wpG P md ops Q (fuel + 1) listed a w :=
  wpAnyH_take hi hs hf hr (by rw [hd]; exact hQ) hy (Grow.refl w) (by rw [hd]; exact h)
/-- what calls comes up alone -/
theorem wpG_call (i : Nat) {o : Oper} {fuel : Nat} {listed : Array Bool} {a : Act} {w : World} (hr : Region.ready md ops listed = [i]) (ho : ops[i]? = some o)
    (h : ∀ K' : Act → World → Prop, Shut (∀ a' w', Grow w w' → wpG P md ops Q fuel (listed.setIfInBounds i true) a' w' → K' a' w') → if Region.wanted o (yielded ops a.tmps) = true then Oper.wp P o a w K' Q else K' (a.put o.dst undef) w) :
    wpG P md ops Q (fuel + 1) listed a w :=
  wpAnyH_all hr (by simp) fun j hj => by
    obtain rfl : j = i := by simpa using hj
    exact wpOp_step ho fun K' hK => h K' fun a' w' hg hw => hK a' w' ⟨hg, wpAnyH_wider (fun _ k => hg.trans k) _ _ _ _ hw⟩
theorem wpG_done {listed : Array Bool} {a : Act} {w : World} (hr : Region.ready md ops listed = []) (h : Q .normal a w) (fuel : Nat) : wpG P md ops Q fuel listed a w := wpAnyH_done hr h fuel
theorem wp_region_G {id : Nat} {a : Act} {w : World} (hm : P.follows .mixedOrders = true)
    (h : wpG P .any ops Q ops.size (Array.replicate ops.size false) a w.drew) : (Code.region id ops true).wp P Q a w := wp_region_held hm h
end
end Go.Proofs.YtdcfhkiajeiaoaaDoor

/- The mathematics of tables in two stages: what entries say of each place, the blocks of 256 places, how many unlike ones there are. No program in it. -/
namespace Go.Proofs.YtdcfhkiajeiaoaaDoor

/-- turned at one key -/
def upd {κ ν : Type} [DecidableEq κ] (f : κ → ν) (k : κ) (v : ν) : κ → ν := fun x => if x = k then v else f x
/-- one key more, if it is not there -/
def kput {κ : Type} [DecidableEq κ] (ks : List κ) (k : κ) : List κ := if k ∈ ks then ks else ks ++ [k]

theorem kput_mem {κ : Type} [DecidableEq κ] {ks : List κ} {k x : κ} : x ∈ kput ks k ↔ x ∈ ks ∨ x = k := by
  unfold kput; split
  · rename_i h; exact ⟨.inl, fun h' => h'.elim id (fun e => e ▸ h)⟩
  · simp
theorem kput_nodup {κ : Type} [DecidableEq κ] {ks : List κ} (h : ks.Nodup) (k : κ) : (kput ks k).Nodup := by
  unfold kput; split
  · exact h
  · rename_i hn
    exact List.nodup_append.2 ⟨h, by simp, fun a ha c hc e => by simp at hc; exact hn (hc ▸ e ▸ ha)⟩
theorem kput_len {κ : Type} [DecidableEq κ] (ks : List κ) (k : κ) : (kput ks k).length ≤ ks.length + 1 := by
  unfold kput; split <;> simp

/-- no row without repeats is longer than one that has all of it -/
theorem nodup_le {α : Type} [DecidableEq α] : ∀ (l m : List α), l.Nodup → (∀ x ∈ l, x ∈ m) → l.length ≤ m.length
  | [], _, _, _ => Nat.zero_le _
  | x :: r, m, hn, hs => by
    obtain ⟨h1, h2⟩ := List.nodup_cons.1 hn
    have hx := hs x (by simp)
    have hr : ∀ y ∈ r, y ∈ m.erase x := fun y hy => (List.mem_erase_of_ne (fun (e : y = x) => h1 (e ▸ hy))).2 (hs y (by simp [hy]))
    have := nodup_le r (m.erase x) h2 hr
    rw [List.length_erase_of_mem hx] at this
    have hp : 0 < m.length := List.length_pos_of_mem hx
    simp only [List.length_cons]
    omega

/-! ### what entries say -/
def isPl (c : Int) : Bool := decide (0 ≤ c ∧ c ≤ 1114111)
theorem isPl_iff {c : Int} : isPl c = true ↔ 0 ≤ c ∧ c ≤ 1114111 := by simp [isPl]
theorem isPl_no {c : Int} : isPl c = false ↔ ¬ (0 ≤ c ∧ c ≤ 1114111) := by simp [isPl]
def tstep (f : Int → Int) (e : Int × Int) : Int → Int := if isPl e.1 then upd f e.1 e.2 else f
/-- what a table of these entries has -/
def tab (l : List (Int × Int)) : Int → Int := l.foldl tstep (fun _ => 0)
theorem tab_nil : tab [] = fun _ => 0 := rfl
theorem tab_snoc (l : List (Int × Int)) (e : Int × Int) : tab (l ++ [e]) = tstep (tab l) e := by simp [tab, List.foldl_append]
theorem snoc_ind {α : Type} {p : List α → Prop} (h0 : p []) (hs : ∀ l x, p l → p (l ++ [x])) (l : List α) : p l := by
  have : ∀ r : List α, p r.reverse := fun r => by
    induction r with
    | nil => exact h0
    | cons x r ih => rw [List.reverse_cons]; exact hs _ _ ih
  have h := this l.reverse
  rwa [List.reverse_reverse] at h
/-- at no such place, and where no entry is, there is nothing -/
theorem tab_out (l : List (Int × Int)) : ∀ c, (isPl c = false ∨ c ∉ l.map (·.1)) → tab l c = 0 := by
  refine snoc_ind (p := fun l => ∀ c, (isPl c = false ∨ c ∉ l.map (·.1)) → tab l c = 0) (fun _ _ => rfl) (fun l e ih c hc => ?_) l
  rw [tab_snoc]
  have hc' : isPl c = false ∨ c ∉ l.map (·.1) := hc.imp id (fun h hm => h (by simp only [List.map_append, List.mem_append]; exact .inl hm))
  unfold tstep
  split
  · rename_i hp
    unfold upd
    rw [if_neg, ih c hc']
    intro e1
    rcases hc with h | h
    · rw [e1, hp] at h; cases h
    · exact h (by simp [e1])
  · exact ih c hc'
/-- what fits stays within -/
theorem tab_fits {p : Int → Prop} (h0 : p 0) (l : List (Int × Int)) : (∀ e ∈ l, p e.2) → ∀ c, p (tab l c) := by
  refine snoc_ind (p := fun l => (∀ e ∈ l, p e.2) → ∀ c, p (tab l c)) (fun _ _ => h0) (fun l e ih h c => ?_) l
  have ih' := ih (fun x hx => h x (by simp [hx]))
  rw [tab_snoc]
  unfold tstep upd
  split
  · dsimp only
    split
    · exact h e (by simp)
    · exact ih' c
  · exact ih' c

/-! ### blocks -/
def blk (f : Int → Int) (i : Int) : List Int := (List.range 256).map fun (j : Nat) => f (256 * i + (j : Int))
def zblk : List Int := List.replicate 256 0
theorem blk_len (f : Int → Int) (i : Int) : (blk f i).length = 256 := by simp [blk]
theorem zblk_len : zblk.length = 256 := List.length_replicate
theorem blk_get (f : Int → Int) (i : Int) (j : Nat) : (blk f i)[j]? = if j < 256 then some (f (256 * i + (j : Int))) else none := by
  unfold blk
  rw [List.getElem?_map]
  by_cases h : j < 256
  · rw [if_pos h, List.getElem?_range h]; rfl
  · rw [if_neg h, List.getElem?_eq_none (by simpa using h)]; rfl
theorem blk_at (f : Int → Int) (i : Int) (j : Nat) (h : j < 256) : (blk f i).getD j 0 = f (256 * i + (j : Int)) := by
  rw [List.getD_eq_getElem?_getD, blk_get, if_pos h]; rfl
theorem blk_zero (i : Int) : blk (fun _ => 0) i = zblk := by
  apply List.ext_getElem?; intro j
  rw [blk_get]
  unfold zblk
  rw [List.getElem?_replicate]
theorem blk_congr {f g : Int → Int} {i : Int} (h : ∀ j : Nat, j < 256 → f (256 * i + (j : Int)) = g (256 * i + (j : Int))) : blk f i = blk g i := by
  apply List.ext_getElem?; intro j
  rw [blk_get, blk_get]
  split
  · rename_i hj; rw [h j hj]
  · rfl
theorem blk_fits {p : Int → Prop} {f : Int → Int} (h : ∀ c, p (f c)) (i : Int) : ∀ x ∈ blk f i, p x := by
  intro x hx
  unfold blk at hx
  obtain ⟨j, _, rfl⟩ := List.mem_map.1 hx
  exact h _
theorem blk_upd (f : Int → Int) (c v i : Int) : blk (upd f c v) i = if i = c / 256 then (blk f i).set (c % 256).toNat v else blk f i := by
  split
  · rename_i hi
    apply List.ext_getElem?; intro j
    rw [blk_get, List.getElem?_set, blk_get, blk_len]
    by_cases hj : j < 256
    · rw [if_pos hj, if_pos hj]
      by_cases hij : (c % 256).toNat = j
      · rw [if_pos hij, if_pos (by omega)]
        unfold upd; rw [if_pos (by omega)]
      · rw [if_neg hij]
        unfold upd; rw [if_neg (by omega)]
    · rw [if_neg hj, if_neg hj, if_neg (by omega)]
  · rename_i hi
    apply blk_congr
    intro j hj
    unfold upd; rw [if_neg (by omega)]

/-! ### the keys that gather has -/
def gstep (ks : List Int) (e : Int × Int) : List Int := if isPl e.1 then kput ks (e.1 / 256) else ks
def gks (l : List (Int × Int)) : List Int := l.foldl gstep []
theorem gks_snoc (l : List (Int × Int)) (e : Int × Int) : gks (l ++ [e]) = gstep (gks l) e := by simp [gks, List.foldl_append]
theorem gks_nodup (l : List (Int × Int)) : (gks l).Nodup := by
  refine snoc_ind (p := fun l => (gks l).Nodup) List.nodup_nil (fun l e ih => ?_) l
  rw [gks_snoc]; unfold gstep; split
  · exact kput_nodup ih _
  · exact ih
theorem gks_bd (l : List (Int × Int)) : ∀ k ∈ gks l, 0 ≤ k ∧ k < 4352 := by
  refine snoc_ind (p := fun l => ∀ k ∈ gks l, 0 ≤ k ∧ k < 4352) (by intro k hk; cases hk) (fun l e ih => ?_) l
  rw [gks_snoc]; unfold gstep; split
  · rename_i h
    have := isPl_iff.1 h
    intro k hk
    rcases kput_mem.1 hk with hk | rfl
    · exact ih k hk
    · omega
  · exact ih
theorem gks_len (l : List (Int × Int)) : (gks l).length ≤ l.length := by
  refine snoc_ind (p := fun l => (gks l).length ≤ l.length) (Nat.zero_le _) (fun l e ih => ?_) l
  rw [gks_snoc, List.length_append]; unfold gstep; split
  · have := kput_len (gks l) (e.1 / 256); simp only [List.length_cons, List.length_nil]; omega
  · simp only [List.length_cons, List.length_nil]; omega
theorem gks_empty (l : List (Int × Int)) : ∀ i, i ∉ gks l → blk (tab l) i = zblk := by
  refine snoc_ind (p := fun l => ∀ i, i ∉ gks l → blk (tab l) i = zblk) (fun i _ => blk_zero i) (fun l e ih i hi => ?_) l
  rw [gks_snoc] at hi
  rw [tab_snoc]
  unfold gstep at hi
  unfold tstep
  split
  · rename_i h
    rw [if_pos h] at hi
    rw [blk_upd, if_neg (fun e => hi (kput_mem.2 (.inr e)))]
    exact ih i (fun h' => hi (kput_mem.2 (.inl h')))
  · rename_i h
    rw [if_neg h] at hi
    exact ih i hi

/-! ### the unlike blocks, one by one -/
def ustart (ks : List Int) : List (List Int) := if ks.length < 4352 then [zblk] else []
def ustep (f : Int → Int) (ks : List Int) (U : List (List Int)) (i : Nat) : List (List Int) := if (i : Int) ∈ ks then kput U (blk f i) else U
def uall (f : Int → Int) (ks : List Int) (n : Nat) : List (List Int) := (List.range n).foldl (ustep f ks) (ustart ks)
theorem uall_zero (f : Int → Int) (ks : List Int) : uall f ks 0 = ustart ks := rfl
theorem uall_succ (f : Int → Int) (ks : List Int) (n : Nat) : uall f ks (n + 1) = ustep f ks (uall f ks n) n := by
  simp [uall, List.range_succ, List.foldl_append]
theorem uall_len (f : Int → Int) (ks : List Int) : ∀ n, (uall f ks n).length ≤ n + 1
  | 0 => by rw [uall_zero]; unfold ustart; split <;> simp
  | n + 1 => by
    have ih := uall_len f ks n
    rw [uall_succ]; unfold ustep; split
    · have := kput_len (uall f ks n) (blk f n); omega
    · omega
theorem uall_nodup (f : Int → Int) (ks : List Int) : ∀ n, (uall f ks n).Nodup
  | 0 => by rw [uall_zero]; unfold ustart; split <;> simp
  | n + 1 => by
    rw [uall_succ]; unfold ustep; split
    · exact kput_nodup (uall_nodup f ks n) _
    · exact uall_nodup f ks n
theorem uall_block (f : Int → Int) (ks : List Int) : ∀ n, ∀ u ∈ uall f ks n, u = zblk ∨ ∃ i, u = blk f i
  | 0 => by
    rw [uall_zero]; unfold ustart; split
    · intro u hu; simp at hu; exact .inl hu
    · intro u hu; cases hu
  | n + 1 => by
    rw [uall_succ]; unfold ustep; split
    · intro u hu
      rcases kput_mem.1 hu with hu | rfl
      · exact uall_block f ks n u hu
      · exact .inr ⟨n, rfl⟩
    · exact uall_block f ks n
/-- where it is -/
def pos {α : Type} [DecidableEq α] : List α → α → Nat
  | [], _ => 0
  | y :: r, x => if x = y then 0 else pos r x + 1
theorem pos_app {α : Type} [DecidableEq α] {x : α} : ∀ (U V : List α), x ∈ U → pos (U ++ V) x = pos U x
  | [], _, h => by cases h
  | y :: r, V, h => by
    rw [List.cons_append]; unfold pos
    split
    · rfl
    · rename_i hn
      rw [pos_app r V ((List.mem_cons.1 h).resolve_left hn)]
theorem pos_last {α : Type} [DecidableEq α] {x : α} : ∀ (U : List α), x ∉ U → pos (U ++ [x]) x = U.length
  | [], _ => by simp [pos]
  | y :: r, h => by
    rw [List.cons_append]; unfold pos
    rw [if_neg (fun e => h (by simp [e])), pos_last r (fun hm => h (by simp [hm]))]
    rfl
theorem pos_get {α : Type} [DecidableEq α] {x : α} : ∀ (U : List α), x ∈ U → U[pos U x]? = some x
  | [], h => by cases h
  | y :: r, h => by
    unfold pos
    split
    · rename_i e; rw [e]; rfl
    · rename_i hn
      rw [List.getElem?_cons_succ]
      exact pos_get r ((List.mem_cons.1 h).resolve_left hn)
theorem pos_lt {α : Type} [DecidableEq α] {x : α} {U : List α} (h : x ∈ U) : pos U x < U.length := (List.getElem?_eq_some_iff.1 (pos_get U h)).1
theorem pos_kput {α : Type} [DecidableEq α] {U : List α} {x y : α} (h : x ∈ U) : pos (kput U y) x = pos U x := by
  unfold kput; split
  · rfl
  · exact pos_app U _ h

/-- what a table has found: the unlike blocks, and of each block where it is among them -/
structure Dist (f : Int → Int) (U : List (List Int)) : Prop where
  nodup : U.Nodup
  all : ∀ i : Nat, i < 4352 → blk f i ∈ U
  some : ∀ u ∈ U, ∃ i : Nat, i < 4352 ∧ u = blk f i
theorem Dist.len {f : Int → Int} {U V : List (List Int)} (h : Dist f U) (k : Dist f V) : U.length = V.length :=
  Nat.le_antisymm (nodup_le U V h.nodup (fun u hu => by obtain ⟨i, hi, rfl⟩ := h.some u hu; exact k.all i hi)) (nodup_le V U k.nodup (fun u hu => by obtain ⟨i, hi, rfl⟩ := k.some u hu; exact h.all i hi))

theorem ks_room {ks : List Int} (hn : ks.Nodup) (hb : ∀ k ∈ ks, 0 ≤ k ∧ k < 4352) {i : Nat} (hi : i < 4352) (h : (i : Int) ∉ ks) : ks.length < 4352 := by
  have := nodup_le ((i : Int) :: ks) ((List.range 4352).map (fun (n : Nat) => (n : Int))) (List.nodup_cons.2 ⟨h, hn⟩) (fun x hx => by
    refine List.mem_map.2 ⟨x.toNat, List.mem_range.2 ?_, ?_⟩
    · rcases List.mem_cons.1 hx with rfl | hx
      · omega
      · have := hb x hx; omega
    · rcases List.mem_cons.1 hx with rfl | hx
      · omega
      · have := hb x hx; omega)
  simp only [List.length_cons, List.length_map, List.length_range] at this
  omega
theorem ks_some {ks : List Int} (h : ks.length < 4352) : ∃ i : Nat, i < 4352 ∧ (i : Int) ∉ ks := by
  apply Classical.byContradiction
  intro hn
  have hall : ∀ x ∈ (List.range 4352).map (fun (n : Nat) => (n : Int)), x ∈ ks := fun x hx => by
    obtain ⟨i, hi, rfl⟩ := List.mem_map.1 hx
    apply Classical.byContradiction
    intro hni
    exact hn ⟨i, List.mem_range.1 hi, hni⟩
  have := nodup_le _ ks (List.Pairwise.map _ (fun a b hab e => hab (Int.ofNat.inj e)) List.nodup_range) hall
  simp only [List.length_map, List.length_range] at this
  omega
theorem zblk_in {f : Int → Int} {ks : List Int} (h : ks.length < 4352) : ∀ n, zblk ∈ uall f ks n ∧ pos (uall f ks n) zblk = 0
  | 0 => by rw [uall_zero]; unfold ustart; rw [if_pos h]; exact ⟨by simp, by simp [pos]⟩
  | n + 1 => by
    obtain ⟨h1, h2⟩ := zblk_in (f := f) h n
    rw [uall_succ]; unfold ustep; split
    · exact ⟨kput_mem.2 (.inl h1), by rw [pos_kput h1, h2]⟩
    · exact ⟨h1, h2⟩
/-- each block has been found, at its number -/
theorem uall_has {f : Int → Int} {ks : List Int} (hn : ks.Nodup) (hb : ∀ k ∈ ks, 0 ≤ k ∧ k < 4352) (he : ∀ i, i ∉ ks → blk f i = zblk) : ∀ n, n ≤ 4352 → ∀ i : Nat, i < n → blk f i ∈ uall f ks n
  | 0, _, i, hi => absurd hi (by omega)
  | n + 1, hle, i, hi => by
    rw [uall_succ]; unfold ustep
    by_cases h : i < n
    · have := uall_has hn hb he n (by omega) i h
      split
      · exact kput_mem.2 (.inl this)
      · exact this
    · obtain rfl : i = n := by omega
      split
      · exact kput_mem.2 (.inr rfl)
      · rename_i hk
        rw [he _ hk]
        exact (zblk_in (ks_room hn hb (by omega) hk) _).1
theorem uall_dist {f : Int → Int} {ks : List Int} (hn : ks.Nodup) (hb : ∀ k ∈ ks, 0 ≤ k ∧ k < 4352) (he : ∀ i, i ∉ ks → blk f i = zblk) : Dist f (uall f ks 4352) := by
  refine ⟨uall_nodup f ks 4352, uall_has hn hb he 4352 (Nat.le_refl _), ?_⟩
  have : ∀ n, n ≤ 4352 → ∀ u ∈ uall f ks n, ∃ i : Nat, i < 4352 ∧ u = blk f i := by
    intro n
    induction n with
    | zero =>
      intro _ u hu
      rw [uall_zero] at hu; unfold ustart at hu; split at hu
      · rename_i h
        simp at hu
        obtain ⟨i, hi, hk⟩ := ks_some h
        exact ⟨i, hi, by rw [he _ hk]; exact hu⟩
      · cases hu
    | succ n ih =>
      intro hle u hu
      rw [uall_succ] at hu; unfold ustep at hu; split at hu
      · rcases kput_mem.1 hu with hu | rfl
        · exact ih (by omega) u hu
        · exact ⟨n, by omega, rfl⟩
      · exact ih (by omega) u hu
  exact this 4352 (Nat.le_refl _)

/-! ### the document's way to count -/
def rstep (f : Int → Int) (m : Int → List Int) (e : Int × Int) : Int → List Int := if isPl e.1 then upd m (e.1 / 256) ((m (e.1 / 256)).set (e.1 % 256).toNat (f e.1)) else m
def rof (f : Int → Int) (l : List (Int × Int)) : Int → List Int := l.foldl (rstep f) (fun _ => zblk)
theorem rof_snoc (f : Int → Int) (l : List (Int × Int)) (e : Int × Int) : rof f (l ++ [e]) = rstep f (rof f l) e := by simp [rof, List.foldl_append]
def seen (f : Int → Int) (l : List (Int × Int)) (c : Int) : Int := if isPl c = true ∧ c ∈ l.map (·.1) then f c else 0
theorem rof_seen (f : Int → Int) (l : List (Int × Int)) : ∀ i, rof f l i = blk (seen f l) i := by
  refine snoc_ind (p := fun l => ∀ i, rof f l i = blk (seen f l) i) (fun i => ?_) (fun l e ih i => ?_) l
  · refine (blk_zero i).symm.trans (congrArg (fun g => blk g i) ?_)
    funext c; unfold seen; rw [if_neg (by simp)]
  · rw [rof_snoc]
    have hs : seen f (l ++ [e]) = if isPl e.1 then upd (seen f l) e.1 (f e.1) else seen f l := by
      funext c
      by_cases hp : isPl e.1 = true
      · rw [if_pos hp]
        unfold seen upd
        by_cases hc : c = e.1
        · subst hc; rw [if_pos ⟨hp, by simp⟩, if_pos rfl]
        · rw [if_neg hc]
          have : (c ∈ (l ++ [e]).map (·.1)) ↔ c ∈ l.map (·.1) := by simp [hc]
          simp only [this]
      · rw [if_neg hp]
        unfold seen
        by_cases hc : c = e.1
        · subst hc; rw [if_neg (fun h => hp h.1), if_neg (fun h => hp h.1)]
        · have : (c ∈ (l ++ [e]).map (·.1)) ↔ c ∈ l.map (·.1) := by simp [hc]
          simp only [this]
    unfold rstep
    rw [hs]
    split
    · rename_i hp
      rw [blk_upd]
      unfold upd
      split
      · rename_i hi; rw [ih, hi]
      · exact ih i
    · exact ih i
theorem seen_all (l : List (Int × Int)) : seen (tab l) l = tab l := by
  funext c
  unfold seen
  split
  · rfl
  · rename_i h
    exact (tab_out l c (by
      by_cases hp : isPl c = true
      · exact .inr (fun hm => h ⟨hp, hm⟩)
      · exact .inl (by simpa using hp))).symm
theorem rof_all (l : List (Int × Int)) (i : Int) : rof (tab l) l i = blk (tab l) i := by rw [rof_seen, seen_all]
/-- its kinds -/
def kinds (f : Int → Int) (n : Nat) : List (List Int) := (List.range n).foldl (fun K (i : Nat) => kput K (blk f i)) []
theorem kinds_succ (f : Int → Int) (n : Nat) : kinds f (n + 1) = kput (kinds f n) (blk f n) := by simp [kinds, List.range_succ, List.foldl_append]
theorem kinds_dist (f : Int → Int) : Dist f (kinds f 4352) := by
  have h : ∀ n, (kinds f n).Nodup ∧ (∀ i : Nat, i < n → blk f i ∈ kinds f n) ∧ ∀ u ∈ kinds f n, ∃ i : Nat, i < n ∧ u = blk f i := by
    intro n
    induction n with
    | zero => exact ⟨List.nodup_nil, fun i hi => absurd hi (by omega), fun u hu => by cases hu⟩
    | succ n ih =>
      obtain ⟨h1, h2, h3⟩ := ih
      rw [kinds_succ]
      refine ⟨kput_nodup h1 _, fun i hi => kput_mem.2 ?_, fun u hu => ?_⟩
      · by_cases h : i < n
        · exact .inl (h2 i h)
        · obtain rfl : i = n := by omega
          exact .inr rfl
      · rcases kput_mem.1 hu with hu | rfl
        · obtain ⟨i, hi, e⟩ := h3 u hu; exact ⟨i, by omega, e⟩
        · exact ⟨n, by omega, rfl⟩
  exact ⟨(h 4352).1, (h 4352).2.1, (h 4352).2.2⟩
/-- the keys that the document's table has -/
def rks (l : List (Int × Int)) : List Int := l.foldl (fun ks e => if isPl e.1 then kput ks e.1 else ks) []
theorem rks_snoc (l : List (Int × Int)) (e : Int × Int) : rks (l ++ [e]) = if isPl e.1 then kput (rks l) e.1 else rks l := by simp [rks, List.foldl_append]
theorem rks_iff (l : List (Int × Int)) : ∀ c, c ∈ rks l ↔ isPl c = true ∧ c ∈ l.map (·.1) := by
  refine snoc_ind (p := fun l => ∀ c, c ∈ rks l ↔ isPl c = true ∧ c ∈ l.map (·.1)) (fun c => by simp [rks]) (fun l e ih c => ?_) l
  rw [rks_snoc]
  split
  · rename_i hp
    rw [kput_mem, ih c]
    constructor
    · rintro (⟨h1, h2⟩ | rfl)
      · exact ⟨h1, by simp only [List.map_append, List.mem_append]; exact .inl h2⟩
      · exact ⟨hp, by simp⟩
    · rintro ⟨h1, h2⟩
      simp only [List.map_append, List.mem_append, List.map_cons, List.map_nil, List.mem_singleton] at h2
      exact h2.imp (fun h => ⟨h1, h⟩) id
  · rename_i hp
    rw [ih c]
    constructor
    · rintro ⟨h1, h2⟩
      exact ⟨h1, by simp only [List.map_append, List.mem_append]; exact .inl h2⟩
    · rintro ⟨h1, h2⟩
      simp only [List.map_append, List.mem_append, List.map_cons, List.map_nil, List.mem_singleton] at h2
      rcases h2 with h2 | rfl
      · exact ⟨h1, h2⟩
      · exact absurd h1 hp
theorem rks_out (l : List (Int × Int)) (c : Int) (h : c ∉ rks l) : tab l c = 0 := tab_out l c (by
  by_cases hp : isPl c = true
  · exact .inr (fun hm => h ((rks_iff l c).2 ⟨hp, hm⟩))
  · exact .inl (by simpa using hp))
end Go.Proofs.YtdcfhkiajeiaoaaDoor

/- A map of the call's own by its keys, in the order in which they came, and what lies at each: whatever the key's type that has the library's law (numbers, arrays of numbers). -/
namespace Go.Proofs.YtdcfhkiajeiaoaaDoor
open Go.RowKit Go.Maps Go.ChangeMaps
set_option linter.unusedSectionVars false

/-- keys of a type of ours as values: the library's law, each is a key, unlike ones are unlike -/
structure Kv (P : Program) (kt : TypeId) {κ : Type} (kv : κ → Value) (D : κ → Prop) : Prop where
  law : Keyed P kt
  key : ∀ k, D k → ∃ l, keyOf P kt (kv k) = some l
  inj : ∀ a b, D a → D b → kv a = kv b → a = b

/-- block b is a map: these keys, once each, and what lies at each -/
def MapIs (w : World) (b : Nat) {κ ν : Type} (kv : κ → Value) (vv : ν → Value) (D : κ → Prop) (ks : List κ) (f : κ → ν) : Prop :=
  ∃ es clock, w.heap[b]? = some (.map es clock) ∧ es.toList.map (fun e => (e.key, e.val)) = ks.map (fun k => (kv k, vv (f k))) ∧ ks.Nodup ∧ ∀ k ∈ ks, D k

theorem MapIs.lt {w : World} {b : Nat} {κ ν : Type} {kv : κ → Value} {vv : ν → Value} {D : κ → Prop} {ks : List κ} {f : κ → ν} (h : MapIs w b kv vv D ks f) : b < w.heap.size := by
  obtain ⟨es, clock, hb, _⟩ := h
  exact (Array.getElem?_eq_some_iff.1 hb).1
theorem MapIs.block {w w' : World} {b : Nat} {κ ν : Type} {kv : κ → Value} {vv : ν → Value} {D : κ → Prop} {ks : List κ} {f : κ → ν} (h : MapIs w b kv vv D ks f) (hb : w'.heap[b]? = w.heap[b]?) : MapIs w' b kv vv D ks f := by
  obtain ⟨es, clock, h1, h2⟩ := h
  exact ⟨es, clock, hb.trans h1, h2⟩
theorem MapIs.below {w w' : World} {b B : Nat} {κ ν : Type} {kv : κ → Value} {vv : ν → Value} {D : κ → Prop} {ks : List κ} {f : κ → ν} (h : MapIs w b kv vv D ks f) (hb : Below B w w') (hB : b < B) : MapIs w' b kv vv D ks f := h.block (hb.block b hB)
theorem MapIs.alloc {w : World} {b : Nat} {κ ν : Type} {kv : κ → Value} {vv : ν → Value} {D : κ → Prop} {ks : List κ} {f : κ → ν} (h : MapIs w b kv vv D ks f) (o : Obj) : MapIs (w.alloc o) b kv vv D ks f := h.block (Below.heap_alloc w o b h.lt)
theorem MapIs.far {w : World} {b : Nat} {κ ν : Type} {kv : κ → Value} {vv : ν → Value} {D : κ → Prop} {ks : List κ} {f : κ → ν} (h : MapIs w b kv vv D ks f) {p : Addr} (hp : b ≠ p.block) (u : Value) : MapIs (w.setCell p u) b kv vv D ks f := h.block (Below.heap_setCell w p u b hp)
theorem MapIs.drew {w : World} {b : Nat} {κ ν : Type} {kv : κ → Value} {vv : ν → Value} {D : κ → Prop} {ks : List κ} {f : κ → ν} (h : MapIs w b kv vv D ks f) : MapIs w.drew b kv vv D ks f := h
theorem MapIs.made (w : World) {κ ν : Type} (kv : κ → Value) (vv : ν → Value) (D : κ → Prop) (f : κ → ν) : MapIs (w.alloc (.map #[] 0)) w.heap.size kv vv D [] f :=
  ⟨#[], 0, heap_alloc_new w _, by simp, List.nodup_nil, by simp⟩
theorem MapIs.congr {w : World} {b : Nat} {κ ν : Type} {kv : κ → Value} {vv : ν → Value} {D : κ → Prop} {ks : List κ} {f g : κ → ν} (h : MapIs w b kv vv D ks f) (hg : ∀ k ∈ ks, f k = g k) : MapIs w b kv vv D ks g := by
  obtain ⟨es, clock, h1, h2, h3⟩ := h
  exact ⟨es, clock, h1, by rw [h2]; exact List.map_congr_left (fun k hk => by rw [hg k hk]), h3⟩

section
variable {P : Program} {kt et t : TypeId} {κ ν : Type} [DecidableEq κ] {kv : κ → Value} {vv : ν → Value} {D : κ → Prop} {ks : List κ} {f : κ → ν} {w : World} {b : Nat}

theorem map_get {es : Array MapEntry} {j : Nat} {e : MapEntry} (h2 : es.toList.map (fun e => (e.key, e.val)) = ks.map (fun k => (kv k, vv (f k)))) (he : es.toList[j]? = some e) : ∃ k, ks[j]? = some k ∧ e.key = kv k ∧ e.val = vv (f k) := by
  have h := congrArg (·[j]?) h2
  simp only [List.getElem?_map, he, Option.map_some] at h
  cases hk : ks[j]? with
  | none => rw [hk] at h; cases h
  | some k =>
    rw [hk] at h
    simp only [Option.map_some, Option.some.injEq, Prod.mk.injEq] at h
    exact ⟨k, rfl, h.1, h.2⟩

/-- where a key is -/
theorem map_find (K : Kv P kt kv D) {es : Array MapEntry} (h2 : es.toList.map (fun e => (e.key, e.val)) = ks.map (fun k => (kv k, vv (f k)))) (hD : ∀ k ∈ ks, D k) (k : κ) (hk : D k) (w : World) :
    ((Instr.findKey kt (kv k) es.toList).run P w = .ok none w ∧ k ∉ ks) ∨ ∃ j e, (Instr.findKey kt (kv k) es.toList).run P w = .ok (some (j, vv (f k))) w ∧ es[j]? = some e ∧ e.key = kv k ∧ ks[j]? = some k := by
  obtain ⟨l, hl⟩ := K.key k hk
  have hks : ∀ e ∈ es.toList, ∃ l, keyOf P kt e.key = some l := fun e he => by
    obtain ⟨j, hj, rfl⟩ := List.getElem_of_mem he
    obtain ⟨k', h1, h3, _⟩ := map_get h2 (List.getElem?_eq_getElem hj)
    rw [h3]; exact K.key k' (hD k' (List.mem_of_getElem? h1))
  rcases K.law.find w hl es.toList hks with ⟨h1, h3⟩ | ⟨j, e, h1, h3, h4⟩
  · refine .inl ⟨h1, fun hin => ?_⟩
    obtain ⟨j, hj, hjk⟩ := List.getElem_of_mem hin
    have hlen : es.toList.length = ks.length := by simpa using congrArg List.length h2
    have hj' : j < es.toList.length := by omega
    obtain ⟨k', g1, g2, _⟩ := map_get h2 (List.getElem?_eq_getElem hj')
    rw [List.getElem?_eq_getElem hj, hjk] at g1
    obtain rfl := Option.some.inj g1
    exact h3 _ (List.getElem_mem hj') g2
  · obtain ⟨k', g1, g2, g3⟩ := map_get h2 h3
    obtain rfl : k' = k := K.inj _ _ (hD k' (List.mem_of_getElem? g1)) hk (g2.symm.trans h4)
    rw [g3] at h1
    exact .inr ⟨j, e, h1, by simpa using h3, h4, g1⟩

/-- m[k], and v, ok := m[k] -/
theorem MapIs.look (h : MapIs w b kv vv D ks f) (K : Kv P kt kv D) (ht : P.underlying t = some (.map kt et)) {z : Value} (hz : (zeroValue et).run P w = .ok z w) (k : κ) (hk : D k) (c : Bool) :
    (Instr.lookup t (.map (some b)) (kv k) c).run P w = .ok (if c then .tuple #[if k ∈ ks then vv (f k) else z, .bool (decide (k ∈ ks))] else if k ∈ ks then vv (f k) else z) w := by
  obtain ⟨es, clock, hb, h2, h3, hD⟩ := h
  obtain ⟨l, hl⟩ := K.key k hk
  rcases map_find K h2 hD k hk w with ⟨h1, hn⟩ | ⟨j, e, h1, _, _, hj⟩
  · rw [if_neg hn]
    cases c <;> simp [Instr.lookup, run_underlying ht, MapKept.run_getObj_map hb, K.law.check w _ hl, h1, hz, Result.andThen, hn]
  · have hin : k ∈ ks := List.mem_of_getElem? hj
    rw [if_pos hin]
    cases c <;> simp [Instr.lookup, run_underlying ht, MapKept.run_getObj_map hb, K.law.check w _ hl, h1, Result.andThen, hin]

/-- m[k] = v -/
theorem MapIs.store (h : MapIs w b kv vv D ks f) (K : Kv P kt kv D) (ht : P.underlying t = some (.map kt et)) (k : κ) (hk : D k) (v : ν) :
    ∃ w', (Instr.mapUpdate t (.map (some b)) (kv k) (vv v)).run P w = .ok () w' ∧ MapIs w' b kv vv D (kput ks k) (upd f k v) ∧ But b w w' := by
  obtain ⟨es, clock, hb, h2, h3, hD⟩ := h
  obtain ⟨l, hl⟩ := K.key k hk
  have hbut : ∀ o, But b w (setBlock w b o) := fun o => ⟨rfl, rfl, rfl, by simp [setBlock], fun i _ hi => heap_setBlock_other hb _ (fun e => hi (by rw [e]))⟩
  rcases map_find K h2 hD k hk w with ⟨h1, hn⟩ | ⟨j, e, h1, he, hke, hj⟩
  · refine ⟨setBlock w b (.map (es.push ⟨kv k, vv v, clock⟩) (clock + 1)), ?_, ⟨_, _, heap_setBlock_same hb _, ?_, ?_, ?_⟩, hbut _⟩
    · simp [Instr.mapUpdate, run_underlying ht, MapKept.run_getObj_map hb, K.law.check w false hl, h1, MapKept.run_setObj_map _ hb, Result.andThen, setBlock]
    · have hc : ks.map (fun x => (kv x, vv (upd f k v x))) = ks.map (fun x => (kv x, vv (f x))) := List.map_congr_left (fun x hx => by
        have : x ≠ k := fun e => hn (e ▸ hx)
        simp [upd, this])
      rw [kput, if_neg hn, List.map_append, hc, ← h2]
      simp [upd]
    · rw [kput, if_neg hn]
      exact List.nodup_append.2 ⟨h3, by simp, fun a ha c hc e => by simp at hc; exact hn (hc ▸ e ▸ ha)⟩
    · rw [kput, if_neg hn]
      intro x hx
      rcases List.mem_append.1 hx with hx | hx
      · exact hD x hx
      · simp at hx; exact hx ▸ hk
  · have hin : k ∈ ks := List.mem_of_getElem? hj
    have hjl : j < ks.length := (List.getElem?_eq_some_iff.1 hj).1
    refine ⟨setBlock w b (.map (es.modify j fun e => { e with key := kv k, val := vv v }) clock), ?_, ⟨_, _, heap_setBlock_same hb _, ?_, by rw [kput, if_pos hin]; exact h3, by rw [kput, if_pos hin]; exact hD⟩, hbut _⟩
    · simp [Instr.mapUpdate, run_underlying ht, MapKept.run_getObj_map hb, K.law.check w false hl, h1, he, hke, K.law.stays w hl, MapKept.run_setObj_map _ hb, Result.andThen, setBlock]
    · rw [kput, if_pos hin]
      apply List.ext_getElem?
      intro i
      have h := congrArg (·[i]?) h2
      simp only [List.getElem?_map, Array.toList_modify, List.getElem?_modify] at h ⊢
      by_cases hij : j = i
      · subst hij
        have he' : es.toList[j]? = some e := by simpa using he
        simp [he', hj, upd]
      · simp only [if_neg hij, Option.map_eq_map, Option.map_id'] 
        rw [h]
        cases hi : ks[i]? with
        | none => rfl
        | some x =>
          have : x ≠ k := fun e => by
            subst e
            have hil : i < ks.length := (List.getElem?_eq_some_iff.1 hi).1
            rw [List.getElem?_eq_getElem hjl] at hj
            rw [List.getElem?_eq_getElem hil] at hi
            exact hij ((List.getElem_inj h3).1 ((Option.some.inj hj).trans (Option.some.inj hi).symm))
          simp [upd, this]

theorem MapIs.len (h : MapIs w b kv vv D ks f) (ht : P.underlying t = some (.map kt et)) (ty : TypeId) : (Builtin.len_ #[t] ty #[.map (some b)]).run P w = .ok (.int .i64 ks.length) w := by
  obtain ⟨es, clock, hb, h2, _⟩ := h
  have hlen : es.size = ks.length := by simpa using congrArg List.length h2
  simp [Builtin.len_, run_underlying ht, MapKept.run_getObj_map hb, goInt, Result.andThen, hlen]

variable {ops : Array Oper} {rest : List Oper} {o : Oper} {a : Act} {Q : Exit → Act → World → Prop}

theorem wpList_mlook (hg : o.guard = none) (m x : Operand) (t : TypeId) (c : Bool) (hop : o.op = Op.lookup t m x c) (kt et : TypeId) (K : Kv P kt kv D) (ht : P.underlying t = some (.map kt et)) {z : Value} (hz : (zeroValue et).run P w = .ok z w)
    (b : Nat) (hm : a.eval m = .map (some b)) (h : MapIs w b kv vv D ks f) (k : κ) (hx : a.eval x = kv k) (hk : D k) (v : Value)
    (hv : (if c then .tuple #[if k ∈ ks then vv (f k) else z, .bool (decide (k ∈ ks))] else if k ∈ ks then vv (f k) else z) = v)
    (hK : wpList P ops Q rest (a.put o.dst v) w) : wpList P ops Q (o :: rest) a w := by
  subst hv
  refine wpList_plain hg fun K' hK' => ?_
  unfold Oper.wp
  simp only [execOp, hop, hm, hx, Sem.run_bind, h.look K ht hz k hk c, Result.andThen_ok]
  exact hK' _ _ hK

theorem wpList_mput (hg : o.guard = none) (m x y : Operand) (t : TypeId) (hop : o.op = Op.mapUpdate t m x y) (kt et : TypeId) (K : Kv P kt kv D) (ht : P.underlying t = some (.map kt et))
    (b : Nat) (hm : a.eval m = .map (some b)) (h : MapIs w b kv vv D ks f) (k : κ) (hx : a.eval x = kv k) (hk : D k) (v : ν) (hv : a.eval y = vv v)
    (hK : ∀ w', MapIs w' b kv vv D (kput ks k) (upd f k v) → But b w w' → wpList P ops Q rest (a.put o.dst undef) w') : wpList P ops Q (o :: rest) a w := by
  refine wpList_plain hg fun K' hK' => ?_
  obtain ⟨w', hrun, r1, r2⟩ := h.store K ht k hk v
  unfold Oper.wp
  simp only [execOp, hop, hm, hx, hv, Sem.run_bind, hrun, Result.andThen_ok]
  exact hK' _ _ (hK w' r1 r2)

theorem wpList_mlen (hg : o.guard = none) (m : Operand) (t : TypeId) (hop : o.op = Op.call { callee := Callee.builtin Builtin.len, args := #[m], argTypes := #[t] }) (kt et : TypeId) (ht : P.underlying t = some (.map kt et))
    (b : Nat) (hm : a.eval m = .map (some b)) (h : MapIs w b kv vv D ks f) (hK : wpList P ops Q rest (a.put o.dst (.int .i64 ks.length)) w) : wpList P ops Q (o :: rest) a w := by
  refine wpList_plain hg fun K' hK' => ?_
  unfold Oper.wp
  simp only [execOp, hop, resolve, invoke, builtin, Sem.run_bind, Sem.run_pure, Result.andThen_ok, List.map_toArray, List.map_cons, List.map_nil, hm, h.len ht o.type]
  exact hK' _ _ hK
end

/-! ### numbers as keys -/
theorem int_kv {P : Program} {kt : TypeId} {q : IntKind} (hu : P.underlying kt = some (.int q)) : Kv P kt (Value.int q) (fun k => (Lit.int q k).wf = true) :=
  ⟨int_keyed hu, fun _ hk => ⟨_, keyOf_int_mk hu hk⟩, fun _ _ _ _ h => by injection h⟩

/-! ### arrays of numbers as keys -/
def arrV (q : IntKind) (b : List Int) : Value := .agg (b.map (Value.int q)).toArray
theorem ints_inj {q : IntKind} : ∀ {a b : List Int}, a.map (Value.int q) = b.map (Value.int q) → a = b
  | [], [], _ => rfl
  | [], _ :: _, h => by cases h
  | _ :: _, [], h => by cases h
  | x :: r, y :: s, h => by
    simp only [List.map_cons, List.cons.injEq, Value.int.injEq, true_and] at h
    rw [h.1, ints_inj h.2]
theorem arrV_inj {q : IntKind} {a b : List Int} (h : arrV q a = arrV q b) : a = b := by
  unfold arrV at h
  injection h with h
  exact ints_inj (by simpa using congrArg Array.toList h)
theorem mapM_some {α β : Type} {g : α → Option β} {h : α → β} : ∀ (l : List α), (∀ x ∈ l, g x = some (h x)) → l.mapM g = some (l.map h)
  | [], _ => rfl
  | x :: r, hs => by
    rw [List.mapM_cons, hs x (by simp), mapM_some r (fun y hy => hs y (by simp [hy]))]
    rfl
theorem arr_lits {P : Program} {kt e : TypeId} {q : IntKind} {n : Nat} (hrow : kt < P.types.size) (hu : P.underlying kt = some (.array n e)) (hue : P.underlying e = some (.int q)) (hce : P.cellsOf e = 1) (hct : P.cellsOf kt = n)
    (b : List Int) (hb : b.length = n) (hw : ∀ x ∈ b, (Lit.int q x).wf = true) : P.keyLits (P.types.size + 1) kt (arrV q b).cells.toList = some ((List.range n).map (fun i => [Lit.int q (b.getD i 0)])).flatten := by
  have hc : (arrV q b).cells.toList = b.map (Value.int q) := by simp [arrV, Value.cells]
  rw [hc]
  unfold Program.keyLits
  simp only [hu]
  rw [if_pos (by simp [hb, hct]), mapM_some (h := fun i => [Lit.int q (b.getD i 0)])]
  · rfl
  · intro i hi
    have hi' : i < b.length := by rw [hb]; exact List.mem_range.1 hi
    have : ((b.map (Value.int q)).drop (i * P.cellsOf e)).take (P.cellsOf e) = [.int q (b.getD i 0)] := by
      rw [hce, Nat.mul_one, List.drop_eq_getElem_cons (by simpa using hi')]
      simp [List.getD_eq_getElem?_getD, List.getElem?_eq_getElem hi']
    rw [this]
    obtain ⟨m, hm⟩ : ∃ m, P.types.size = m + 1 := ⟨P.types.size - 1, by have : 0 < P.types.size := Nat.lt_of_le_of_lt (Nat.zero_le kt) hrow; omega⟩
    rw [hm]
    unfold Program.keyLits
    simp only [hue]
    rw [if_pos ⟨trivial, by rw [List.getD_eq_getElem?_getD, List.getElem?_eq_getElem hi']; exact hw _ (List.getElem_mem hi')⟩]
theorem arr_kv {P : Program} {kt e : TypeId} {q : IntKind} {n : Nat} (hl : laidOutB P = true) (hrow : kt < P.types.size) (hts : P.types.size + 2 ≤ 10000) (hu : P.underlying kt = some (.array n e)) (hue : P.underlying e = some (.int q)) (hce : P.cellsOf e = 1) (hct : P.cellsOf kt = n)
    (hkt : P.keyType kt = true) : Kv P kt (arrV q) (fun b => b.length = n ∧ ∀ x ∈ b, (Lit.int q x).wf = true) := by
  refine ⟨Keyed.of_law (deep_law_laid hl (m := P.types.size + 1) (by omega) hrow hkt (by rw [hu])), fun b ⟨hb, hw⟩ => ?_, fun _ _ _ _ h => arrV_inj h⟩
  have hf : (arrV q b).formed P kt = true := by simp [arrV, Value.formed, hu, hct, hb]
  have hls := arr_lits hrow hu hue hce hct b hb hw
  exact ⟨.string (keyBytes ((List.range n).map (fun i => [Lit.int q (b.getD i 0)])).flatten), by
    unfold keyOf
    simp only [hu, hkt, hf, hls, Bool.and_self, if_true, Option.map_some]⟩
end Go.Proofs.YtdcfhkiajeiaoaaDoor

/- Contract of the document's own Is (orthoepyref01). -/
namespace Go.Proofs.YtdcfhkiajeiaoaaDoor
open Go.ChangeShapes Go.WideShapes Go.ChangeAt Go.RowKit
set_option linter.unusedVariables false

theorem r_is_any (c : Int) (w : World) : Calls Tryd.prog 28 #[.int .i32 c] w fun e w' => e = .returned (.bool (isB c)) ∧ w = w' := by
  rcases cls c with h | h | ⟨h, g⟩ | ⟨h, g⟩ | ⟨h, g⟩ | ⟨h, g⟩ | ⟨h, g⟩
  · have e : isB c = false := decide_eq_false (by omega)
    rw [e]; clear e
    go_enter Tryd.func28, Tryd.ntmps28
    go_wp2
    go_ret
    exact ⟨rfl, rfl⟩
  · have e : isB c = false := decide_eq_false (by omega)
    rw [e]; clear e
    have d : decide (c ≤ 1114111) = false := decide_eq_false (by omega)
    have d0 : decide (c < 55296) = false := decide_eq_false (by omega)
    go_enter Tryd.func28, Tryd.ntmps28
    go_wp2
    go_ret
    exact ⟨rfl, rfl⟩
  · have e : isB c = true := decide_eq_true (by omega)
    rw [e]; clear e
    have d : decide (c ≤ 1114111) = true := decide_eq_true (by omega)
    go_enter Tryd.func28, Tryd.ntmps28
    go_wp2
    go_ret
    exact ⟨rfl, rfl⟩
  · have e : isB c = true := decide_eq_true (by omega)
    rw [e]; clear e
    go_enter Tryd.func28, Tryd.ntmps28
    go_wp2
    go_ret
    exact ⟨rfl, rfl⟩
  · have e : isB c = true := decide_eq_true (by omega)
    rw [e]; clear e
    have d : decide (c ≤ 1114111) = true := decide_eq_true (by omega)
    go_enter Tryd.func28, Tryd.ntmps28
    go_wp2
    go_ret
    exact ⟨rfl, rfl⟩
  · have e : isB c = false := decide_eq_false (by omega)
    rw [e]; clear e
    have d0 : decide (c < 55296) = false := decide_eq_false (by omega)
    go_enter Tryd.func28, Tryd.ntmps28
    go_wp2
    go_ret
    exact ⟨rfl, rfl⟩
  · have e : isB c = false := decide_eq_false (by omega)
    rw [e]; clear e
    have d0 : decide (c < 55296) = false := decide_eq_false (by omega)
    go_enter Tryd.func28, Tryd.ntmps28
    go_wp2
    go_ret
    exact ⟨rfl, rfl⟩
end Go.Proofs.YtdcfhkiajeiaoaaDoor

/- Strings by the list of their bytes. No program in it. -/
namespace Go.Proofs.YtdcfhkiajeiaoaaDoor
set_option linter.unusedVariables false

/-- a string's bytes -/
def L8 (s : ByteArray) : List UInt8 := s.data.toList
/-- the string of bytes -/
def bs (l : List UInt8) : ByteArray := ⟨l.toArray⟩
theorem L8_bs (l : List UInt8) : L8 (bs l) = l := rfl
theorem bs_L8 (s : ByteArray) : bs (L8 s) = s := by
  apply ByteArray.ext
  simp [bs, L8]
theorem L8_len (s : ByteArray) : (L8 s).length = s.size := by simp [L8]
theorem bs_size (l : List UInt8) : (bs l).size = l.length := by rw [← L8_len, L8_bs]
theorem L8_inj {a b : ByteArray} (h : L8 a = L8 b) : a = b := by rw [← bs_L8 a, ← bs_L8 b, h]
theorem L8_at (s : ByteArray) (k : Nat) (h : k < s.size) : (L8 s)[k]? = some s[k] := by
  have h' : k < (L8 s).length := by rw [L8_len]; exact h
  rw [List.getElem?_eq_getElem h']
  rfl
theorem L8_get (s : ByteArray) (k : Nat) (h : k < s.size) : (L8 s)[k]'(by rw [L8_len]; exact h) = s[k] := rfl
theorem L8_take (s : ByteArray) (k : Nat) (h : k < s.size) : (L8 s).take (k + 1) = (L8 s).take k ++ [s[k]] := by
  rw [List.take_succ_eq_append_getElem (by rw [L8_len]; exact h), L8_get s k h]
theorem L8_drop (s : ByteArray) (k : Nat) (h : k < s.size) : (L8 s).drop k = s[k] :: (L8 s).drop (k + 1) := by
  rw [List.drop_eq_getElem_cons (by rw [L8_len]; exact h), L8_get s k h]
theorem L8_cut (s : ByteArray) (a b : Nat) : L8 (s.extract a b) = ((L8 s).drop a).take (b - a) := by
  have h := ByteArray.extract_mk (L8 s) a b
  have e : ByteArray.mk (L8 s).toArray = s := bs_L8 s
  rw [e] at h
  rw [h]
  rfl
theorem L8_app (a b : ByteArray) : L8 (a ++ b) = L8 a ++ L8 b := by
  have h := ByteArray.mk_append_mk (L8 a) (L8 b)
  have e1 : ByteArray.mk (L8 a).toArray = a := bs_L8 a
  have e2 : ByteArray.mk (L8 b).toArray = b := bs_L8 b
  rw [e1, e2] at h
  rw [h]
  rfl
theorem L8_toList (s : ByteArray) : s.toList = L8 s := by
  rw [ByteArray.toList_eq]; rfl
/-- a struct in a block of its own, as the one result -/
theorem results_one {P : Program} {fn : Func} {p : Tmp} {ty : TypeId} (h : fn.results = #[.cell p ty]) (tmps : Array Value) (w : World) (g : Nat) (t : TypeId) (cs : Array Value) (d : TypeDesc)
    (hp : tmps.getD p undef = .pointer (some ⟨g, 0, none⟩)) (hg : Blk w g t cs) (hu : P.underlying ty = some d) (hd : (match d with | .struct _ | .array _ _ => true | _ => false) = true) (hi : (P.info? ty).map (·.size) = some cs.size) :
    (results fn tmps).run P w = .ok (.agg cs) w := by
  have e : (results fn tmps).run P w = ((asAddr (tmps.getD p undef)).run P w).andThen fun a w₁ => (loadVar ty a).run P w₁ := by
    simp only [results, h]
    simp [Sem.run_bind, Result.andThen]
  rw [e, hp]
  simp [asAddr, run_loadVar_row w g t ty cs (0, 0) d hg hu hd hi, Result.andThen]
/-- how long a string is that lies in a cell -/
def strLen : Option Value → Nat
  | some (.string s) => s.size
  | _ => 0
end Go.Proofs.YtdcfhkiajeiaoaaDoor
