/- A map of the call's own by its keys, in the order in which they came, and what lies at each: whatever the key's type that has the library's law (numbers, arrays of numbers). -/
import Derived.Test.YtmphfdnpnhlpjaaMem
import Derived.Test.YtmphfdnpnhlpjaaSt4Math
import Derived.Maps.Own
import Derived.Maps.OwnOps
import Derived.Maps.OwnSet
import Derived.DeepKeys4
namespace Go.Proofs.Ytmphfdnpnhlpjaa
open Go.RowKit Go.Maps Go.ChangeMaps
set_option linter.unusedSectionVars false

/-- keys of a type of ours as values: the library's law, each is a key, unlike ones are unlike -/
structure Kv (P : Program) (kt : TypeId) {κ : Type} (kv : κ → Value) (D : κ → Prop) : Prop where
  law : Keyed P kt
  key : ∀ k, D k → ∃ l, keyOf P kt (kv k) = some l
  inj : ∀ a b, D a → D b → kv a = kv b → a = b

/-- block b is a map: these keys, once each, and what lies at each -/
def MapIs (w : World) (b : Nat) {κ ν : Type} (kv : κ → Value) (vv : ν → Value) (D : κ → Prop) (ks : List κ) (f : κ → ν) : Prop :=
  ∃ es clock, w.heap[b]? = some (.map es clock) ∧ es.toList.map (fun e => (e.key, e.val)) = ks.map (fun k => (kv k, vv (f k))) ∧ ks.Nodup ∧ ∀ k ∈ ks, D k

theorem MapIs.lt {w : World} {b : Nat} {κ ν : Type} {kv : κ → Value} {vv : ν → Value} {D : κ → Prop} {ks : List κ} {f : κ → ν} (h : MapIs w b kv vv D ks f) : b < w.heap.size := by
  obtain ⟨es, clock, hb, _⟩ := h
  exact (Array.getElem?_eq_some_iff.1 hb).1
theorem MapIs.block {w w' : World} {b : Nat} {κ ν : Type} {kv : κ → Value} {vv : ν → Value} {D : κ → Prop} {ks : List κ} {f : κ → ν} (h : MapIs w b kv vv D ks f) (hb : w'.heap[b]? = w.heap[b]?) : MapIs w' b kv vv D ks f := by
  obtain ⟨es, clock, h1, h2⟩ := h
  exact ⟨es, clock, hb.trans h1, h2⟩
theorem MapIs.below {w w' : World} {b B : Nat} {κ ν : Type} {kv : κ → Value} {vv : ν → Value} {D : κ → Prop} {ks : List κ} {f : κ → ν} (h : MapIs w b kv vv D ks f) (hb : Below B w w') (hB : b < B) : MapIs w' b kv vv D ks f := h.block (hb.block b hB)
theorem MapIs.alloc {w : World} {b : Nat} {κ ν : Type} {kv : κ → Value} {vv : ν → Value} {D : κ → Prop} {ks : List κ} {f : κ → ν} (h : MapIs w b kv vv D ks f) (o : Obj) : MapIs (w.alloc o) b kv vv D ks f := h.block (Below.heap_alloc w o b h.lt)
theorem MapIs.far {w : World} {b : Nat} {κ ν : Type} {kv : κ → Value} {vv : ν → Value} {D : κ → Prop} {ks : List κ} {f : κ → ν} (h : MapIs w b kv vv D ks f) {p : Addr} (hp : b ≠ p.block) (u : Value) : MapIs (w.setCell p u) b kv vv D ks f := h.block (Below.heap_setCell w p u b hp)
theorem MapIs.drew {w : World} {b : Nat} {κ ν : Type} {kv : κ → Value} {vv : ν → Value} {D : κ → Prop} {ks : List κ} {f : κ → ν} (h : MapIs w b kv vv D ks f) : MapIs w.drew b kv vv D ks f := h
theorem MapIs.made (w : World) {κ ν : Type} (kv : κ → Value) (vv : ν → Value) (D : κ → Prop) (f : κ → ν) : MapIs (w.alloc (.map #[] 0)) w.heap.size kv vv D [] f :=
  ⟨#[], 0, heap_alloc_new w _, by simp, List.nodup_nil, by simp⟩
theorem MapIs.congr {w : World} {b : Nat} {κ ν : Type} {kv : κ → Value} {vv : ν → Value} {D : κ → Prop} {ks : List κ} {f g : κ → ν} (h : MapIs w b kv vv D ks f) (hg : ∀ k ∈ ks, f k = g k) : MapIs w b kv vv D ks g := by
  obtain ⟨es, clock, h1, h2, h3⟩ := h
  exact ⟨es, clock, h1, by rw [h2]; exact List.map_congr_left (fun k hk => by rw [hg k hk]), h3⟩

section
variable {P : Program} {kt et t : TypeId} {κ ν : Type} [DecidableEq κ] {kv : κ → Value} {vv : ν → Value} {D : κ → Prop} {ks : List κ} {f : κ → ν} {w : World} {b : Nat}

theorem map_get {es : Array MapEntry} {j : Nat} {e : MapEntry} (h2 : es.toList.map (fun e => (e.key, e.val)) = ks.map (fun k => (kv k, vv (f k)))) (he : es.toList[j]? = some e) : ∃ k, ks[j]? = some k ∧ e.key = kv k ∧ e.val = vv (f k) := by
  have h := congrArg (·[j]?) h2
  simp only [List.getElem?_map, he, Option.map_some] at h
  cases hk : ks[j]? with
  | none => rw [hk] at h; cases h
  | some k =>
    rw [hk] at h
    simp only [Option.map_some, Option.some.injEq, Prod.mk.injEq] at h
    exact ⟨k, rfl, h.1, h.2⟩

/-- where a key is -/
theorem map_find (K : Kv P kt kv D) {es : Array MapEntry} (h2 : es.toList.map (fun e => (e.key, e.val)) = ks.map (fun k => (kv k, vv (f k)))) (hD : ∀ k ∈ ks, D k) (k : κ) (hk : D k) (w : World) :
    ((Instr.findKey kt (kv k) es.toList).run P w = .ok none w ∧ k ∉ ks) ∨ ∃ j e, (Instr.findKey kt (kv k) es.toList).run P w = .ok (some (j, vv (f k))) w ∧ es[j]? = some e ∧ e.key = kv k ∧ ks[j]? = some k := by
  obtain ⟨l, hl⟩ := K.key k hk
  have hks : ∀ e ∈ es.toList, ∃ l, keyOf P kt e.key = some l := fun e he => by
    obtain ⟨j, hj, rfl⟩ := List.getElem_of_mem he
    obtain ⟨k', h1, h3, _⟩ := map_get h2 (List.getElem?_eq_getElem hj)
    rw [h3]; exact K.key k' (hD k' (List.mem_of_getElem? h1))
  rcases K.law.find w hl es.toList hks with ⟨h1, h3⟩ | ⟨j, e, h1, h3, h4⟩
  · refine .inl ⟨h1, fun hin => ?_⟩
    obtain ⟨j, hj, hjk⟩ := List.getElem_of_mem hin
    have hlen : es.toList.length = ks.length := by simpa using congrArg List.length h2
    have hj' : j < es.toList.length := by omega
    obtain ⟨k', g1, g2, _⟩ := map_get h2 (List.getElem?_eq_getElem hj')
    rw [List.getElem?_eq_getElem hj, hjk] at g1
    obtain rfl := Option.some.inj g1
    exact h3 _ (List.getElem_mem hj') g2
  · obtain ⟨k', g1, g2, g3⟩ := map_get h2 h3
    obtain rfl : k' = k := K.inj _ _ (hD k' (List.mem_of_getElem? g1)) hk (g2.symm.trans h4)
    rw [g3] at h1
    exact .inr ⟨j, e, h1, by simpa using h3, h4, g1⟩

/-- m[k], and v, ok := m[k] -/
theorem MapIs.look (h : MapIs w b kv vv D ks f) (K : Kv P kt kv D) (ht : P.underlying t = some (.map kt et)) {z : Value} (hz : (zeroValue et).run P w = .ok z w) (k : κ) (hk : D k) (c : Bool) :
    (Instr.lookup t (.map (some b)) (kv k) c).run P w = .ok (if c then .tuple #[if k ∈ ks then vv (f k) else z, .bool (decide (k ∈ ks))] else if k ∈ ks then vv (f k) else z) w := by
  obtain ⟨es, clock, hb, h2, h3, hD⟩ := h
  obtain ⟨l, hl⟩ := K.key k hk
  rcases map_find K h2 hD k hk w with ⟨h1, hn⟩ | ⟨j, e, h1, _, _, hj⟩
  · rw [if_neg hn]
    cases c <;> simp [Instr.lookup, run_underlying ht, MapKept.run_getObj_map hb, K.law.check w _ hl, h1, hz, Result.andThen, hn]
  · have hin : k ∈ ks := List.mem_of_getElem? hj
    rw [if_pos hin]
    cases c <;> simp [Instr.lookup, run_underlying ht, MapKept.run_getObj_map hb, K.law.check w _ hl, h1, Result.andThen, hin]

/-- m[k] = v -/
theorem MapIs.store (h : MapIs w b kv vv D ks f) (K : Kv P kt kv D) (ht : P.underlying t = some (.map kt et)) (k : κ) (hk : D k) (v : ν) :
    ∃ w', (Instr.mapUpdate t (.map (some b)) (kv k) (vv v)).run P w = .ok () w' ∧ MapIs w' b kv vv D (kput ks k) (upd f k v) ∧ But b w w' := by
  obtain ⟨es, clock, hb, h2, h3, hD⟩ := h
  obtain ⟨l, hl⟩ := K.key k hk
  have hbut : ∀ o, But b w (setBlock w b o) := fun o => ⟨rfl, rfl, rfl, by simp [setBlock], fun i _ hi => heap_setBlock_other hb _ (fun e => hi (by rw [e]))⟩
  rcases map_find K h2 hD k hk w with ⟨h1, hn⟩ | ⟨j, e, h1, he, hke, hj⟩
  · refine ⟨setBlock w b (.map (es.push ⟨kv k, vv v, clock⟩) (clock + 1)), ?_, ⟨_, _, heap_setBlock_same hb _, ?_, ?_, ?_⟩, hbut _⟩
    · simp [Instr.mapUpdate, run_underlying ht, MapKept.run_getObj_map hb, K.law.check w false hl, h1, MapKept.run_setObj_map _ hb, Result.andThen, setBlock]
    · have hc : ks.map (fun x => (kv x, vv (upd f k v x))) = ks.map (fun x => (kv x, vv (f x))) := List.map_congr_left (fun x hx => by
        have : x ≠ k := fun e => hn (e ▸ hx)
        simp [upd, this])
      rw [kput, if_neg hn, List.map_append, hc, ← h2]
      simp [upd]
    · rw [kput, if_neg hn]
      exact List.nodup_append.2 ⟨h3, by simp, fun a ha c hc e => by simp at hc; exact hn (hc ▸ e ▸ ha)⟩
    · rw [kput, if_neg hn]
      intro x hx
      rcases List.mem_append.1 hx with hx | hx
      · exact hD x hx
      · simp at hx; exact hx ▸ hk
  · have hin : k ∈ ks := List.mem_of_getElem? hj
    have hjl : j < ks.length := (List.getElem?_eq_some_iff.1 hj).1
    refine ⟨setBlock w b (.map (es.modify j fun e => { e with key := kv k, val := vv v }) clock), ?_, ⟨_, _, heap_setBlock_same hb _, ?_, by rw [kput, if_pos hin]; exact h3, by rw [kput, if_pos hin]; exact hD⟩, hbut _⟩
    · simp [Instr.mapUpdate, run_underlying ht, MapKept.run_getObj_map hb, K.law.check w false hl, h1, he, hke, K.law.stays w hl, MapKept.run_setObj_map _ hb, Result.andThen, setBlock]
    · rw [kput, if_pos hin]
      apply List.ext_getElem?
      intro i
      have h := congrArg (·[i]?) h2
      simp only [List.getElem?_map, Array.toList_modify, List.getElem?_modify] at h ⊢
      by_cases hij : j = i
      · subst hij
        have he' : es.toList[j]? = some e := by simpa using he
        simp [he', hj, upd]
      · simp only [if_neg hij, Option.map_eq_map, Option.map_id'] 
        rw [h]
        cases hi : ks[i]? with
        | none => rfl
        | some x =>
          have : x ≠ k := fun e => by
            subst e
            have hil : i < ks.length := (List.getElem?_eq_some_iff.1 hi).1
            rw [List.getElem?_eq_getElem hjl] at hj
            rw [List.getElem?_eq_getElem hil] at hi
            exact hij ((List.getElem_inj h3).1 ((Option.some.inj hj).trans (Option.some.inj hi).symm))
          simp [upd, this]

theorem MapIs.len (h : MapIs w b kv vv D ks f) (ht : P.underlying t = some (.map kt et)) (ty : TypeId) : (Builtin.len_ #[t] ty #[.map (some b)]).run P w = .ok (.int .i64 ks.length) w := by
  obtain ⟨es, clock, hb, h2, _⟩ := h
  have hlen : es.size = ks.length := by simpa using congrArg List.length h2
  simp [Builtin.len_, run_underlying ht, MapKept.run_getObj_map hb, goInt, Result.andThen, hlen]

variable {ops : Array Oper} {rest : List Oper} {o : Oper} {a : Act} {Q : Exit → Act → World → Prop}

theorem wpList_mlook (hg : o.guard = none) (m x : Operand) (t : TypeId) (c : Bool) (hop : o.op = Op.lookup t m x c) (kt et : TypeId) (K : Kv P kt kv D) (ht : P.underlying t = some (.map kt et)) {z : Value} (hz : (zeroValue et).run P w = .ok z w)
    (b : Nat) (hm : a.eval m = .map (some b)) (h : MapIs w b kv vv D ks f) (k : κ) (hx : a.eval x = kv k) (hk : D k) (v : Value)
    (hv : (if c then .tuple #[if k ∈ ks then vv (f k) else z, .bool (decide (k ∈ ks))] else if k ∈ ks then vv (f k) else z) = v)
    (hK : wpList P ops Q rest (a.put o.dst v) w) : wpList P ops Q (o :: rest) a w := by
  subst hv
  refine wpList_plain hg fun K' hK' => ?_
  unfold Oper.wp
  simp only [execOp, hop, hm, hx, Sem.run_bind, h.look K ht hz k hk c, Result.andThen_ok]
  exact hK' _ _ hK

theorem wpList_mput (hg : o.guard = none) (m x y : Operand) (t : TypeId) (hop : o.op = Op.mapUpdate t m x y) (kt et : TypeId) (K : Kv P kt kv D) (ht : P.underlying t = some (.map kt et))
    (b : Nat) (hm : a.eval m = .map (some b)) (h : MapIs w b kv vv D ks f) (k : κ) (hx : a.eval x = kv k) (hk : D k) (v : ν) (hv : a.eval y = vv v)
    (hK : ∀ w', MapIs w' b kv vv D (kput ks k) (upd f k v) → But b w w' → wpList P ops Q rest (a.put o.dst undef) w') : wpList P ops Q (o :: rest) a w := by
  refine wpList_plain hg fun K' hK' => ?_
  obtain ⟨w', hrun, r1, r2⟩ := h.store K ht k hk v
  unfold Oper.wp
  simp only [execOp, hop, hm, hx, hv, Sem.run_bind, hrun, Result.andThen_ok]
  exact hK' _ _ (hK w' r1 r2)

theorem wpList_mlen (hg : o.guard = none) (m : Operand) (t : TypeId) (hop : o.op = Op.call { callee := Callee.builtin Builtin.len, args := #[m], argTypes := #[t] }) (kt et : TypeId) (ht : P.underlying t = some (.map kt et))
    (b : Nat) (hm : a.eval m = .map (some b)) (h : MapIs w b kv vv D ks f) (hK : wpList P ops Q rest (a.put o.dst (.int .i64 ks.length)) w) : wpList P ops Q (o :: rest) a w := by
  refine wpList_plain hg fun K' hK' => ?_
  unfold Oper.wp
  simp only [execOp, hop, resolve, invoke, builtin, Sem.run_bind, Sem.run_pure, Result.andThen_ok, List.map_toArray, List.map_cons, List.map_nil, hm, h.len ht o.type]
  exact hK' _ _ hK
end

/-! ### numbers as keys -/
theorem int_kv {P : Program} {kt : TypeId} {q : IntKind} (hu : P.underlying kt = some (.int q)) : Kv P kt (Value.int q) (fun k => (Lit.int q k).wf = true) :=
  ⟨int_keyed hu, fun _ hk => ⟨_, keyOf_int_mk hu hk⟩, fun _ _ _ _ h => by injection h⟩

/-! ### arrays of numbers as keys -/
def arrV (q : IntKind) (b : List Int) : Value := .agg (b.map (Value.int q)).toArray
theorem ints_inj {q : IntKind} : ∀ {a b : List Int}, a.map (Value.int q) = b.map (Value.int q) → a = b
  | [], [], _ => rfl
  | [], _ :: _, h => by cases h
  | _ :: _, [], h => by cases h
  | x :: r, y :: s, h => by
    simp only [List.map_cons, List.cons.injEq, Value.int.injEq, true_and] at h
    rw [h.1, ints_inj h.2]
theorem arrV_inj {q : IntKind} {a b : List Int} (h : arrV q a = arrV q b) : a = b := by
  unfold arrV at h
  injection h with h
  exact ints_inj (by simpa using congrArg Array.toList h)
theorem mapM_some {α β : Type} {g : α → Option β} {h : α → β} : ∀ (l : List α), (∀ x ∈ l, g x = some (h x)) → l.mapM g = some (l.map h)
  | [], _ => rfl
  | x :: r, hs => by
    rw [List.mapM_cons, hs x (by simp), mapM_some r (fun y hy => hs y (by simp [hy]))]
    rfl
theorem arr_lits {P : Program} {kt e : TypeId} {q : IntKind} {n : Nat} (hrow : kt < P.types.size) (hu : P.underlying kt = some (.array n e)) (hue : P.underlying e = some (.int q)) (hce : P.cellsOf e = 1) (hct : P.cellsOf kt = n)
    (b : List Int) (hb : b.length = n) (hw : ∀ x ∈ b, (Lit.int q x).wf = true) : P.keyLits (P.types.size + 1) kt (arrV q b).cells.toList = some ((List.range n).map (fun i => [Lit.int q (b.getD i 0)])).flatten := by
  have hc : (arrV q b).cells.toList = b.map (Value.int q) := by simp [arrV, Value.cells]
  rw [hc]
  unfold Program.keyLits
  simp only [hu]
  rw [if_pos (by simp [hb, hct]), mapM_some (h := fun i => [Lit.int q (b.getD i 0)])]
  · rfl
  · intro i hi
    have hi' : i < b.length := by rw [hb]; exact List.mem_range.1 hi
    have : ((b.map (Value.int q)).drop (i * P.cellsOf e)).take (P.cellsOf e) = [.int q (b.getD i 0)] := by
      rw [hce, Nat.mul_one, List.drop_eq_getElem_cons (by simpa using hi')]
      simp [List.getD_eq_getElem?_getD, List.getElem?_eq_getElem hi']
    rw [this]
    obtain ⟨m, hm⟩ : ∃ m, P.types.size = m + 1 := ⟨P.types.size - 1, by have : 0 < P.types.size := Nat.lt_of_le_of_lt (Nat.zero_le kt) hrow; omega⟩
    rw [hm]
    unfold Program.keyLits
    simp only [hue]
    rw [if_pos ⟨trivial, by rw [List.getD_eq_getElem?_getD, List.getElem?_eq_getElem hi']; exact hw _ (List.getElem_mem hi')⟩]
theorem arr_kv {P : Program} {kt e : TypeId} {q : IntKind} {n : Nat} (hl : laidOutB P = true) (hrow : kt < P.types.size) (hts : P.types.size + 2 ≤ 10000) (hu : P.underlying kt = some (.array n e)) (hue : P.underlying e = some (.int q)) (hce : P.cellsOf e = 1) (hct : P.cellsOf kt = n)
    (hkt : P.keyType kt = true) : Kv P kt (arrV q) (fun b => b.length = n ∧ ∀ x ∈ b, (Lit.int q x).wf = true) := by
  refine ⟨Keyed.of_law (deep_law_laid hl (m := P.types.size + 1) (by omega) hrow hkt (by rw [hu])), fun b ⟨hb, hw⟩ => ?_, fun _ _ _ _ h => arrV_inj h⟩
  have hf : (arrV q b).formed P kt = true := by simp [arrV, Value.formed, hu, hct, hb]
  have hls := arr_lits hrow hu hue hce hct b hb hw
  exact ⟨.string (keyBytes ((List.range n).map (fun i => [Lit.int q (b.getD i 0)])).flatten), by
    unfold keyOf
    simp only [hu, hkt, hf, hls, Bool.and_self, if_true, Option.map_some]⟩
end Go.Proofs.Ytmphfdnpnhlpjaa
