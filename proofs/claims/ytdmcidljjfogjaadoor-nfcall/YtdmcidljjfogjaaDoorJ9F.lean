/- Joined of: U5Look, U5Facts, U5QC, U5K, U5Any, U5QJ, U5QS. -/
import Derived.Test.YtdmcidljjfogjaaDoorJ9D
import Derived.Test.YtdmcidljjfogjaaDoorJ9E
/- Layer 5: what is found at a place, by the last entry of it. No program in it. -/
namespace Go.Proofs.YtdmcidljjfogjaaDoor

/-- the last of these keys' -/
def look {κ ν : Type} [DecidableEq κ] (l : List (κ × ν)) (k : κ) : Option ν := l.foldl (fun acc e => if e.1 = k then some e.2 else acc) none
theorem look_snoc {κ ν : Type} [DecidableEq κ] (l : List (κ × ν)) (e : κ × ν) (k : κ) : look (l ++ [e]) k = if e.1 = k then some e.2 else look l k := by simp [look, List.foldl_append]
theorem look_mem {κ ν : Type} [DecidableEq κ] (l : List (κ × ν)) : ∀ (k : κ) (v : ν), look l k = some v → (k, v) ∈ l := by
  refine snoc_ind (p := fun l => ∀ (k : κ) (v : ν), look l k = some v → (k, v) ∈ l) (fun k v h => by cases h) (fun l e ih k v h => ?_) l
  rw [look_snoc] at h
  split at h
  · rename_i he
    subst he
    obtain rfl := Option.some.inj h
    simp
  · exact List.mem_append.2 (.inl (ih k v h))
theorem look_none {κ ν : Type} [DecidableEq κ] (l : List (κ × ν)) : ∀ (k : κ), look l k = none → k ∉ l.map (·.1) := by
  refine snoc_ind (p := fun l => ∀ (k : κ), look l k = none → k ∉ l.map (·.1)) (fun k h => by simp) (fun l e ih k h => ?_) l
  rw [look_snoc] at h
  split at h
  · cases h
  · rename_i he
    rw [List.map_append, List.mem_append]
    rintro (h1 | h1)
    · exact ih k h h1
    · simp at h1; exact he h1.symm
/-- a table has what the last entry says -/
theorem tab_look (l : List (Int × Int)) : (∀ e ∈ l, isPl e.1 = true) → ∀ c, tab l c = (look l c).getD 0 := by
  refine snoc_ind (p := fun l => (∀ e ∈ l, isPl e.1 = true) → ∀ c, tab l c = (look l c).getD 0) (fun _ _ => rfl) (fun l e ih h c => ?_) l
  have ih' := ih (fun x hx => h x (by simp [hx])) c
  rw [tab_snoc, look_snoc]
  unfold tstep
  rw [if_pos (h e (by simp))]
  unfold upd
  by_cases he : e.1 = c
  · subst he; simp
  · rw [if_neg (fun e' => he e'.symm), if_neg he, ih']
/-- maps by their puts -/
def mput {κ ν : Type} [DecidableEq κ] (s : List κ × (κ → ν)) (e : κ × ν) : List κ × (κ → ν) := (kput s.1 e.1, upd s.2 e.1 e.2)
def mst {κ ν : Type} [DecidableEq κ] (z : ν) (l : List (κ × ν)) : List κ × (κ → ν) := l.foldl mput ([], fun _ => z)
theorem mst_snoc {κ ν : Type} [DecidableEq κ] (z : ν) (l : List (κ × ν)) (e : κ × ν) : mst z (l ++ [e]) = mput (mst z l) e := by simp [mst, List.foldl_append]
theorem mst_look {κ ν : Type} [DecidableEq κ] (z : ν) (l : List (κ × ν)) : ∀ k, (k ∈ (mst z l).1 ↔ (look l k).isSome = true) ∧ (mst z l).2 k = (look l k).getD z := by
  refine snoc_ind (p := fun l => ∀ k, (k ∈ (mst z l).1 ↔ (look l k).isSome = true) ∧ (mst z l).2 k = (look l k).getD z) (fun k => ⟨by simp [mst, look], rfl⟩) (fun l e ih k => ?_) l
  obtain ⟨h1, h2⟩ := ih k
  rw [mst_snoc, look_snoc]
  unfold mput
  refine ⟨?_, ?_⟩
  · rw [kput_mem, h1]
    by_cases he : e.1 = k
    · rw [if_pos he]; simp [he]
    · rw [if_neg he]
      exact ⟨fun h => h.resolve_right (fun e' => he e'.symm), .inl⟩
  · unfold upd
    dsimp only
    by_cases he : e.1 = k
    · rw [if_pos he, if_pos he.symm]; rfl
    · rw [if_neg he, if_neg (fun e' => he e'.symm), h2]

/-- the pairs by their places -/
def prK (P : List Pr5) : List (Int × Pr5) := P.map fun p => ((p.c : Int), p)
def lastP (P : List Pr5) (c : Int) : Option Pr5 := look (prK P) c
theorem lastP_snoc (P : List Pr5) (p : Pr5) (c : Int) : lastP (P ++ [p]) c = if (p.c : Int) = c then some p else lastP P c := by
  unfold lastP prK
  rw [List.map_append]
  exact look_snoc _ _ _
/-- where a table says that a pair is, it is -/
theorem pair_tab (P : List Pr5) : (∀ p ∈ P, p.c ≤ 1114111) → ∀ c, (lastP P c = none ∧ tab (castE (prI 0 P)) c = 0) ∨ ∃ (i : Nat) (p : Pr5), lastP P c = some p ∧ P[i]? = some p ∧ tab (castE (prI 0 P)) c = (i : Int) + 1 := by
  refine snoc_ind (p := fun P => (∀ p ∈ P, p.c ≤ 1114111) → ∀ c, (lastP P c = none ∧ tab (castE (prI 0 P)) c = 0) ∨ ∃ (i : Nat) (p : Pr5), lastP P c = some p ∧ P[i]? = some p ∧ tab (castE (prI 0 P)) c = (i : Int) + 1) (fun _ c => .inl ⟨rfl, rfl⟩) (fun P p ih h c => ?_) P
  have ih' := ih (fun x hx => h x (by simp [hx])) c
  have hp := h p (by simp)
  rw [lastP_snoc, prI_snoc, castE_app]
  have e1 : tab (castE (prI 0 P) ++ castE [(p.c, 0 + P.length + 1)]) = tstep (tab (castE (prI 0 P))) ((p.c : Int), ((0 + P.length + 1 : Nat) : Int)) := tab_snoc _ _
  rw [e1]
  unfold tstep
  rw [if_pos (isPl_iff.2 ⟨by omega, by show (p.c : Int) ≤ _; omega⟩)]
  unfold upd
  dsimp only
  by_cases he : (p.c : Int) = c
  · rw [if_pos he, if_pos he.symm]
    exact .inr ⟨P.length, p, rfl, by simp, by simp⟩
  · rw [if_neg he, if_neg (fun e' => he e'.symm)]
    rcases ih' with h1 | ⟨i, q, h1, h2, h3⟩
    · exact .inl h1
    · refine .inr ⟨i, q, h1, ?_, h3⟩
      rw [List.getElem?_append_left (List.getElem?_eq_some_iff.1 h2).1]; exact h2
def pxF (P : List Pr5) (c : Int) : Int := ((lastP P c).map fun p => (p.x : Int)).getD 0
def pyF (P : List Pr5) (c : Int) : Int := ((lastP P c).map fun p => (p.y : Int)).getD 0
def pkF (P : List Pr5) (c : Int) : Bool := (lastP P c).isSome
end Go.Proofs.YtdmcidljjfogjaaDoor

/- Layer 5: what is true of lists of pairs and singles that pass some tests. No program in it. -/
namespace Go.Proofs.YtdmcidljjfogjaaDoor

/-! ### sets of numbers as one number -/
def bitsOf : List Nat → Nat → Nat
  | [], a => a
  | k :: r, a => bitsOf r (a ||| (1 <<< k))
theorem bitsOf_mem (c : Nat) : ∀ (l : List Nat) (a : Nat), (bitsOf l a).testBit c = (a.testBit c || l.contains c)
  | [], a => by simp [bitsOf]
  | k :: r, a => by
    show (bitsOf r (a ||| (1 <<< k))).testBit c = _
    rw [bitsOf_mem c r, Nat.testBit_or, Nat.one_shiftLeft, Nat.testBit_two_pow, List.contains_cons]
    by_cases h : c = k
    · subst h; simp
    · have h1 : (c == k) = false := by simpa using h
      have h2 : decide (k = c) = false := by simpa using fun e => h e.symm
      rw [h1, h2]; simp
theorem bits_iff (l : List Nat) (c : Nat) : (bitsOf l 0).testBit c = true ↔ c ∈ l := by rw [bitsOf_mem]; simp
/-- a test of a bit, as the kernel reckons it -/
def hasBit (a c : Nat) : Bool := Nat.beq ((a >>> c) % 2) 1
theorem hasBit_eq (a c : Nat) : hasBit a c = a.testBit c := by
  unfold hasBit
  rw [Nat.testBit, Nat.one_and_eq_mod_two]
  have := Nat.mod_two_eq_zero_or_one (a >>> c)
  rcases this with h | h <;> rw [h] <;> rfl
theorem has_iff (l : List Nat) (c : Nat) : hasBit (bitsOf l 0) c = true ↔ c ∈ l := by rw [hasBit_eq]; exact bits_iff l c
/-- no number twice -/
def onceB : List Nat → Nat → Bool
  | [], _ => true
  | k :: r, a => !hasBit a k && onceB r (a ||| (1 <<< k))
theorem onceB_spec : ∀ (l : List Nat) (a : Nat), onceB l a = true → l.Nodup ∧ ∀ k ∈ l, a.testBit k = false
  | [], _, _ => ⟨List.nodup_nil, by simp⟩
  | k :: r, a, h => by
    simp only [onceB, Bool.and_eq_true, Bool.not_eq_true', hasBit_eq] at h
    obtain ⟨h1, h2⟩ := onceB_spec r _ h.2
    refine ⟨List.nodup_cons.2 ⟨fun hk => ?_, h1⟩, fun j hj => ?_⟩
    · have := h2 k hk
      rw [Nat.testBit_or, Nat.one_shiftLeft, Nat.testBit_two_pow_self] at this
      simp at this
    · rcases List.mem_cons.1 hj with rfl | hj
      · exact h.1
      · have := h2 j hj
        rw [Nat.testBit_or] at this
        simp only [Bool.or_eq_false_iff] at this
        exact this.1
theorem once_inj {α : Type} {f : α → Nat} : ∀ {l : List α}, (l.map f).Nodup → ∀ a ∈ l, ∀ b ∈ l, f a = f b → a = b
  | [], _, a, ha, _, _, _ => by cases ha
  | x :: r, h, a, ha, b, hb, e => by
    obtain ⟨h1, h2⟩ := List.nodup_cons.1 h
    rcases List.mem_cons.1 ha with ea | ha1
    · rcases List.mem_cons.1 hb with eb | hb1
      · rw [ea, eb]
      · exact absurd (by rw [← ea, e]; exact List.mem_map_of_mem hb1) h1
    · rcases List.mem_cons.1 hb with eb | hb1
      · exact absurd (by rw [← eb, ← e]; exact List.mem_map_of_mem ha1) h1
      · exact once_inj h2 a ha1 b hb1 e

/-! ### how long a way from place to place is -/
def stepL (L : List (Nat × Nat)) : List (Nat × Nat) := L.filter fun e => hasBit (bitsOf (L.map (·.1)) 0) e.2
theorem stepL_mem {L : List (Nat × Nat)} {e : Nat × Nat} : e ∈ stepL L ↔ e ∈ L ∧ e.2 ∈ L.map (·.1) := by
  unfold stepL
  rw [List.mem_filter, has_iff]
/-- L4 is empty: no five steps -/
theorem no_five {L : List (Nat × Nat)} (h : stepL (stepL (stepL (stepL L))) = []) {c0 c1 c2 c3 c4 c5 : Nat} (h0 : (c0, c1) ∈ L) (h1 : (c1, c2) ∈ L) (h2 : (c2, c3) ∈ L) (h3 : (c3, c4) ∈ L) (h4 : (c4, c5) ∈ L) : False := by
  have m : ∀ {M : List (Nat × Nat)} {a b c : Nat}, (a, b) ∈ M → (b, c) ∈ M → (a, b) ∈ stepL M := fun ha hb => stepL_mem.2 ⟨ha, List.mem_map_of_mem (f := (·.1)) hb⟩
  have x0 := m h0 h1
  have x1 := m h1 h2
  have x2 := m h2 h3
  have x3 := m h3 h4
  have y0 := m x0 x1
  have y1 := m x1 x2
  have y2 := m x2 x3
  have z0 := m y0 y1
  have z1 := m y1 y2
  have t0 := m z0 z1
  rw [h] at t0
  cases t0

/-! ### by the lists -/
theorem lastP_some {P : List Pr5} {c : Int} {p : Pr5} (h : lastP P c = some p) : p ∈ P ∧ (p.c : Int) = c := by
  have := look_mem _ _ _ h
  unfold prK at this
  obtain ⟨q, hq, e⟩ := List.mem_map.1 this
  injection e with e1 e2
  subst e2
  exact ⟨hq, e1⟩
theorem lastP_none {P : List Pr5} {c : Int} (h : lastP P c = none) : ∀ p ∈ P, (p.c : Int) ≠ c := by
  intro p hp e
  refine look_none _ _ h ?_
  unfold prK
  rw [List.map_map]
  exact List.mem_map.2 ⟨p, hp, e⟩
/-- by the last one of a place, where places are there once -/
theorem lastP_once {P : List Pr5} (hn : (P.map (·.c)).Nodup) {p : Pr5} (hp : p ∈ P) : lastP P p.c = some p := by
  cases h : lastP P (p.c : Int) with
  | none => exact absurd rfl (lastP_none h p hp)
  | some q =>
    obtain ⟨hq, e⟩ := lastP_some h
    rw [once_inj hn q hq p hp (by omega)]
theorem castE_mem {l : List (Nat × Nat)} {e : Int × Int} : e ∈ castE l ↔ ∃ x ∈ l, ((x.1 : Int), (x.2 : Int)) = e := by
  unfold castE; exact List.mem_map
theorem tab_nz {l : List (Nat × Nat)} (hp : ∀ e ∈ l, e.1 ≤ 1114111) {c : Int} (h : tab (castE l) c ≠ 0) : ∃ e ∈ l, (e.1 : Int) = c ∧ tab (castE l) c = e.2 := by
  rw [tab_look _ (fun e he => by obtain ⟨x, hx, rfl⟩ := castE_mem.1 he; exact isPl_iff.2 ⟨by dsimp only; omega, by have := hp x hx; dsimp only; omega⟩)] at h ⊢
  cases hl : look (castE l) c with
  | none => rw [hl] at h; exact absurd rfl h
  | some v =>
    obtain ⟨x, hx, e⟩ := castE_mem.1 (look_mem _ _ _ hl)
    injection e with e1 e2
    exact ⟨x, hx, e1, by rw [← e2]; rfl⟩
theorem tab_z {l : List (Nat × Nat)} (hp : ∀ e ∈ l, e.1 ≤ 1114111) (hz : ∀ e ∈ l, e.2 ≠ 0) {c : Int} (h : tab (castE l) c = 0) : ∀ e ∈ l, (e.1 : Int) ≠ c := by
  rw [tab_look _ (fun e he => by obtain ⟨x, hx, rfl⟩ := castE_mem.1 he; exact isPl_iff.2 ⟨by dsimp only; omega, by have := hp x hx; dsimp only; omega⟩)] at h
  intro e he e1
  cases hl : look (castE l) c with
  | none =>
    refine look_none _ _ hl ?_
    unfold castE
    rw [List.map_map]
    exact List.mem_map.2 ⟨e, he, e1⟩
  | some v =>
    rw [hl] at h
    obtain ⟨x, hx, e'⟩ := castE_mem.1 (look_mem _ _ _ hl)
    injection e' with e1 e2
    have := hz x hx
    simp only [Option.getD_some] at h
    omega
theorem scL_mem {P : List Pr5} {e : Nat × Nat} : e ∈ scL P ↔ ∃ p ∈ P, p.o = false ∧ e = (p.y, 1) := by
  induction P with
  | nil => simp [scL]
  | cons p r ih =>
    show e ∈ (bif p.o then scL r else (p.y, 1) :: scL r) ↔ _
    cases ho : p.o
    · simp only [cond_false, List.mem_cons, ih]
      constructor
      · rintro (rfl | ⟨q, hq, h1, h2⟩)
        · exact ⟨p, .inl rfl, ho, rfl⟩
        · exact ⟨q, .inr hq, h1, h2⟩
      · rintro ⟨q, (rfl | hq), h1, h2⟩
        · exact .inl h2
        · exact .inr ⟨q, hq, h1, h2⟩
    · simp only [cond_true, ih]
      constructor
      · rintro ⟨q, hq, h1, h2⟩; exact ⟨q, List.mem_cons_of_mem _ hq, h1, h2⟩
      · rintro ⟨q, hq, h1, h2⟩
        rcases List.mem_cons.1 hq with rfl | hq
        · rw [ho] at h1; cases h1
        · exact ⟨q, hq, h1, h2⟩
/-- what is joined, by a pair that is not left out -/
def jL (P : List Pr5) : List (List Int × Int) := (P.filter fun p => !p.o).map fun p => (key5 p, (p.c : Int))
theorem jst_jL (P : List Pr5) : jst P = mst 0 (jL P) := by
  refine snoc_ind (p := fun P => jst P = mst 0 (jL P)) rfl (fun P p ih => ?_) P
  rw [jst_snoc, ih]
  unfold jL jstep
  rw [List.filter_append, List.map_append]
  cases ho : p.o
  · simp only [List.filter_cons, ho, Bool.not_false, if_true, List.filter_nil, List.map_cons, List.map_nil, cond_false]
    rw [mst_snoc]; rfl
  · simp [ho]
theorem jst_in {P : List Pr5} {k : List Int} (h : k ∈ (jst P).1) : ∃ p ∈ P, p.o = false ∧ key5 p = k ∧ (jst P).2 k = p.c := by
  rw [jst_jL] at h ⊢
  obtain ⟨h1, h2⟩ := mst_look (0 : Int) (jL P) k
  cases hl : look (jL P) k with
  | none => rw [hl] at h1; exact absurd (h1.1 h) (by simp)
  | some v =>
    rw [hl] at h2
    have := look_mem _ _ _ hl
    unfold jL at this
    obtain ⟨p, hp, e⟩ := List.mem_map.1 this
    obtain ⟨hp1, hp2⟩ := List.mem_filter.1 hp
    injection e with e1 e2
    exact ⟨p, hp1, by simpa using hp2, e1, by rw [h2, ← e2]; rfl⟩
end Go.Proofs.YtdmcidljjfogjaaDoor

/- What the tables are asked: Class, Pair, Single by contracts. -/
namespace Go.Proofs.YtdmcidljjfogjaaDoor
set_option maxRecDepth 100000
open Go.ChangeShapes Go.WideShapes Go.ChangeAt Go.RowKit
set_option linter.unusedVariables false
set_option linter.unusedSimpArgs false

/-- numbers that are small, places that are places -/
structure Fine (C : List (Nat × Nat)) (P : List Pr5) (S : List (Nat × Nat)) : Prop where
  c : ∀ e ∈ C, e.1 ≤ 1114111 ∧ e.2 ≤ 100000000
  p : ∀ e ∈ P, e.c ≤ 1114111 ∧ e.x ≤ 1114111 ∧ e.y ≤ 1114111
  s : ∀ e ∈ S, e.1 ≤ 1114111 ∧ e.2 ≤ 1114111
  len : P.length ≤ 100000000
theorem tab_castE_bd {l : List (Nat × Nat)} {m : Nat} (h : ∀ e ∈ l, e.2 ≤ m) (c : Int) : 0 ≤ tab (castE l) c ∧ tab (castE l) c ≤ m := by
  refine tab_fits (p := fun x => 0 ≤ x ∧ x ≤ (m : Int)) ⟨by omega, by omega⟩ (castE l) (fun e he => ?_) c
  unfold castE at he
  obtain ⟨x, hx, rfl⟩ := List.mem_map.1 he
  have := h x hx
  dsimp only
  omega
theorem tkv5 : Kv Tryd.prog 90 (arrV .i32) DD := arr_kv laidOut4 (of_decide_eq_true (by kernel_rfl)) ts4 Tryd.underlying90 Tryd.underlying21 (by kernel_rfl) (by kernel_rfl) (by kernel_rfl)
theorem zero_i32 (w : World) : (zeroValue 21).run Tryd.prog w = .ok (.int .i32 0) w := by kernel_rfl
section
variable {w : World} {B g : Nat} {C : List (Nat × Nat)} {P : List Pr5} {S : List (Nat × Nat)}

theorem classQ (hT : TblAt w B g C P S) (c : Int) : Calls Tryd.prog 52 #[.pointer (some ⟨g, 0, none⟩), .int .i32 c] w fun e w' => e = .returned (.int .i64 (tab (castE C) c)) ∧ Still w w' := by
  obtain ⟨g0, g1, g2, g3, mb, A4, cap4, k0, k1, k2, k3, h⟩ := hT
  have c0 : w.cell? ⟨g, 0, none⟩ = some (.pointer (some ⟨g0, 0, none⟩)) := h.blk.cell 0
  have HG := Lib.hid (get_any c _ g0 B k0 w (fun c hc => tab_out _ c (.inl hc)) h.t0)
  clear h
  go_enter Tryd.func52, Tryd.ntmps52
  go_wp2_with fail
  with_reducible refine HG.out.mono ?_
  rintro e w' ⟨rfl, hs⟩
  go_wp2
  go_ret
  exact ⟨rfl, hs⟩

theorem singleQ (hT : TblAt w B g C P S) (hf : Fine C P S) (c : Int) : Calls Tryd.prog 66 #[.pointer (some ⟨g, 0, none⟩), .int .i32 c] w fun e w' => e = .returned (.tuple #[.int .i32 (tab (castE S) c), .bool (tab (castE S) c != 0)]) ∧ Still w w' := by
  obtain ⟨g0, g1, g2, g3, mb, A4, cap4, k0, k1, k2, k3, h⟩ := hT
  have c0 : w.cell? ⟨g, 2, none⟩ = some (.pointer (some ⟨g2, 0, none⟩)) := h.blk.cell 2
  have HG := Lib.hid (get_any c _ g2 B k2 w (fun c hc => tab_out _ c (.inl hc)) h.t2)
  obtain ⟨v0, v1⟩ := tab_castE_bd (m := 1114111) (fun e he => (hf.s e he).2) c
  have v1 : tab (castE S) c ≤ 1114111 := by omega
  clear h hf
  generalize tab (castE S) c = v at *
  go_enter Tryd.func66, Tryd.ntmps66
  go_wp2_with fail
  with_reducible refine HG.out.mono ?_
  rintro e w' ⟨rfl, hs⟩
  go_wp2
  go_ret2
  exact ⟨rfl, hs⟩

theorem pairQ (hT : TblAt w B g C P S) (hf : Fine C P S) (c : Int) : Calls Tryd.prog 67 #[.pointer (some ⟨g, 0, none⟩), .int .i32 c] w fun e w' => e = .returned (.tuple #[.int .i32 (pxF P c), .int .i32 (pyF P c), .bool (pkF P c)]) ∧ Below w.heap.size w w' := by
  obtain ⟨g0, g1, g2, g3, mb, A4, cap4, k0, k1, k2, k3, h⟩ := hT
  have c0 : w.cell? ⟨g, 1, none⟩ = some (.pointer (some ⟨g1, 0, none⟩)) := h.blk.cell 1
  have HG := Lib.hid (get_any c _ g1 B k1 w (fun c hc => tab_out _ c (.inl hc)) h.t1)
  rcases pair_tab P (fun p hp => (hf.p p hp).1) c with ⟨h1, h2⟩ | ⟨i, p, h1, h2, h3⟩
  · have e1 : pxF P c = 0 := by unfold pxF; rw [h1]; rfl
    have e2 : pyF P c = 0 := by unfold pyF; rw [h1]; rfl
    have e3 : pkF P c = false := by unfold pkF; rw [h1]; rfl
    rw [e1, e2, e3]
    rw [h2] at HG
    clear h hf e1 e2 e3 h1 h2
    go_enter Tryd.func67, Tryd.ntmps67
    go_wp2_with fail
    with_reducible refine HG.out.mono ?_
    rintro e w' ⟨rfl, hs⟩
    go_wp2
    refine bodyPost_ret (v := .tuple #[.int .i32 0, .int .i32 0, .bool false]) (by simp [results, Tryd.results67, go_sem]) rfl ⟨rfl, hs.below⟩
  · have e1 : pxF P c = p.x := by unfold pxF; rw [h1]; rfl
    have e2 : pyF P c = p.y := by unfold pyF; rw [h1]; rfl
    have e3 : pkF P c = true := by unfold pkF; rw [h1]; rfl
    rw [e1, e2, e3]
    rw [h3] at HG
    have hi : i < P.length := (List.getElem?_eq_some_iff.1 h2).1
    have hlen := hf.len
    have hcap := h.cap
    have c4 : w.cell? ⟨g, 4, none⟩ = some (.slice A4 P.length cap4) := h.blk.cell 4
    obtain ⟨b, rfl, hbl, hcc⟩ : ∃ b, A4 = some ⟨b, 0, none⟩ ∧ b < B ∧ ∀ j p, P[j]? = some p → w.cell? ⟨b, j * 2, none⟩ = some (.int .i32 p.x) ∧ w.cell? ⟨b, j * 2 + 1, none⟩ = some (.int .i32 p.y) := by
      rcases h.tw with h | h
      · rw [h] at hi; cases hi
      · exact h
    obtain ⟨cx, cy⟩ := hcc i p h2
    clear h hf e1 e2 e3 h1 h2 hcc h3
    generalize P.length = n at *
    have t1 : (0 : Int) ≤ i := by omega
    have t2 : (i : Int) + 1 ≤ 100000000 := by omega
    have t3 : (((i : Int) + 1) == 0) = false := by simp; omega
    have t4 : (i : Int) < n := by omega
    go_enter Tryd.func67, Tryd.ntmps67
    go_wp2_with fail
    with_reducible refine HG.out.mono ?_
    rintro e w' ⟨rfl, hs⟩
    have c4' : w'.cell? ⟨g, 4, none⟩ = _ := (hs.cell _).trans c4
    have cx' : w'.cell? ⟨b, i * 2, none⟩ = _ := (hs.cell _).trans cx
    have cy' : w'.cell? ⟨b, i * 2 + 1, none⟩ = _ := (hs.cell _).trans cy
    go_wp2
    go_quiet (fail)
    go_wp2
    refine bodyPost_ret (v := .tuple #[.int .i32 p.x, .int .i32 p.y, .bool true]) (by simp [results, Tryd.results67, go_sem]) rfl ⟨rfl, ?_⟩
    exact below_drewN' ((hs.below).alloc (by obtain ⟨m, rfl⟩ := hs; exact Nat.le_refl _) _) _
end
end Go.Proofs.YtdmcidljjfogjaaDoor

/- Layer 5: the program's texts, reckoned by the kernel. -/
namespace Go.Proofs.YtdmcidljjfogjaaDoor

noncomputable def C5 : List (Nat × Nat) := clsE 0 (esOf tUcdBuild1)
noncomputable def P5 : List Pr5 := prE 0 (esOf tUcdBuild2)
noncomputable def S5 : List (Nat × Nat) := sgE 0 (esOf tUcdBuild3)
/-- the entries of a text are not empty, and small -/
def okEnts (l : List Ent) : Bool := l.all fun e => !e.isZ && (Nat.ble e.n1 100000000 && Nat.ble e.n2 100000000)
def lenB {α : Type} : List α → Nat → Bool
  | [], _ => true
  | _ :: _, 0 => false
  | _ :: r, n + 1 => lenB r n
theorem lenB_le {α : Type} : ∀ (l : List α) (n : Nat), lenB l n = true → l.length ≤ n
  | [], _, _ => Nat.zero_le _
  | _ :: _, 0, h => by cases h
  | _ :: r, n + 1, h => by have := lenB_le r n h; simp only [List.length_cons]; omega
theorem txt_of {s : ByteArray} (h1 : Nat.ble s.data.size 65536 = true) (h2 : okAll (bytesOf s) zeroE = true) (h3 : (cur (bytesOf s) zeroE).isZ = true) (h4 : okEnts (esOf s) = true) (h5 : lenB (esOf s) 5000 = true) : Txt s := by
  have h4' : ∀ e ∈ esOf s, e.isZ = false ∧ e.n1 ≤ 100000000 ∧ e.n2 ≤ 100000000 := fun e he => by
    have := List.all_eq_true.1 h4 e he
    simpa [Nat.ble_eq] using this
  exact ⟨Nat.le_of_ble_eq_true h1, h2, isZ_iff.1 h3, fun e he => (h4' e he).1, fun e he => (h4' e he).2, by have := lenB_le _ _ h5; omega⟩
theorem K1 : Txt tUcdBuild1 := txt_of (by kernel_rfl) (by kernel_rfl) (by kernel_rfl) (by kernel_rfl) (by kernel_rfl)
theorem K2 : Txt tUcdBuild2 := txt_of (by kernel_rfl) (by kernel_rfl) (by kernel_rfl) (by kernel_rfl) (by kernel_rfl)
theorem K3 : Txt tUcdBuild3 := txt_of (by kernel_rfl) (by kernel_rfl) (by kernel_rfl) (by kernel_rfl) (by kernel_rfl)
theorem kE1 : endC 0 (esOf tUcdBuild1) ≤ 100000000 := Nat.le_of_ble_eq_true (by kernel_rfl)
theorem kE2 : endP 0 (esOf tUcdBuild2) ≤ 100000000 := Nat.le_of_ble_eq_true (by kernel_rfl)
theorem kE3 : endP 0 (esOf tUcdBuild3) ≤ 100000000 := Nat.le_of_ble_eq_true (by kernel_rfl)
theorem kC : (C5.all fun e => Nat.ble e.1 1114111 && Nat.ble e.2 100000000) = true := by kernel_rfl
theorem kP : (P5.all fun e => Nat.ble e.c 1114111 && (Nat.ble e.x 1114111 && Nat.ble e.y 1114111)) = true := by kernel_rfl
theorem kS : (S5.all fun e => Nat.ble e.1 1114111 && Nat.ble e.2 1114111) = true := by kernel_rfl
theorem fine5 : Fine C5 P5 S5 := by
  refine ⟨fun e he => ?_, fun e he => ?_, fun e he => ?_, ?_⟩
  · have := List.all_eq_true.1 kC e he; simpa [Nat.ble_eq] using this
  · have := List.all_eq_true.1 kP e he; simpa [Nat.ble_eq] using this
  · have := List.all_eq_true.1 kS e he; simpa [Nat.ble_eq] using this
  · show (prE 0 (esOf tUcdBuild2)).length ≤ _
    rw [prE_len]; exact K2.len
theorem fit_of {l : List (Nat × Nat)} (h : ∀ e ∈ l, e.1 ≤ 100000000 ∧ e.2 ≤ 100000000) : FitE (castE l) := by
  intro e he
  obtain ⟨x, hx, rfl⟩ := castE_mem.1 he
  obtain ⟨h1, h2⟩ := h x hx
  exact ⟨WalkArith.wf_i32 (by dsimp only; omega), WalkArith.wf_i64 (by dsimp only; omega)⟩
theorem prI_mem : ∀ (P : List Pr5) (k : Nat), ∀ e ∈ prI k P, (∃ p ∈ P, p.c = e.1) ∧ e.2 ≤ k + P.length
  | [], _, _, h => by cases h
  | p :: r, k, e, h => by
    rcases List.mem_cons.1 h with rfl | h
    · exact ⟨⟨p, by simp, rfl⟩, by simp⟩
    · obtain ⟨⟨q, hq, e1⟩, h2⟩ := prI_mem r (k + 1) e h
      exact ⟨⟨q, by simp [hq], e1⟩, by simp only [List.length_cons]; omega⟩
theorem f50 : FitE (castE C5) := fit_of fun e he => ⟨by have := (fine5.c e he).1; omega, (fine5.c e he).2⟩
theorem f51 : FitE (castE (prI 0 P5)) := fit_of fun e he => by
  obtain ⟨⟨p, hp, e1⟩, h2⟩ := prI_mem P5 0 e he
  have := (fine5.p p hp).1
  have := fine5.len
  omega
theorem f52 : FitE (castE S5) := fit_of fun e he => by have := fine5.s e he; omega
theorem f53 : FitE (castE (scL P5)) := fit_of fun e he => by
  obtain ⟨p, hp, _, rfl⟩ := scL_mem.1 he
  have := (fine5.p p hp).2.2
  dsimp only; omega

/-! ### what the laws want -/
theorem kOnceC : onceB (P5.map (·.c)) 0 = true := by kernel_rfl
theorem nodupC : (P5.map (·.c)).Nodup := (onceB_spec _ _ kOnceC).1
theorem kKeys : onceB (P5.map fun p => (p.x * 2097152 + p.y) % 60044) 0 = true := by kernel_rfl
theorem keys_once {p q : Pr5} (hp : p ∈ P5) (hq : q ∈ P5) (hx : p.x = q.x) (hy : p.y = q.y) : p = q :=
  once_inj (onceB_spec _ _ kKeys).1 p hp q hq (by rw [hx, hy])
theorem kApart : (P5.all fun p => !hasBit (bitsOf (S5.map (·.1)) 0) p.c) = true := by kernel_rfl
theorem kSyl : (P5.all (fun p => Nat.blt p.c 44032 || Nat.blt 55203 p.c) && S5.all (fun e => Nat.blt e.1 44032 || Nat.blt 55203 e.1)) = true := by kernel_rfl
theorem kSnz : (S5.all fun e => !Nat.beq e.2 0) = true := by kernel_rfl
noncomputable def L5 : List (Nat × Nat) := (P5.map fun p => (p.c, p.x)) ++ S5
theorem kFour : (stepL (stepL (stepL (stepL L5)))).isEmpty = true := by kernel_rfl
theorem four5 : stepL (stepL (stepL (stepL L5))) = [] := by simpa using kFour
theorem kLen : (Nat.beq C5.length 922 && (Nat.beq P5.length 1026 && (Nat.beq S5.length 1035 && Nat.beq (outs P5) 85))) = true := by kernel_rfl
theorem apart5 {p : Pr5} (hp : p ∈ P5) {e : Nat × Nat} (he : e ∈ S5) : p.c ≠ e.1 := by
  have h := List.all_eq_true.1 kApart p hp
  intro e1
  have : hasBit (bitsOf (S5.map (·.1)) 0) p.c = true := (has_iff _ _).2 (e1 ▸ List.mem_map_of_mem (f := (·.1)) he)
  rw [this] at h
  cases h
theorem snz5 {e : Nat × Nat} (he : e ∈ S5) : e.2 ≠ 0 := by
  have := List.all_eq_true.1 kSnz e he
  intro h0
  rw [h0] at this
  cases this
theorem sylP {p : Pr5} (hp : p ∈ P5) : p.c < 44032 ∨ 55203 < p.c := by
  have h := (Bool.and_eq_true_iff.1 kSyl).1
  have := List.all_eq_true.1 h p hp
  simpa [Nat.blt_eq] using this
theorem sylS {e : Nat × Nat} (he : e ∈ S5) : e.1 < 44032 ∨ 55203 < e.1 := by
  have h := (Bool.and_eq_true_iff.1 kSyl).2
  have := List.all_eq_true.1 h e he
  simpa [Nat.blt_eq] using this
theorem len5 : C5.length = 922 ∧ P5.length = 1026 ∧ S5.length = 1035 ∧ outs P5 = 85 := by
  have := kLen
  simpa [Nat.beq_eq] using this

/-! ### some places -/
def lk : List (Nat × Nat) → Nat → Nat → Nat
  | [], _, a => a
  | e :: r, k, a => lk r k (bif Nat.beq e.1 k then e.2 else a)
theorem tab_lk (k : Nat) : ∀ (l : List (Nat × Nat)) (f : Int → Int) (a : Nat), (∀ e ∈ l, e.1 ≤ 1114111) → f k = a → (castE l).foldl tstep f (k : Int) = lk l k a
  | [], f, a, _, h => h
  | e :: r, f, a, hl, h => by
    show (castE r).foldl tstep (tstep f ((e.1 : Int), (e.2 : Int))) (k : Int) = lk r k _
    refine tab_lk k r _ _ (fun x hx => hl x (by simp [hx])) ?_
    have he := hl e (by simp)
    unfold tstep
    rw [if_pos (isPl_iff.2 ⟨by dsimp only; omega, by dsimp only; omega⟩)]
    unfold upd
    dsimp only
    by_cases hk : e.1 = k
    · have : Nat.beq e.1 k = true := by simpa [Nat.beq_eq] using hk
      rw [this, if_pos (by omega)]; rfl
    · have : Nat.beq e.1 k = false := by rw [Bool.eq_false_iff]; simpa [Nat.beq_eq] using hk
      rw [this, if_neg (by omega), h]; rfl
theorem tab_at {l : List (Nat × Nat)} (hl : ∀ e ∈ l, e.1 ≤ 1114111) (k : Nat) : tab (castE l) (k : Int) = lk l k 0 := tab_lk k l _ 0 hl rfl
def lkP : List Pr5 → Nat → Option Pr5 → Option Pr5
  | [], _, a => a
  | p :: r, k, a => lkP r k (bif Nat.beq p.c k then some p else a)
theorem lastP_at (P : List Pr5) (k : Nat) : lastP P (k : Int) = lkP P k none := by
  have : ∀ (P : List Pr5) (a : Option Pr5), (prK P).foldl (fun acc e => if e.1 = (k : Int) then some e.2 else acc) a = lkP P k a := fun P => by
    induction P with
    | nil => intro a; rfl
    | cons p r ih =>
      intro a
      show (prK r).foldl _ (if (p.c : Int) = (k : Int) then some p else a) = lkP r k _
      rw [ih]
      congr 1
      by_cases hk : p.c = k
      · have : Nat.beq p.c k = true := by simpa [Nat.beq_eq] using hk
        rw [this, if_pos (by omega)]; rfl
      · have : Nat.beq p.c k = false := by rw [Bool.eq_false_iff]; simpa [Nat.beq_eq] using hk
        rw [this, if_neg (by omega)]; rfl
  exact this P none
def lkJ : List Pr5 → Nat → Nat → Option Nat → Option Nat
  | [], _, _, a => a
  | p :: r, x, y, a => lkJ r x y (bif !p.o && (Nat.beq p.x x && Nat.beq p.y y) then some p.c else a)
theorem look_lkJ (x y : Nat) : ∀ (P : List Pr5) (a : Option Nat), (jL P).foldl (fun acc e => if e.1 = [(x : Int), (y : Int)] then some e.2 else acc) (a.map fun (c : Nat) => (c : Int)) = (lkJ P x y a).map fun (c : Nat) => (c : Int)
  | [], a => rfl
  | p :: r, a => by
    have h := look_lkJ x y r
    have hk : (key5 p = [(x : Int), (y : Int)]) ↔ (Nat.beq p.x x && Nat.beq p.y y) = true := by
      unfold key5
      simp [Nat.beq_eq]
      omega
    show (jL (p :: r)).foldl _ _ = ((lkJ r x y (bif !p.o && (Nat.beq p.x x && Nat.beq p.y y) then some p.c else a)).map _)
    cases ho : p.o
    · have e1 : jL (p :: r) = (key5 p, (p.c : Int)) :: jL r := by unfold jL; simp [ho]
      rw [e1, List.foldl_cons, ← h]
      congr 1
      by_cases hb : (Nat.beq p.x x && Nat.beq p.y y) = true
      · rw [if_pos (hk.2 hb), hb]; rfl
      · rw [if_neg (fun e => hb (hk.1 e))]
        have : (Nat.beq p.x x && Nat.beq p.y y) = false := Bool.eq_false_iff.2 hb
        rw [this]; rfl
    · have e1 : jL (p :: r) = jL r := by unfold jL; simp [ho]
      rw [e1, ← h]; rfl
theorem joined_at (P : List Pr5) (x y : Nat) : (decide ([(x : Int), (y : Int)] ∈ (jst P).1) = (lkJ P x y none).isSome) ∧ (if [(x : Int), (y : Int)] ∈ (jst P).1 then (jst P).2 [(x : Int), (y : Int)] else 0) = (((lkJ P x y none).getD 0 : Nat) : Int) := by
  rw [jst_jL]
  obtain ⟨h1, h2⟩ := mst_look (0 : Int) (jL P) [(x : Int), (y : Int)]
  have h3 : look (jL P) [(x : Int), (y : Int)] = (lkJ P x y none).map fun (c : Nat) => (c : Int) := look_lkJ x y P none
  rw [h3] at h1 h2
  cases hj : lkJ P x y none with
  | none =>
    rw [hj] at h1
    have : ¬ [(x : Int), (y : Int)] ∈ (mst 0 (jL P)).1 := fun h => by have := h1.1 h; simp at this
    simp [this]
  | some c =>
    rw [hj] at h1 h2
    have : [(x : Int), (y : Int)] ∈ (mst 0 (jL P)).1 := h1.2 rfl
    simp [this, h2]
theorem kAw : (Nat.beq (lk C5 769 0) 230 && (Nat.beq (lk C5 1456 0) 10 && (Nat.beq (lk S5 8491 0) 197 && (Nat.beq (lk (scL P5) 769 0) 1 && Nat.beq (lk (scL P5) 101 0) 0)))) = true := by kernel_rfl
theorem kAwP : ((lkP P5 233 none).map fun p => (p.x, p.y)) = some (101, 769) := by kernel_rfl
theorem kAwJ : lkJ P5 2325 2364 none = none ∧ lkJ P5 101 769 none = some 233 := ⟨by kernel_rfl, by kernel_rfl⟩
end Go.Proofs.YtdmcidljjfogjaaDoor

/- ucd.Build as a plain call. -/
namespace Go.Proofs.YtdmcidljjfogjaaDoor
open Go.ChangeShapes Go.WideShapes Go.ChangeAt Go.RowKit
set_option linter.unusedVariables false

theorem ubuild_any (w : World) : Calls Tryd.prog 8 #[] w (TPost w C5 P5 S5) :=
  callsIn_wide.1 (ubuild_in Fence.wide wide_is 3 (by omega) K1 K2 K3 kE1 kE2 kE3 f50 f51 f52 f53 w)

theorem TblAt.go {w w' : World} {g : Nat} {C : List (Nat × Nat)} {P : List Pr5} {S : List (Nat × Nat)} (h : TblAt w w.heap.size g C P S) (hb : Below w.heap.size w w') : TblAt w' w'.heap.size g C P S := (h.below hb (Nat.le_refl _)).more hb.size

end Go.Proofs.YtdmcidljjfogjaaDoor

/- What the tables are asked: Joined by its contract. -/
namespace Go.Proofs.YtdmcidljjfogjaaDoor
open Go.ChangeShapes Go.WideShapes Go.ChangeAt Go.RowKit
set_option linter.unusedVariables false
set_option linter.unusedSimpArgs false
section
variable {w : World} {B g : Nat} {C : List (Nat × Nat)} {P : List Pr5} {S : List (Nat × Nat)}

theorem joinedQ (hT : TblAt w B g C P S) (a b : Int) (ha : (Lit.int .i32 a).wf = true) (hb : (Lit.int .i32 b).wf = true) : Calls Tryd.prog 68 #[.pointer (some ⟨g, 0, none⟩), .int .i32 a, .int .i32 b] w fun e w' => e = .returned (.tuple #[.int .i32 (if [a, b] ∈ (jst P).1 then (jst P).2 [a, b] else 0), .bool (decide ([a, b] ∈ (jst P).1))]) ∧ w = w' := by
  obtain ⟨g0, g1, g2, g3, mb, A4, cap4, k0, k1, k2, k3, h⟩ := hT
  have c0 : w.cell? ⟨g, 5, none⟩ = some (.map (some mb)) := h.blk.cell 5
  have HM := Lib.hid h.map
  have HD : Hid (DD [a, b]) := Lib.hid ⟨rfl, fun x hx => by
    simp only [List.mem_cons, List.not_mem_nil, or_false] at hx
    rcases hx with rfl | rfl
    · exact ha
    · exact hb⟩
  clear h ha hb
  generalize hr : (if [a, b] ∈ (jst P).1 then (jst P).2 [a, b] else 0) = r
  generalize hk : decide ([a, b] ∈ (jst P).1) = k
  have HR := Lib.hid hr
  have HK := Lib.hid hk
  clear hr hk
  go_enter Tryd.func68, Tryd.ntmps68
  go_wp2_with (at_lookup; refine wpList_mlook rfl _ _ 49 true rfl 90 21 tkv5 Tryd.underlying49 (zero_i32 _) mb rfl HM.out [a, b] rfl HD.out (.tuple #[.int .i32 r, .bool k]) (by rw [← HR.out, ← HK.out]; by_cases hm : [a, b] ∈ (jst P).1 <;> simp [hm]) ?_)
  go_ret2
  exact ⟨rfl, rfl⟩

end
end Go.Proofs.YtdmcidljjfogjaaDoor

/- What the tables are asked: Second by its contract. -/
namespace Go.Proofs.YtdmcidljjfogjaaDoor
open Go.ChangeShapes Go.WideShapes Go.ChangeAt Go.RowKit
set_option linter.unusedVariables false
set_option linter.unusedSimpArgs false
section
variable {w : World} {B g : Nat} {C : List (Nat × Nat)} {P : List Pr5} {S : List (Nat × Nat)}

theorem secondQ (hT : TblAt w B g C P S) (c : Int) : Calls Tryd.prog 70 #[.pointer (some ⟨g, 0, none⟩), .int .i32 c] w fun e w' => e = .returned (.bool (tab (castE (scL P)) c != 0)) ∧ Still w w' := by
  obtain ⟨g0, g1, g2, g3, mb, A4, cap4, k0, k1, k2, k3, h⟩ := hT
  have c0 : w.cell? ⟨g, 3, none⟩ = some (.pointer (some ⟨g3, 0, none⟩)) := h.blk.cell 3
  have HG := Lib.hid (get_any c _ g3 B k3 w (fun c hc => tab_out _ c (.inl hc)) h.t3)
  clear h
  generalize tab (castE (scL P)) c = v at *
  go_enter Tryd.func70, Tryd.ntmps70
  go_wp2_with fail
  with_reducible refine HG.out.mono ?_
  rintro e w' ⟨rfl, hs⟩
  go_wp2
  go_ret
  exact ⟨rfl, hs⟩

end
end Go.Proofs.YtdmcidljjfogjaaDoor
