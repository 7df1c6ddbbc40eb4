/- Layer 5: what is true of lists of pairs and singles that pass some tests. No program in it. -/
import Derived.Test.YtmphfdnpnhlpjaaU5Look
namespace Go.Proofs.Ytmphfdnpnhlpjaa

/-! ### sets of numbers as one number -/
def bitsOf : List Nat → Nat → Nat
  | [], a => a
  | k :: r, a => bitsOf r (a ||| (1 <<< k))
theorem bitsOf_mem (c : Nat) : ∀ (l : List Nat) (a : Nat), (bitsOf l a).testBit c = (a.testBit c || l.contains c)
  | [], a => by simp [bitsOf]
  | k :: r, a => by
    show (bitsOf r (a ||| (1 <<< k))).testBit c = _
    rw [bitsOf_mem c r, Nat.testBit_or, Nat.one_shiftLeft, Nat.testBit_two_pow, List.contains_cons]
    by_cases h : c = k
    · subst h; simp
    · have h1 : (c == k) = false := by simpa using h
      have h2 : decide (k = c) = false := by simpa using fun e => h e.symm
      rw [h1, h2]; simp
theorem bits_iff (l : List Nat) (c : Nat) : (bitsOf l 0).testBit c = true ↔ c ∈ l := by rw [bitsOf_mem]; simp
/-- a test of a bit, as the kernel reckons it -/
def hasBit (a c : Nat) : Bool := Nat.beq ((a >>> c) % 2) 1
theorem hasBit_eq (a c : Nat) : hasBit a c = a.testBit c := by
  unfold hasBit
  rw [Nat.testBit, Nat.one_and_eq_mod_two]
  have := Nat.mod_two_eq_zero_or_one (a >>> c)
  rcases this with h | h <;> rw [h] <;> rfl
theorem has_iff (l : List Nat) (c : Nat) : hasBit (bitsOf l 0) c = true ↔ c ∈ l := by rw [hasBit_eq]; exact bits_iff l c
/-- no number twice -/
def onceB : List Nat → Nat → Bool
  | [], _ => true
  | k :: r, a => !hasBit a k && onceB r (a ||| (1 <<< k))
theorem onceB_spec : ∀ (l : List Nat) (a : Nat), onceB l a = true → l.Nodup ∧ ∀ k ∈ l, a.testBit k = false
  | [], _, _ => ⟨List.nodup_nil, by simp⟩
  | k :: r, a, h => by
    simp only [onceB, Bool.and_eq_true, Bool.not_eq_true', hasBit_eq] at h
    obtain ⟨h1, h2⟩ := onceB_spec r _ h.2
    refine ⟨List.nodup_cons.2 ⟨fun hk => ?_, h1⟩, fun j hj => ?_⟩
    · have := h2 k hk
      rw [Nat.testBit_or, Nat.one_shiftLeft, Nat.testBit_two_pow_self] at this
      simp at this
    · rcases List.mem_cons.1 hj with rfl | hj
      · exact h.1
      · have := h2 j hj
        rw [Nat.testBit_or] at this
        simp only [Bool.or_eq_false_iff] at this
        exact this.1
theorem once_inj {α : Type} {f : α → Nat} : ∀ {l : List α}, (l.map f).Nodup → ∀ a ∈ l, ∀ b ∈ l, f a = f b → a = b
  | [], _, a, ha, _, _, _ => by cases ha
  | x :: r, h, a, ha, b, hb, e => by
    obtain ⟨h1, h2⟩ := List.nodup_cons.1 h
    rcases List.mem_cons.1 ha with ea | ha1
    · rcases List.mem_cons.1 hb with eb | hb1
      · rw [ea, eb]
      · exact absurd (by rw [← ea, e]; exact List.mem_map_of_mem hb1) h1
    · rcases List.mem_cons.1 hb with eb | hb1
      · exact absurd (by rw [← eb, ← e]; exact List.mem_map_of_mem ha1) h1
      · exact once_inj h2 a ha1 b hb1 e

/-! ### how long a way from place to place is -/
def stepL (L : List (Nat × Nat)) : List (Nat × Nat) := L.filter fun e => hasBit (bitsOf (L.map (·.1)) 0) e.2
theorem stepL_mem {L : List (Nat × Nat)} {e : Nat × Nat} : e ∈ stepL L ↔ e ∈ L ∧ e.2 ∈ L.map (·.1) := by
  unfold stepL
  rw [List.mem_filter, has_iff]
/-- L4 is empty: no five steps -/
theorem no_five {L : List (Nat × Nat)} (h : stepL (stepL (stepL (stepL L))) = []) {c0 c1 c2 c3 c4 c5 : Nat} (h0 : (c0, c1) ∈ L) (h1 : (c1, c2) ∈ L) (h2 : (c2, c3) ∈ L) (h3 : (c3, c4) ∈ L) (h4 : (c4, c5) ∈ L) : False := by
  have m : ∀ {M : List (Nat × Nat)} {a b c : Nat}, (a, b) ∈ M → (b, c) ∈ M → (a, b) ∈ stepL M := fun ha hb => stepL_mem.2 ⟨ha, List.mem_map_of_mem (f := (·.1)) hb⟩
  have x0 := m h0 h1
  have x1 := m h1 h2
  have x2 := m h2 h3
  have x3 := m h3 h4
  have y0 := m x0 x1
  have y1 := m x1 x2
  have y2 := m x2 x3
  have z0 := m y0 y1
  have z1 := m y1 y2
  have t0 := m z0 z1
  rw [h] at t0
  cases t0

/-! ### by the lists -/
theorem lastP_some {P : List Pr5} {c : Int} {p : Pr5} (h : lastP P c = some p) : p ∈ P ∧ (p.c : Int) = c := by
  have := look_mem _ _ _ h
  unfold prK at this
  obtain ⟨q, hq, e⟩ := List.mem_map.1 this
  injection e with e1 e2
  subst e2
  exact ⟨hq, e1⟩
theorem lastP_none {P : List Pr5} {c : Int} (h : lastP P c = none) : ∀ p ∈ P, (p.c : Int) ≠ c := by
  intro p hp e
  refine look_none _ _ h ?_
  unfold prK
  rw [List.map_map]
  exact List.mem_map.2 ⟨p, hp, e⟩
/-- by the last one of a place, where places are there once -/
theorem lastP_once {P : List Pr5} (hn : (P.map (·.c)).Nodup) {p : Pr5} (hp : p ∈ P) : lastP P p.c = some p := by
  cases h : lastP P (p.c : Int) with
  | none => exact absurd rfl (lastP_none h p hp)
  | some q =>
    obtain ⟨hq, e⟩ := lastP_some h
    rw [once_inj hn q hq p hp (by omega)]
theorem castE_mem {l : List (Nat × Nat)} {e : Int × Int} : e ∈ castE l ↔ ∃ x ∈ l, ((x.1 : Int), (x.2 : Int)) = e := by
  unfold castE; exact List.mem_map
theorem tab_nz {l : List (Nat × Nat)} (hp : ∀ e ∈ l, e.1 ≤ 1114111) {c : Int} (h : tab (castE l) c ≠ 0) : ∃ e ∈ l, (e.1 : Int) = c ∧ tab (castE l) c = e.2 := by
  rw [tab_look _ (fun e he => by obtain ⟨x, hx, rfl⟩ := castE_mem.1 he; exact isPl_iff.2 ⟨by dsimp only; omega, by have := hp x hx; dsimp only; omega⟩)] at h ⊢
  cases hl : look (castE l) c with
  | none => rw [hl] at h; exact absurd rfl h
  | some v =>
    obtain ⟨x, hx, e⟩ := castE_mem.1 (look_mem _ _ _ hl)
    injection e with e1 e2
    exact ⟨x, hx, e1, by rw [← e2]; rfl⟩
theorem tab_z {l : List (Nat × Nat)} (hp : ∀ e ∈ l, e.1 ≤ 1114111) (hz : ∀ e ∈ l, e.2 ≠ 0) {c : Int} (h : tab (castE l) c = 0) : ∀ e ∈ l, (e.1 : Int) ≠ c := by
  rw [tab_look _ (fun e he => by obtain ⟨x, hx, rfl⟩ := castE_mem.1 he; exact isPl_iff.2 ⟨by dsimp only; omega, by have := hp x hx; dsimp only; omega⟩)] at h
  intro e he e1
  cases hl : look (castE l) c with
  | none =>
    refine look_none _ _ hl ?_
    unfold castE
    rw [List.map_map]
    exact List.mem_map.2 ⟨e, he, e1⟩
  | some v =>
    rw [hl] at h
    obtain ⟨x, hx, e'⟩ := castE_mem.1 (look_mem _ _ _ hl)
    injection e' with e1 e2
    have := hz x hx
    simp only [Option.getD_some] at h
    omega
theorem scL_mem {P : List Pr5} {e : Nat × Nat} : e ∈ scL P ↔ ∃ p ∈ P, p.o = false ∧ e = (p.y, 1) := by
  induction P with
  | nil => simp [scL]
  | cons p r ih =>
    show e ∈ (bif p.o then scL r else (p.y, 1) :: scL r) ↔ _
    cases ho : p.o
    · simp only [cond_false, List.mem_cons, ih]
      constructor
      · rintro (rfl | ⟨q, hq, h1, h2⟩)
        · exact ⟨p, .inl rfl, ho, rfl⟩
        · exact ⟨q, .inr hq, h1, h2⟩
      · rintro ⟨q, (rfl | hq), h1, h2⟩
        · exact .inl h2
        · exact .inr ⟨q, hq, h1, h2⟩
    · simp only [cond_true, ih]
      constructor
      · rintro ⟨q, hq, h1, h2⟩; exact ⟨q, List.mem_cons_of_mem _ hq, h1, h2⟩
      · rintro ⟨q, hq, h1, h2⟩
        rcases List.mem_cons.1 hq with rfl | hq
        · rw [ho] at h1; cases h1
        · exact ⟨q, hq, h1, h2⟩
/-- what is joined, by a pair that is not left out -/
def jL (P : List Pr5) : List (List Int × Int) := (P.filter fun p => !p.o).map fun p => (key5 p, (p.c : Int))
theorem jst_jL (P : List Pr5) : jst P = mst 0 (jL P) := by
  refine snoc_ind (p := fun P => jst P = mst 0 (jL P)) rfl (fun P p ih => ?_) P
  rw [jst_snoc, ih]
  unfold jL jstep
  rw [List.filter_append, List.map_append]
  cases ho : p.o
  · simp only [List.filter_cons, ho, Bool.not_false, if_true, List.filter_nil, List.map_cons, List.map_nil, cond_false]
    rw [mst_snoc]; rfl
  · simp [ho]
theorem jst_in {P : List Pr5} {k : List Int} (h : k ∈ (jst P).1) : ∃ p ∈ P, p.o = false ∧ key5 p = k ∧ (jst P).2 k = p.c := by
  rw [jst_jL] at h ⊢
  obtain ⟨h1, h2⟩ := mst_look (0 : Int) (jL P) k
  cases hl : look (jL P) k with
  | none => rw [hl] at h1; exact absurd (h1.1 h) (by simp)
  | some v =>
    rw [hl] at h2
    have := look_mem _ _ _ hl
    unfold jL at this
    obtain ⟨p, hp, e⟩ := List.mem_map.1 this
    obtain ⟨hp1, hp2⟩ := List.mem_filter.1 hp
    injection e with e1 e2
    exact ⟨p, hp1, by simpa using hp2, e1, by rw [h2, ← e2]; rfl⟩
end Go.Proofs.Ytmphfdnpnhlpjaa
