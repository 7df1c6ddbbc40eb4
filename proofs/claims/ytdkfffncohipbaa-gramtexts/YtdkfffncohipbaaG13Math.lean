/- What may come in a text of tokens: where it stands, and the ends of what is open. Mathematics, no program. -/
import Derived.WalkKit
import Derived.ProofKit
import Derived.KernelRfl
namespace Go.Proofs.Ytdkfffncohipbaa
set_option linter.unusedVariables false

/-- the place (0 a value is wanted, 1 behind what opens a list, 2 behind what opens an object, 3 a name, 4 behind a name, 5 behind a value) and the ends of what is open, the innermost's last -/
structure Gm where
  p : Int
  s : List Int
def gm0 : Gm := ⟨0, []⟩
def bvB (k : Int) : Bool := k == 1 || (k == 2 || (k == 3 || (k == 4 || (k == 5 || (k == 6 || k == 8)))))
def lastV (s : List Int) : Int := s.getLastD 0
def mayB (g : Gm) (k : Int) : Bool :=
  if g.p = 0 then bvB k else if g.p = 1 then (k == 7 || bvB k) else if g.p = 2 then (k == 9 || k == 5) else if g.p = 3 then k == 5 else if g.p = 4 then k == 10
  else (!g.s.isEmpty && (k == 11 || k == lastV g.s))
def nextP (g : Gm) (k : Int) : Int :=
  if k = 6 then 1 else if k = 8 then 2 else if k = 11 then (if lastV g.s = 9 then 3 else 0) else if k = 10 then 0 else if k = 5 ∧ (g.p = 2 ∨ g.p = 3) then 4 else 5
def nextS (s : List Int) (k : Int) : List Int := if k = 6 then s ++ [7] else if k = 8 then s ++ [9] else if k = 7 ∨ k = 9 then s.dropLast else s
def tkG (g : Gm) (k : Int) : Gm := if mayB g k = true then ⟨nextP g k, nextS g.s k⟩ else g
def endB (g : Gm) : Bool := g.p == 5 && g.s.isEmpty
def nameB (g : Gm) : Bool := g.p == 2 || g.p == 3

structure GOk (g : Gm) : Prop where
  lo : 0 ≤ g.p
  hi : g.p ≤ 5
  el : ∀ x ∈ g.s, x = 7 ∨ x = 9
  li : g.p = 1 → g.s ≠ [] ∧ lastV g.s = 7
  ob : (g.p = 2 ∨ g.p = 3 ∨ g.p = 4) → g.s ≠ [] ∧ lastV g.s = 9
theorem gok_p (p : Int) (hp : p = 0 ∨ p = 5) (s : List Int) (h : ∀ x ∈ s, x = 7 ∨ x = 9) : GOk ⟨p, s⟩ :=
  ⟨by dsimp only; omega, by dsimp only; omega, h, fun e => (by dsimp only at e; omega), fun e => (by dsimp only at e; omega)⟩
theorem gok_0 : GOk gm0 := gok_p 0 (.inl rfl) [] (fun x h => by cases h)
theorem last_mem {s : List Int} (h : s ≠ []) : lastV s ∈ s := by
  unfold lastV
  rw [List.getLastD_eq_getLast?, List.getLast?_eq_some_getLast h]
  exact List.getLast_mem h
theorem last_snoc (s : List Int) (x : Int) : lastV (s ++ [x]) = x := by unfold lastV; simp
theorem last_eq {s : List Int} (h : s ≠ []) : lastV s = s.getD (s.length - 1) 0 := by
  unfold lastV
  rw [List.getLastD_eq_getLast?, List.getLast?_eq_getElem?, List.getD_eq_getElem?_getD]
theorem bv_kinds {k : Int} (h : bvB k = true) : k = 1 ∨ k = 2 ∨ k = 3 ∨ k = 4 ∨ k = 5 ∨ k = 6 ∨ k = 8 := by
  unfold bvB at h; simpa using h
theorem last_kind {g : Gm} (h : GOk g) (hn : g.s ≠ []) : lastV g.s = 7 ∨ lastV g.s = 9 := h.el _ (last_mem hn)
/-- which kinds may stand where -/
theorem may_cases {g : Gm} (hg : GOk g) {k : Int} (h : mayB g k = true) :
    ((g.p = 0 ∨ g.p = 1) ∧ (k = 1 ∨ k = 2 ∨ k = 3 ∨ k = 4 ∨ k = 5 ∨ k = 6 ∨ k = 8)) ∨ (k = lastV g.s ∧ g.s ≠ [] ∧ (k = 7 ∨ k = 9)) ∨ ((g.p = 2 ∨ g.p = 3) ∧ k = 5) ∨ (g.p = 4 ∧ k = 10) ∨ (g.p = 5 ∧ g.s ≠ [] ∧ k = 11) := by
  have lo := hg.lo
  have hi := hg.hi
  unfold mayB at h
  split at h
  · exact .inl ⟨.inl ‹_›, bv_kinds h⟩
  · split at h
    · have h1 := hg.li ‹_›
      rcases (Bool.or_eq_true _ _).mp h with e | e
      · have e := eq_of_beq e
        exact .inr (.inl ⟨by rw [e, h1.2], h1.1, .inl e⟩)
      · exact .inl ⟨.inr ‹_›, bv_kinds e⟩
    · split at h
      · have h1 := hg.ob (.inl ‹_›)
        rcases (Bool.or_eq_true _ _).mp h with e | e
        · have e := eq_of_beq e
          exact .inr (.inl ⟨by rw [e, h1.2], h1.1, .inr e⟩)
        · exact .inr (.inr (.inl ⟨.inl ‹_›, eq_of_beq e⟩))
      · split at h
        · exact .inr (.inr (.inl ⟨.inr ‹_›, eq_of_beq h⟩))
        · split at h
          · exact .inr (.inr (.inr (.inl ⟨‹_›, eq_of_beq h⟩)))
          · have h1 := (Bool.and_eq_true _ _).mp h
            have hn : g.s ≠ [] := fun e => by rw [e] at h1; exact absurd h1.1 (by decide)
            rcases (Bool.or_eq_true _ _).mp h1.2 with e | e
            · exact .inr (.inr (.inr (.inr ⟨by omega, hn, eq_of_beq e⟩)))
            · have e := eq_of_beq e
              exact .inr (.inl ⟨e, hn, by rw [e]; exact last_kind hg hn⟩)
theorem drop_el {s : List Int} (h : ∀ x ∈ s, x = 7 ∨ x = 9) : ∀ x ∈ s.dropLast, x = 7 ∨ x = 9 := fun x hx => h x (List.dropLast_subset s hx)
theorem tk_yes {g : Gm} {k : Int} (h : mayB g k = true) : tkG g k = ⟨nextP g k, nextS g.s k⟩ := by unfold tkG; rw [if_pos h]
theorem tk_no {g : Gm} {k : Int} (h : mayB g k = false) : tkG g k = g := by unfold tkG; rw [if_neg (by rw [h]; decide)]
theorem snoc_el {s : List Int} (h : ∀ x ∈ s, x = 7 ∨ x = 9) {e : Int} (he : e = 7 ∨ e = 9) : ∀ x ∈ s ++ [e], x = 7 ∨ x = 9 := fun x hx => by
  rcases List.mem_append.1 hx with hx | hx
  · exact h x hx
  · have : x = e := by simpa using hx
    rw [this]; exact he
theorem tk_ok {g : Gm} (hg : GOk g) (k : Int) : GOk (tkG g k) := by
  cases h : mayB g k with
  | false => rw [tk_no h]; exact hg
  | true =>
    rw [tk_yes h]
    rcases may_cases hg h with ⟨hp, hk⟩ | ⟨hk, hn, hk2⟩ | ⟨hp, rfl⟩ | ⟨hp, rfl⟩ | ⟨hp, hn, rfl⟩
    · have e3 : ¬ (g.p = 2 ∨ g.p = 3) := by omega
      rcases hk with rfl | rfl | rfl | rfl | rfl | rfl | rfl
      iterate 4 exact gok_p 5 (.inr rfl) _ hg.el
      · have e : nextP g 5 = 5 := by unfold nextP; simp [e3]
        rw [e]
        exact gok_p 5 (.inr rfl) _ hg.el
      · exact ⟨by show (0 : Int) ≤ 1; decide, by show (1 : Int) ≤ 5; decide, snoc_el hg.el (.inl rfl), fun _ => ⟨by show g.s ++ [7] ≠ []; simp, last_snoc _ _⟩, fun h => (by have h : (1 : Int) = 2 ∨ (1 : Int) = 3 ∨ (1 : Int) = 4 := h; omega)⟩
      · exact ⟨by show (0 : Int) ≤ 2; decide, by show (2 : Int) ≤ 5; decide, snoc_el hg.el (.inr rfl), fun h => (by have h : (2 : Int) = 1 := h; omega), fun _ => ⟨by show g.s ++ [9] ≠ []; simp, last_snoc _ _⟩⟩
    · have e : nextP g k = 5 := by unfold nextP; rcases hk2 with rfl | rfl <;> simp
      have e2 : nextS g.s k = g.s.dropLast := by unfold nextS; rcases hk2 with rfl | rfl <;> simp
      rw [e, e2]
      exact gok_p 5 (.inr rfl) _ (drop_el hg.el)
    · have e : nextP g 5 = 4 := by unfold nextP; simp [hp]
      rw [e]
      exact ⟨by show (0 : Int) ≤ 4; decide, by show (4 : Int) ≤ 5; decide, hg.el, fun h => (by have h : (4 : Int) = 1 := h; omega), fun _ => hg.ob (by omega)⟩
    · exact gok_p 0 (.inl rfl) _ hg.el
    · have e : nextP g 11 = if lastV g.s = 9 then 3 else 0 := by unfold nextP; simp
      have e2 : nextS g.s 11 = g.s := by unfold nextS; simp
      rw [e, e2]
      by_cases h9 : lastV g.s = 9
      · rw [if_pos h9]
        exact ⟨by show (0 : Int) ≤ 3; decide, by show (3 : Int) ≤ 5; decide, hg.el, fun h => (by have h : (3 : Int) = 1 := h; omega), fun _ => ⟨hn, h9⟩⟩
      · rw [if_neg h9]
        exact gok_p 0 (.inl rfl) _ hg.el
theorem tk_len (g : Gm) (k : Int) : (tkG g k).s.length ≤ g.s.length + 1 := by
  unfold tkG
  split
  · show (nextS g.s k).length ≤ _
    unfold nextS
    repeat' split
    all_goals simp <;> omega
  · omega
theorem ok_empty {g : Gm} (hg : GOk g) (h : g.s = []) : g.p = 0 ∨ g.p = 5 := by
  have lo := hg.lo
  have hi := hg.hi
  have h1 : g.p ≠ 1 := fun e => (hg.li e).1 h
  have h2 : ¬ (g.p = 2 ∨ g.p = 3 ∨ g.p = 4) := fun e => (hg.ob e).1 h
  omega
end Go.Proofs.Ytdkfffncohipbaa
