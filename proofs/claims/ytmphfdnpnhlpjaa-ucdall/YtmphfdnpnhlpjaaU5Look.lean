/- Layer 5: what is found at a place, by the last entry of it. No program in it. -/
import Derived.Test.YtmphfdnpnhlpjaaU5Data
namespace Go.Proofs.Ytmphfdnpnhlpjaa

/-- the last of these keys' -/
def look {κ ν : Type} [DecidableEq κ] (l : List (κ × ν)) (k : κ) : Option ν := l.foldl (fun acc e => if e.1 = k then some e.2 else acc) none
theorem look_snoc {κ ν : Type} [DecidableEq κ] (l : List (κ × ν)) (e : κ × ν) (k : κ) : look (l ++ [e]) k = if e.1 = k then some e.2 else look l k := by simp [look, List.foldl_append]
theorem look_mem {κ ν : Type} [DecidableEq κ] (l : List (κ × ν)) : ∀ (k : κ) (v : ν), look l k = some v → (k, v) ∈ l := by
  refine snoc_ind (p := fun l => ∀ (k : κ) (v : ν), look l k = some v → (k, v) ∈ l) (fun k v h => by cases h) (fun l e ih k v h => ?_) l
  rw [look_snoc] at h
  split at h
  · rename_i he
    subst he
    obtain rfl := Option.some.inj h
    simp
  · exact List.mem_append.2 (.inl (ih k v h))
theorem look_none {κ ν : Type} [DecidableEq κ] (l : List (κ × ν)) : ∀ (k : κ), look l k = none → k ∉ l.map (·.1) := by
  refine snoc_ind (p := fun l => ∀ (k : κ), look l k = none → k ∉ l.map (·.1)) (fun k h => by simp) (fun l e ih k h => ?_) l
  rw [look_snoc] at h
  split at h
  · cases h
  · rename_i he
    rw [List.map_append, List.mem_append]
    rintro (h1 | h1)
    · exact ih k h h1
    · simp at h1; exact he h1.symm
/-- a table has what the last entry says -/
theorem tab_look (l : List (Int × Int)) : (∀ e ∈ l, isPl e.1 = true) → ∀ c, tab l c = (look l c).getD 0 := by
  refine snoc_ind (p := fun l => (∀ e ∈ l, isPl e.1 = true) → ∀ c, tab l c = (look l c).getD 0) (fun _ _ => rfl) (fun l e ih h c => ?_) l
  have ih' := ih (fun x hx => h x (by simp [hx])) c
  rw [tab_snoc, look_snoc]
  unfold tstep
  rw [if_pos (h e (by simp))]
  unfold upd
  by_cases he : e.1 = c
  · subst he; simp
  · rw [if_neg (fun e' => he e'.symm), if_neg he, ih']
/-- maps by their puts -/
def mput {κ ν : Type} [DecidableEq κ] (s : List κ × (κ → ν)) (e : κ × ν) : List κ × (κ → ν) := (kput s.1 e.1, upd s.2 e.1 e.2)
def mst {κ ν : Type} [DecidableEq κ] (z : ν) (l : List (κ × ν)) : List κ × (κ → ν) := l.foldl mput ([], fun _ => z)
theorem mst_snoc {κ ν : Type} [DecidableEq κ] (z : ν) (l : List (κ × ν)) (e : κ × ν) : mst z (l ++ [e]) = mput (mst z l) e := by simp [mst, List.foldl_append]
theorem mst_look {κ ν : Type} [DecidableEq κ] (z : ν) (l : List (κ × ν)) : ∀ k, (k ∈ (mst z l).1 ↔ (look l k).isSome = true) ∧ (mst z l).2 k = (look l k).getD z := by
  refine snoc_ind (p := fun l => ∀ k, (k ∈ (mst z l).1 ↔ (look l k).isSome = true) ∧ (mst z l).2 k = (look l k).getD z) (fun k => ⟨by simp [mst, look], rfl⟩) (fun l e ih k => ?_) l
  obtain ⟨h1, h2⟩ := ih k
  rw [mst_snoc, look_snoc]
  unfold mput
  refine ⟨?_, ?_⟩
  · rw [kput_mem, h1]
    by_cases he : e.1 = k
    · rw [if_pos he]; simp [he]
    · rw [if_neg he]
      exact ⟨fun h => h.resolve_right (fun e' => he e'.symm), .inl⟩
  · unfold upd
    dsimp only
    by_cases he : e.1 = k
    · rw [if_pos he, if_pos he.symm]; rfl
    · rw [if_neg he, if_neg (fun e' => he e'.symm), h2]

/-- the pairs by their places -/
def prK (P : List Pr5) : List (Int × Pr5) := P.map fun p => ((p.c : Int), p)
def lastP (P : List Pr5) (c : Int) : Option Pr5 := look (prK P) c
theorem lastP_snoc (P : List Pr5) (p : Pr5) (c : Int) : lastP (P ++ [p]) c = if (p.c : Int) = c then some p else lastP P c := by
  unfold lastP prK
  rw [List.map_append]
  exact look_snoc _ _ _
/-- where a table says that a pair is, it is -/
theorem pair_tab (P : List Pr5) : (∀ p ∈ P, p.c ≤ 1114111) → ∀ c, (lastP P c = none ∧ tab (castE (prI 0 P)) c = 0) ∨ ∃ (i : Nat) (p : Pr5), lastP P c = some p ∧ P[i]? = some p ∧ tab (castE (prI 0 P)) c = (i : Int) + 1 := by
  refine snoc_ind (p := fun P => (∀ p ∈ P, p.c ≤ 1114111) → ∀ c, (lastP P c = none ∧ tab (castE (prI 0 P)) c = 0) ∨ ∃ (i : Nat) (p : Pr5), lastP P c = some p ∧ P[i]? = some p ∧ tab (castE (prI 0 P)) c = (i : Int) + 1) (fun _ c => .inl ⟨rfl, rfl⟩) (fun P p ih h c => ?_) P
  have ih' := ih (fun x hx => h x (by simp [hx])) c
  have hp := h p (by simp)
  rw [lastP_snoc, prI_snoc, castE_app]
  have e1 : tab (castE (prI 0 P) ++ castE [(p.c, 0 + P.length + 1)]) = tstep (tab (castE (prI 0 P))) ((p.c : Int), ((0 + P.length + 1 : Nat) : Int)) := tab_snoc _ _
  rw [e1]
  unfold tstep
  rw [if_pos (isPl_iff.2 ⟨by omega, by show (p.c : Int) ≤ _; omega⟩)]
  unfold upd
  dsimp only
  by_cases he : (p.c : Int) = c
  · rw [if_pos he, if_pos he.symm]
    exact .inr ⟨P.length, p, rfl, by simp, by simp⟩
  · rw [if_neg he, if_neg (fun e' => he e'.symm)]
    rcases ih' with h1 | ⟨i, q, h1, h2, h3⟩
    · exact .inl h1
    · refine .inr ⟨i, q, h1, ?_, h3⟩
      rw [List.getElem?_append_left (List.getElem?_eq_some_iff.1 h2).1]; exact h2
def pxF (P : List Pr5) (c : Int) : Int := ((lastP P c).map fun p => (p.x : Int)).getD 0
def pyF (P : List Pr5) (c : Int) : Int := ((lastP P c).map fun p => (p.y : Int)).getD 0
def pkF (P : List Pr5) (c : Int) : Bool := (lastP P c).isSome
end Go.Proofs.Ytmphfdnpnhlpjaa
