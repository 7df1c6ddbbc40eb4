/- Plain mathematics of layer 3 (utf16): no Go text in sight. -/
import Derived.Test.YtmidoopapfkilaaScalarMath
namespace Go.Proofs.Ytmidoopapfkilaa

def un1 (c : Int) : List Int := if isB c then (if c < 65536 then [c] else [55296 + (c - 65536) / 1024, 56320 + (c - 65536) % 1024]) else []
def uns (l : List Int) : List Int := l.flatMap un1
def pairB (h l : Int) : Bool := decide ((55296 ≤ h ∧ h ≤ 56319) ∧ 56320 ≤ l ∧ l ≤ 57343)
def joinI (h l : Int) : Int := 65536 + (h - 55296) * 1024 + (l - 56320)
def U16s (u : List Int) : Prop := ∀ x ∈ u, 0 ≤ x ∧ x ≤ 65535
theorem U16s.at {u : List Int} (h : U16s u) {k : Nat} (hk : k < u.length) : 0 ≤ u.getD k 0 ∧ u.getD k 0 ≤ 65535 := by
  rw [List.getD_eq_getElem?_getD, List.getElem?_eq_getElem hk]; exact h _ (List.getElem_mem hk)
theorem U16s.app {u v : List Int} (h : U16s u) (g : U16s v) : U16s (u ++ v) := fun x hx => (List.mem_append.1 hx).elim (h x) (g x)

theorem un1_one {c : Int} (h : isB c = true) (g : c < 65536) : un1 c = [c] := by simp [un1, h, g]
theorem un1_two {c : Int} (h : 65536 ≤ c) (g : c ≤ 1114111) : un1 c = [55296 + (c - 65536) / 1024, 56320 + (c - 65536) % 1024] := by
  have : isB c = true := decide_eq_true (by omega)
  have h' : ¬ c < 65536 := by omega
  simp [un1, this, h']
theorem un1_none {c : Int} (h : isB c = false) : un1 c = [] := by simp [un1, h]
theorem un1_cases (c : Int) : (isB c = false ∧ un1 c = []) ∨ (isB c = true ∧ c < 65536 ∧ un1 c = [c]) ∨ (65536 ≤ c ∧ c ≤ 1114111 ∧ un1 c = [55296 + (c - 65536) / 1024, 56320 + (c - 65536) % 1024]) := by
  cases h : isB c with
  | false => exact .inl ⟨rfl, un1_none h⟩
  | true =>
    have h' := of_decide_eq_true h
    by_cases hc : c < 65536
    · exact .inr (.inl ⟨rfl, hc, un1_one h hc⟩)
    · exact .inr (.inr ⟨by omega, by omega, un1_two (by omega) (by omega)⟩)
theorem un1_len (c : Int) : (un1 c).length ≤ 2 := by
  rcases un1_cases c with ⟨_, e⟩ | ⟨_, _, e⟩ | ⟨_, _, e⟩ <;> rw [e] <;> simp
theorem un1_units (c : Int) : ((un1 c).length : Int) = unitsI c := by
  rcases un1_cases c with ⟨h, e⟩ | ⟨h, g, e⟩ | ⟨h, g, e⟩
  · rw [e]; simp [unitsI, h]
  · have : ¬ 65536 ≤ c := by omega
    rw [e]; simp [unitsI, h, this]
  · have : isB c = true := decide_eq_true (by omega)
    rw [e]; simp [unitsI, h, this]
theorem un1_u16 (c : Int) : U16s (un1 c) := by
  intro x hx
  rcases un1_cases c with ⟨h, e⟩ | ⟨h, g, e⟩ | ⟨h, g, e⟩
  · rw [e] at hx; simp at hx
  · have := of_decide_eq_true h
    rw [e] at hx; simp at hx; omega
  · rw [e] at hx; simp at hx; omega
theorem uns_nil : uns [] = [] := rfl
theorem uns_app (a b : List Int) : uns (a ++ b) = uns a ++ uns b := by simp [uns]
theorem uns_cons (c : Int) (l : List Int) : uns (c :: l) = un1 c ++ uns l := by simp [uns]
theorem uns_u16 (l : List Int) : U16s (uns l) := by
  intro x hx
  simp only [uns, List.mem_flatMap] at hx
  obtain ⟨c, _, hx⟩ := hx
  exact un1_u16 c x hx
theorem uns_len (l : List Int) : (uns l).length ≤ 2 * l.length := by
  induction l with
  | nil => simp [uns]
  | cons c l ih => rw [uns_cons, List.length_append, List.length_cons]; have := un1_len c; omega
theorem take_snoc (l : List Int) (k : Nat) (hk : k < l.length) : l.take (k + 1) = l.take k ++ [l.getD k 0] := by
  rw [List.getD_eq_getElem?_getD, List.getElem?_eq_getElem hk, List.take_add_one, List.getElem?_eq_getElem hk]; rfl
theorem uns_snoc (l : List Int) (k : Nat) (hk : k < l.length) : uns (l.take (k + 1)) = uns (l.take k) ++ un1 (l.getD k 0) := by
  rw [take_snoc l k hk, uns_app]; simp [uns]
theorem uns_take_len (l : List Int) (k : Nat) (hk : k < l.length) : (uns (l.take k)).length + (un1 (l.getD k 0)).length ≤ (uns l).length := by
  have h : uns l = uns (l.take (k + 1)) ++ uns (l.drop (k + 1)) := by rw [← uns_app, List.take_append_drop]
  rw [h, uns_snoc l k hk]; simp
theorem uns_take_pre (l : List Int) (k : Nat) (hk : k < l.length) {q : List Int} (hq : q <+: un1 (l.getD k 0)) : uns (l.take k) ++ q <+: uns l := by
  have h : uns l = uns (l.take (k + 1)) ++ uns (l.drop (k + 1)) := by rw [← uns_app, List.take_append_drop]
  rw [h, uns_snoc l k hk, List.append_assoc]
  obtain ⟨r, hr⟩ := hq
  exact ⟨r ++ uns (l.drop (k + 1)), by rw [← hr]; simp⟩

/-- scalars of units: by how far they have been read -/
def scA (u : List Int) : Nat → Nat → List Int → List Int × Nat × Bool
  | 0, n, l => (l, n, true)
  | f + 1, n, l => if n < u.length then
      (if isB (u.getD n 0) then scA u f (n + 1) (l ++ [u.getD n 0])
       else if n + 1 < u.length ∧ pairB (u.getD n 0) (u.getD (n + 1) 0) = true then scA u f (n + 2) (l ++ [joinI (u.getD n 0) (u.getD (n + 1) 0)])
       else ([], n, false))
    else (l, n, true)
def scS (u : List Int) : List Int × Nat × Bool := scA u (u.length + 1) 0 []
def ScAt (u : List Int) (n : Nat) (l : List Int) : Prop := n ≤ u.length ∧ l.length ≤ n ∧ ∃ f, u.length - n < f ∧ scA u f n l = scS u
theorem ScAt.start (u : List Int) : ScAt u 0 [] := ⟨Nat.zero_le _, Nat.le_refl _, u.length + 1, by omega, rfl⟩
theorem ScAt.one {u : List Int} {n : Nat} {l : List Int} (h : ScAt u n l) (hn : n < u.length) (hi : isB (u.getD n 0) = true) : ScAt u (n + 1) (l ++ [u.getD n 0]) := by
  obtain ⟨h1, h2, f, hf, he⟩ := h
  refine ⟨hn, by simp; omega, f - 1, by omega, ?_⟩
  obtain ⟨g, rfl⟩ : ∃ g, f = g + 1 := ⟨f - 1, by omega⟩
  rw [← he, scA, if_pos hn, if_pos hi]; rfl
theorem ScAt.two {u : List Int} {n : Nat} {l : List Int} (h : ScAt u n l) (hn : n + 1 < u.length) (hp : pairB (u.getD n 0) (u.getD (n + 1) 0) = true) : ScAt u (n + 2) (l ++ [joinI (u.getD n 0) (u.getD (n + 1) 0)]) := by
  obtain ⟨h1, h2, f, hf, he⟩ := h
  have hb : ¬ isB (u.getD n 0) = true := by
    intro hh
    have a := of_decide_eq_true hh
    have b := of_decide_eq_true hp
    omega
  refine ⟨hn, by simp; omega, f - 1, by omega, ?_⟩
  obtain ⟨g, rfl⟩ : ∃ g, f = g + 1 := ⟨f - 1, by omega⟩
  rw [← he, scA, if_pos (by omega : n < u.length), if_neg hb, if_pos ⟨hn, hp⟩]; rfl
theorem ScAt.fail {u : List Int} {n : Nat} {l : List Int} (h : ScAt u n l) (hn : n < u.length) (hi : isB (u.getD n 0) = false) (hp : n + 1 < u.length → pairB (u.getD n 0) (u.getD (n + 1) 0) = false) : scS u = ([], n, false) := by
  obtain ⟨h1, h2, f, hf, he⟩ := h
  obtain ⟨g, rfl⟩ : ∃ g, f = g + 1 := ⟨f - 1, by omega⟩
  have hc : ¬ (n + 1 < u.length ∧ pairB (u.getD n 0) (u.getD (n + 1) 0) = true) := by
    rintro ⟨a, b⟩; rw [hp a] at b; cases b
  rw [← he, scA, if_pos hn, if_neg (by rw [hi]; simp), if_neg hc]
theorem ScAt.done {u : List Int} {n : Nat} {l : List Int} (h : ScAt u n l) (hn : u.length ≤ n) : scS u = (l, n, true) := by
  obtain ⟨h1, h2, f, hf, he⟩ := h
  obtain ⟨g, rfl⟩ : ∃ g, f = g + 1 := ⟨f - 1, by omega⟩
  rw [← he, scA, if_neg (by omega)]
theorem isB_u16 {x : Int} (h0 : 0 ≤ x) (h1 : x ≤ 65535) : isB x = !(highB x || lowB x) := by
  unfold isB highB lowB
  by_cases a : 55296 ≤ x ∧ x ≤ 56319
  · rw [decide_eq_true a, decide_eq_false (by omega)]; rfl
  · by_cases b : 56320 ≤ x ∧ x ≤ 57343
    · rw [decide_eq_false a, decide_eq_true b, decide_eq_false (by omega)]; rfl
    · rw [decide_eq_false a, decide_eq_false b, decide_eq_true (by omega)]; rfl
theorem join_units {h l : Int} (hp : pairB h l = true) : unitsI (joinI h l) = 2 := by
  have := of_decide_eq_true hp
  have a : isB (joinI h l) = true := decide_eq_true (by unfold joinI; omega)
  have b : 65536 ≤ joinI h l := by unfold joinI; omega
  simp [unitsI, a, b]
theorem one_units {x : Int} (h : isB x = true) (h1 : x ≤ 65535) : unitsI x = 1 := by
  have : ¬ 65536 ≤ x := by omega
  simp [unitsI, h, this]

/-- rows by their first unlike place -/
def cmpL : List Int → List Int → Int
  | [], [] => 0
  | [], _ :: _ => -1
  | _ :: _, [] => 1
  | x :: xs, y :: ys => if x < y then -1 else if y < x then 1 else cmpL xs ys
theorem cmpL_pre (p a b : List Int) : cmpL (p ++ a) (p ++ b) = cmpL a b := by
  induction p with
  | nil => rfl
  | cons x p ih =>
    simp only [List.cons_append, cmpL]
    rw [if_neg (by omega), if_neg (by omega)]; exact ih
theorem cmpL_nil_left {b : List Int} (h : b ≠ []) : cmpL [] b = -1 := by
  cases b with
  | nil => exact absurd rfl h
  | cons y b => rfl
theorem cmpL_cons_nil (x : Int) (a : List Int) : cmpL (x :: a) [] = 1 := rfl
def cmpI (x y : Int) : Int := if x < y then -1 else if y < x then 1 else 0
theorem cmpL_ne {x y : Int} (h : x ≠ y) (a b : List Int) : cmpL (x :: a) (y :: b) = cmpI x y := by
  unfold cmpL cmpI
  by_cases h1 : x < y
  · rw [if_pos h1, if_pos h1]
  · have h2 : y < x := by omega
    rw [if_neg h1, if_pos h2, if_neg h1, if_pos h2]
theorem cmpL_refl (a : List Int) : cmpL a a = 0 := by
  have := cmpL_pre a [] []
  simpa [cmpL] using this
theorem cmpL_bd (a b : List Int) : cmpL a b = -1 ∨ cmpL a b = 0 ∨ cmpL a b = 1 := by
  induction a generalizing b with
  | nil => cases b <;> simp [cmpL]
  | cons x a ih =>
    cases b with
    | nil => simp [cmpL]
    | cons y b =>
      simp only [cmpL]
      split
      · simp
      · split
        · simp
        · exact ih b
theorem cmpL_eq {a b : List Int} (h : cmpL a b = 0) : a = b := by
  induction a generalizing b with
  | nil => cases b with
    | nil => rfl
    | cons y b => simp [cmpL] at h
  | cons x a ih =>
    cases b with
    | nil => simp [cmpL] at h
    | cons y b =>
      simp only [cmpL] at h
      split at h
      · simp at h
      · split at h
        · simp at h
        · have e : x = y := by omega
          rw [e, ih h]
theorem cmpL_neg (a b : List Int) : cmpL b a = -cmpL a b := by
  induction a generalizing b with
  | nil => cases b <;> simp [cmpL]
  | cons x a ih =>
    cases b with
    | nil => simp [cmpL]
    | cons y b =>
      simp only [cmpL]
      by_cases h1 : x < y
      · rw [if_pos h1, if_neg (by omega), if_pos h1]; rfl
      · by_cases h2 : y < x
        · simp [h1, h2]
        · simp [h1, h2]; exact ih b
theorem cmpL_trans {a b c : List Int} (h : cmpL a b ≤ 0) (g : cmpL b c ≤ 0) : cmpL a c ≤ 0 := by
  induction a generalizing b c with
  | nil => cases c <;> simp [cmpL]
  | cons x a ih =>
    cases b with
    | nil => simp [cmpL] at h
    | cons y b =>
      cases c with
      | nil => simp [cmpL] at g
      | cons z c =>
        simp only [cmpL] at h g ⊢
        by_cases h1 : x < y
        · by_cases g1 : y < z
          · rw [if_pos (by omega)]; decide
          · rw [if_neg g1] at g
            by_cases g2 : z < y
            · rw [if_pos g2] at g; simp at g
            · rw [if_pos (by omega)]; decide
        · rw [if_neg h1] at h
          by_cases h2 : y < x
          · rw [if_pos h2] at h; simp at h
          · rw [if_neg h2] at h
            by_cases g1 : y < z
            · rw [if_pos (by omega)]; decide
            · rw [if_neg g1] at g
              by_cases g2 : z < y
              · rw [if_pos g2] at g; simp at g
              · rw [if_neg g2] at g
                rw [if_neg (by omega), if_neg (by omega)]
                exact ih h g
end Go.Proofs.Ytmidoopapfkilaa
