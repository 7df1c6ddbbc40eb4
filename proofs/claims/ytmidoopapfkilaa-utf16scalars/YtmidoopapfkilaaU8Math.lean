/- Plain mathematics of layer 2 (utf8): bytes of scalars, how bytes begin a scalar; no Go text in sight. -/
import Derived.Test.YtmidoopapfkilaaScalarMath
namespace Go.Proofs.Ytmidoopapfkilaa

def byt (c : Int) : List Int :=
  if isB c then
    if c < 128 then [c]
    else if c < 2048 then [192 + c / 64, 128 + c % 64]
    else if c < 65536 then [224 + c / 4096, 128 + c / 64 % 64, 128 + c % 64]
    else [240 + c / 262144, 128 + c / 4096 % 64, 128 + c / 64 % 64, 128 + c % 64]
  else []
def txt (l : List Int) : List Int := l.flatMap byt
def lng (x : Int) : Int := if x < 128 then 1 else if x < 194 then 0 else if x ≤ 223 then 2 else if x ≤ 239 then 3 else if x ≤ 244 then 4 else 0
def lo2 (f : Int) : Int := if f = 224 then 160 else if f = 240 then 144 else 128
def hi2 (f : Int) : Int := if f = 237 then 159 else if f = 244 then 143 else 191
def secB (f x : Int) : Bool := decide (lo2 f ≤ x ∧ x ≤ hi2 f)
def tlB (x : Int) : Bool := decide (128 ≤ x ∧ x ≤ 191)
def how : List Int → Int
  | [a] => if lng a = 1 then 2 else if 1 < lng a then 1 else 0
  | [a, b] => if 2 ≤ lng a ∧ secB a b = true then (if lng a = 2 then 2 else 1) else 0
  | [a, b, c] => if 3 ≤ lng a ∧ secB a b = true ∧ tlB c = true then (if lng a = 3 then 2 else 1) else 0
  | [a, b, c, d] => if 4 ≤ lng a ∧ secB a b = true ∧ tlB c = true ∧ tlB d = true then 2 else 0
  | _ => 0
def mkT (a : Int) : Int := if a < 128 then 0 else if a < 224 then 192 else if a < 240 then 224 else 240
def bitsOf : List Int → Int
  | [a] => a - mkT a
  | [a, b] => (a - mkT a) * 64 + (b - 128)
  | [a, b, c] => ((a - mkT a) * 64 + (b - 128)) * 64 + (c - 128)
  | [a, b, c, d] => (((a - mkT a) * 64 + (b - 128)) * 64 + (c - 128)) * 64 + (d - 128)
  | _ => 0
def rowOf (a : Int) : Nat :=
  if a < 128 then 0 else if a < 224 then 1 else if a = 224 then 2 else if a < 237 then 3 else if a = 237 then 4
  else if a < 240 then 5 else if a = 240 then 6 else if a < 244 then 7 else 8

theorem lng_le (a : Int) : 0 ≤ lng a ∧ lng a ≤ 4 := by unfold lng; repeat' split
                                                       all_goals omega
theorem how_cases (l : List Int) : how l = 0 ∨ how l = 1 ∨ how l = 2 := by
  unfold how; repeat' split
  all_goals simp
theorem how_len1 {l : List Int} (h : how l = 1) : 1 ≤ l.length ∧ l.length ≤ 3 := by
  match l, h with
  | [], h => simp [how] at h
  | [_], _ => simp
  | [_, _], _ => simp
  | [_, _, _], _ => simp
  | [_, _, _, _], h => simp only [how] at h; split at h <;> cases h
  | _ :: _ :: _ :: _ :: _ :: _, h => simp [how] at h
theorem how_len {l : List Int} (h : how l ≠ 0) : 1 ≤ l.length ∧ l.length ≤ 4 := by
  match l, h with
  | [], h => simp [how] at h
  | [_], _ => simp
  | [_, _], _ => simp
  | [_, _, _], _ => simp
  | [_, _, _, _], _ => simp
  | _ :: _ :: _ :: _ :: _ :: _, h => simp [how] at h

/-- how many bytes of b begin a scalar and end none -/
def fk (b : List Int) : Nat :=
  if 1 ≤ b.length ∧ how (b.take 1) = 1 then
    if 2 ≤ b.length ∧ how (b.take 2) = 1 then
      if 3 ≤ b.length ∧ how (b.take 3) = 1 then 3 else 2
    else 1
  else 0
theorem fk_eq (b : List Int) (k : Nat) (hk : k ≤ b.length) (hr : ∀ j, 1 ≤ j → j ≤ k → how (b.take j) = 1) (he : k = b.length ∨ how (b.take (k + 1)) ≠ 1) : fk b = k := by
  have h3 : k ≤ 3 := by
    rcases Nat.lt_or_ge 3 k with h | h
    · have := (how_len1 (hr 4 (by omega) (by omega))).2
      rw [List.length_take] at this; omega
    · omega
  have e : k = 0 ∨ k = 1 ∨ k = 2 ∨ k = 3 := by omega
  unfold fk
  rcases e with rfl | rfl | rfl | rfl
  · rw [if_neg]; rintro ⟨a, c⟩; rcases he with h | h
    · omega
    · exact h c
  · have := hr 1 (by omega) (by omega)
    rw [if_pos ⟨by omega, this⟩, if_neg]; rintro ⟨a, c⟩; rcases he with h | h
    · omega
    · exact h c
  · have h1 := hr 1 (by omega) (by omega)
    have h2 := hr 2 (by omega) (by omega)
    rw [if_pos ⟨by omega, h1⟩, if_pos ⟨by omega, h2⟩, if_neg]; rintro ⟨a, c⟩; rcases he with h | h
    · omega
    · exact h c
  · have h1 := hr 1 (by omega) (by omega)
    have h2 := hr 2 (by omega) (by omega)
    have h3 := hr 3 (by omega) (by omega)
    rw [if_pos ⟨by omega, h1⟩, if_pos ⟨by omega, h2⟩, if_pos ⟨by omega, h3⟩]
theorem fk_spec (b : List Int) : fk b ≤ b.length ∧ (∀ j, 1 ≤ j → j ≤ fk b → how (b.take j) = 1) ∧ (fk b = b.length ∨ how (b.take (fk b + 1)) ≠ 1) := by
  unfold fk
  by_cases h1 : 1 ≤ b.length ∧ how (b.take 1) = 1
  · rw [if_pos h1]
    by_cases h2 : 2 ≤ b.length ∧ how (b.take 2) = 1
    · rw [if_pos h2]
      by_cases h3 : 3 ≤ b.length ∧ how (b.take 3) = 1
      · rw [if_pos h3]
        refine ⟨h3.1, fun j a c => ?_, ?_⟩
        · have : j = 1 ∨ j = 2 ∨ j = 3 := by omega
          rcases this with rfl | rfl | rfl
          · exact h1.2
          · exact h2.2
          · exact h3.2
        · by_cases hl : 3 = b.length
          · exact .inl hl
          · refine .inr fun h => ?_
            have := (how_len1 h).2
            rw [List.length_take] at this; omega
      · rw [if_neg h3]
        refine ⟨h2.1, fun j a c => ?_, ?_⟩
        · have : j = 1 ∨ j = 2 := by omega
          rcases this with rfl | rfl
          · exact h1.2
          · exact h2.2
        · by_cases hl : 2 = b.length
          · exact .inl hl
          · exact .inr fun h => h3 ⟨by omega, h⟩
    · rw [if_neg h2]
      refine ⟨h1.1, fun j a c => ?_, ?_⟩
      · have : j = 1 := by omega
        subst this; exact h1.2
      · by_cases hl : 1 = b.length
        · exact .inl hl
        · exact .inr fun h => h2 ⟨by omega, h⟩
  · rw [if_neg h1]
    refine ⟨by omega, fun j a c => by omega, ?_⟩
    by_cases hl : 0 = b.length
    · exact .inl hl
    · exact .inr fun h => h1 ⟨by omega, h⟩

def fOk (b : List Int) : Bool := decide (fk b < b.length ∧ how (b.take (fk b + 1)) = 2)
def fN (b : List Int) : Nat := if fOk b then fk b + 1 else fk b
def fC (b : List Int) : Int := if fOk b then bitsOf (b.take (fk b + 1)) else 0
theorem first_yes {b : List Int} {k : Nat} (hk : k < b.length) (hr : ∀ j, 1 ≤ j → j ≤ k → how (b.take j) = 1) (h2 : how (b.take (k + 1)) = 2) : fOk b = true ∧ fN b = k + 1 ∧ fC b = bitsOf (b.take (k + 1)) := by
  have e := fk_eq b k (by omega) hr (.inr (by rw [h2]; decide))
  have ho : fOk b = true := by unfold fOk; rw [e]; exact decide_eq_true ⟨hk, h2⟩
  refine ⟨ho, ?_, ?_⟩
  · unfold fN; rw [ho, e]; rfl
  · unfold fC; rw [ho, e]; rfl
theorem first_no {b : List Int} {k : Nat} (hk : k ≤ b.length) (hr : ∀ j, 1 ≤ j → j ≤ k → how (b.take j) = 1) (h2 : k = b.length ∨ how (b.take (k + 1)) = 0) : fOk b = false ∧ fN b = k ∧ fC b = 0 := by
  have e := fk_eq b k hk hr (by rcases h2 with h | h
                                · exact .inl h
                                · right; rw [h]; decide)
  have ho : fOk b = false := by
    unfold fOk; rw [e]; apply decide_eq_false; rintro ⟨a, c⟩
    rcases h2 with h | h
    · omega
    · rw [h] at c; cases c
  refine ⟨ho, ?_, ?_⟩
  · unfold fN; rw [ho, e]; rfl
  · unfold fC; rw [ho]; rfl
theorem fN_le (b : List Int) : fN b ≤ b.length := by
  unfold fN
  cases h : fOk b
  · have := (fk_spec b).1; simpa using this
  · have := of_decide_eq_true h; simp; omega
theorem fN_pos {b : List Int} (h : fOk b = true) : 1 ≤ fN b := by unfold fN; rw [h]; simp

/-- all scalars of b, from 'at' on, l ahead of them; fuel first -/
def allA (b : List Int) : Nat → Nat → List Int → List Int × Nat × Bool
  | 0, n, l => (l, n, true)
  | f + 1, n, l => if n < b.length then (if fOk (b.drop n) then allA b f (n + fN (b.drop n)) (l ++ [fC (b.drop n)]) else ([], n + fN (b.drop n), false)) else (l, n, true)
def allS (b : List Int) : List Int × Nat × Bool := allA b (b.length + 1) 0 []
/-- where a loop over b stands -/
def AllAt (b : List Int) (n : Nat) (l : List Int) : Prop := n ≤ b.length ∧ l.length ≤ n ∧ ∃ f, b.length - n < f ∧ allA b f n l = allS b
theorem AllAt.start (b : List Int) : AllAt b 0 [] := ⟨Nat.zero_le _, Nat.le_refl _, b.length + 1, by omega, rfl⟩
theorem AllAt.step {b : List Int} {n : Nat} {l : List Int} (h : AllAt b n l) (hn : n < b.length) (ho : fOk (b.drop n) = true) : AllAt b (n + fN (b.drop n)) (l ++ [fC (b.drop n)]) := by
  obtain ⟨_, hl, f, hf, e⟩ := h
  have hp := fN_pos ho
  have hle := fN_le (b.drop n)
  rw [List.length_drop] at hle
  match f, hf, e with
  | f + 1, hf, e =>
    refine ⟨by omega, by simp; omega, f, by omega, ?_⟩
    rw [← e]
    show _ = allA b (f + 1) n l
    rw [allA, if_pos hn, if_pos ho]
theorem AllAt.fail {b : List Int} {n : Nat} {l : List Int} (h : AllAt b n l) (hn : n < b.length) (ho : fOk (b.drop n) = false) : allS b = ([], n + fN (b.drop n), false) := by
  obtain ⟨_, _, f, hf, e⟩ := h
  match f, hf, e with
  | f + 1, hf, e => rw [← e, allA, if_pos hn, ho]; rfl
theorem AllAt.done {b : List Int} {n : Nat} {l : List Int} (h : AllAt b n l) (hn : b.length ≤ n) : allS b = (l, n, true) := by
  obtain ⟨_, _, f, hf, e⟩ := h
  match f, hf, e with
  | f + 1, hf, e => rw [← e, allA, if_neg (by omega)]

/-- what a reader tells -/
def pH (bs : List Int) (x : Int) : Int := if how (bs ++ [x]) = 2 then 2 else if how (bs ++ [x]) = 1 then 1 else 3
def pC (bs : List Int) (x : Int) : Int := if how (bs ++ [x]) = 2 then bitsOf (bs ++ [x]) else 0
def pS (bs : List Int) (x : Int) : List Int := if how (bs ++ [x]) = 2 then [] else if how (bs ++ [x]) = 1 then bs ++ [x] else bs
end Go.Proofs.Ytmidoopapfkilaa
