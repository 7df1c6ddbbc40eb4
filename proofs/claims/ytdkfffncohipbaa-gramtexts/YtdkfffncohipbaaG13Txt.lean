/- Rows of tokens that are taken one by one; the tokens of a value. Mathematics. -/
import Derived.Test.YtdkfffncohipbaaG13Math
namespace Go.Proofs.Ytdkfffncohipbaa
set_option linter.unusedVariables false

/-- a row is taken from q to t, one by one; ahead of its end nothing is whole -/
def Runs : List Int → Gm → Gm → Prop
  | [], q, t => q = t
  | k :: l, q, t => endB q = false ∧ mayB q k = true ∧ Runs l (tkG q k) t
theorem runs_app {l m : List Int} : ∀ {q t u : Gm}, Runs l q t → Runs m t u → Runs (l ++ m) q u := by
  induction l with
  | nil => intro q t u h k; have h : q = t := h; subst h; exact k
  | cons x l ih => intro q t u h k; exact ⟨h.1, h.2.1, ih h.2.2 k⟩
/-- one token -/
theorem runs_one {q t : Gm} {k : Int} (he : endB q = false) (hm : mayB q k = true) (ht : (⟨nextP q k, nextS q.s k⟩ : Gm) = t) : Runs [k] q t := ⟨he, hm, by rw [tk_yes hm]; exact ht⟩
/-- a value's tokens, wherever one is wanted -/
def Val (l : List Int) : Prop := ∀ (p : Int) (s : List Int), (p = 0 ∨ p = 1) → Runs l ⟨p, s⟩ ⟨5, s⟩
theorem end_p {p : Int} {s : List Int} (h : p ≠ 5) : endB ⟨p, s⟩ = false := by
  unfold endB
  have : ((p : Int) == 5) = false := by simpa using h
  show (p == 5 && s.isEmpty) = false
  rw [this]; rfl
theorem end_s {p : Int} {s : List Int} {e : Int} : endB ⟨p, s ++ [e]⟩ = false := by
  unfold endB
  have : (s ++ [e]).isEmpty = false := by cases s <;> rfl
  show (p == 5 && (s ++ [e]).isEmpty) = false
  rw [this, Bool.and_false]
theorem val_one {x : Int} (h1 : 1 ≤ x) (h5 : x ≤ 5) : Val [x] := fun p s hp => by
  have hx : x = 1 ∨ x = 2 ∨ x = 3 ∨ x = 4 ∨ x = 5 := by omega
  rcases hp with rfl | rfl
  all_goals
    refine runs_one (end_p (by decide)) ?_ ?_
    · rcases hx with rfl | rfl | rfl | rfl | rfl <;> rfl
    · rcases hx with rfl | rfl | rfl | rfl | rfl <;> rfl
/-- what is open, and how many values there are in it: 0 none, else behind one -/
def Part (l : List Int) (e a : Int) (i : Nat) : Prop := ∀ (p : Int) (s : List Int), (p = 0 ∨ p = 1) → Runs l ⟨p, s⟩ ⟨if i = 0 then a else 5, s ++ [e]⟩
theorem part_list : Part [6] 7 1 0 := fun p s hp => by
  rcases hp with rfl | rfl <;> exact runs_one (end_p (by decide)) rfl rfl
theorem part_obj : Part [8] 9 2 0 := fun p s hp => by
  rcases hp with rfl | rfl <;> exact runs_one (end_p (by decide)) rfl rfl
theorem may_5 (s : List Int) (e k : Int) : mayB ⟨5, s ++ [e]⟩ k = (k == 11 || k == e) := by
  have : mayB ⟨5, s ++ [e]⟩ k = (!(s ++ [e]).isEmpty && (k == 11 || k == lastV (s ++ [e]))) := rfl
  rw [this, last_snoc]
  have : (s ++ [e]).isEmpty = false := by cases s <;> rfl
  rw [this]; rfl
theorem run_comma (s : List Int) (e : Int) : Runs [11] ⟨5, s ++ [e]⟩ ⟨if e = 9 then 3 else 0, s ++ [e]⟩ := by
  refine runs_one end_s (by rw [may_5]; rfl) ?_
  have : nextP ⟨5, s ++ [e]⟩ 11 = if lastV (s ++ [e]) = 9 then 3 else 0 := rfl
  rw [this, last_snoc]
  rfl
theorem run_name (s : List Int) (p : Int) (hp : p = 2 ∨ p = 3) : Runs [5, 10] ⟨p, s ++ [9]⟩ ⟨0, s ++ [9]⟩ := by
  rcases hp with rfl | rfl
  · refine ⟨end_s, rfl, ?_⟩
    rw [tk_yes rfl]
    exact ⟨end_s, rfl, by rw [tk_yes rfl]; rfl⟩
  · refine ⟨end_s, rfl, ?_⟩
    rw [tk_yes rfl]
    exact ⟨end_s, rfl, by rw [tk_yes rfl]; rfl⟩
theorem run_close (s : List Int) (e a : Int) (i : Nat) (h : (e = 7 ∧ a = 1) ∨ (e = 9 ∧ a = 2)) : Runs [e] ⟨if i = 0 then a else 5, s ++ [e]⟩ ⟨5, s⟩ := by
  have hd : (s ++ [e]).dropLast = s := by simp
  have hm : mayB ⟨if i = 0 then a else 5, s ++ [e]⟩ e = true := by
    by_cases hi : i = 0
    · rw [if_pos hi]; rcases h with ⟨rfl, rfl⟩ | ⟨rfl, rfl⟩ <;> rfl
    · rw [if_neg hi, may_5]; simp
  refine runs_one end_s hm ?_
  rcases h with ⟨rfl, rfl⟩ | ⟨rfl, rfl⟩
  · have : nextS (s ++ [7]) 7 = (s ++ [7]).dropLast := rfl
    show (⟨5, nextS (s ++ [7]) 7⟩ : Gm) = ⟨5, s⟩
    rw [this, hd]
  · have : nextS (s ++ [9]) 9 = (s ++ [9]).dropLast := rfl
    show (⟨5, nextS (s ++ [9]) 9⟩ : Gm) = ⟨5, s⟩
    rw [this, hd]
theorem part_close {l : List Int} {e a : Int} {i : Nat} (hl : Part l e a i) (h : (e = 7 ∧ a = 1) ∨ (e = 9 ∧ a = 2)) : Val (l ++ [e]) := fun p s hp => runs_app (hl p s hp) (run_close s e a i h)
/-- one more value in a list -/
theorem part_li0 {l m : List Int} (hl : Part l 7 1 0) (hm : Val m) : Part (l ++ m) 7 1 1 := fun p s hp => runs_app (hl p s hp) (hm 1 _ (.inr rfl))
theorem part_li {l m : List Int} {i : Nat} (hl : Part l 7 1 (i + 1)) (hm : Val m) : Part (l ++ [11] ++ m) 7 1 (i + 1 + 1) := fun p s hp => by
  rw [List.append_assoc]
  exact runs_app (hl p s hp) (runs_app (run_comma s 7) (hm 0 _ (.inl rfl)))
theorem part_ob0 {l m : List Int} (hl : Part l 9 2 0) (hm : Val m) : Part (l ++ [5, 10] ++ m) 9 2 1 := fun p s hp => by
  rw [List.append_assoc]
  exact runs_app (hl p s hp) (runs_app (run_name s 2 (.inl rfl)) (hm 0 _ (.inl rfl)))
theorem part_ob {l m : List Int} {i : Nat} (hl : Part l 9 2 (i + 1)) (hm : Val m) : Part (l ++ [11] ++ [5, 10] ++ m) 9 2 (i + 1 + 1) := fun p s hp => by
  rw [List.append_assoc, List.append_assoc]
  exact runs_app (hl p s hp) (runs_app (run_comma s 9) (runs_app (run_name s 3 (.inr rfl)) (hm 0 _ (.inl rfl))))
/-- how many tokens there may be -/
def TB : Nat → Nat
  | 0 => 1
  | d + 1 => 11 + 3 * TB d
theorem tb_pos : ∀ d, 1 ≤ TB d
  | 0 => Nat.le_refl _
  | d + 1 => by unfold TB; omega
end Go.Proofs.Ytdkfffncohipbaa
