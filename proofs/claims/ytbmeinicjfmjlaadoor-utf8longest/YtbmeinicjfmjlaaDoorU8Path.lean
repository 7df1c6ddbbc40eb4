/- Plain mathematics: bytes read scalar by scalar; what is begun can be brought to its end. -/
import Derived.Test.YtbmeinicjfmjlaaDoorU8Inj
namespace Go.Proofs.YtbmeinicjfmjlaaDoor
set_option linter.unusedVariables false

theorem fOk_spec {u : List Int} (h : fOk u = true) : fk u < u.length ∧ how (u.take (fk u + 1)) = 2 ∧ fN u = fk u + 1 ∧ fC u = bitsOf (u.take (fk u + 1)) := by
  have h' := of_decide_eq_true h
  exact ⟨h'.1, h'.2, by unfold fN; rw [h]; rfl, by unfold fC; rw [h]; rfl⟩
/-- what is read of the beginning is read of the whole, whatever stands behind it -/
theorem first_same {u v : List Int} (h : fOk u = true) (hv : v.take (fN u) = u.take (fN u)) (hl : fN u ≤ v.length) : fOk v = true ∧ fN v = fN u ∧ fC v = fC u := by
  obtain ⟨h1, h2, h3, h4⟩ := fOk_spec h
  have hs := (fk_spec u).2.1
  have ht : ∀ j, j ≤ fk u + 1 → v.take j = u.take j := fun j hj => by
    have := congrArg (List.take j) hv
    rw [List.take_take, List.take_take, Nat.min_eq_left (by omega)] at this
    exact this
  have := first_yes (b := v) (k := fk u) (by omega) (fun j a b => by rw [ht j (by omega)]; exact hs j a b) (by rw [ht _ (Nat.le_refl _)]; exact h2)
  rw [ht _ (Nat.le_refl _), ← h4, ← h3] at this
  exact this
inductive Path (b : List Int) : Nat → List Int → Prop
  | nil : Path b 0 []
  | step {n : Nat} {l : List Int} : Path b n l → n < b.length → fOk (b.drop n) = true → Path b (n + fN (b.drop n)) (l ++ [fC (b.drop n)])
theorem Path.at {b : List Int} {n : Nat} {l : List Int} (h : Path b n l) : AllAt b n l := by
  induction h with
  | nil => exact AllAt.start b
  | step _ hn ho ih => exact ih.step hn ho
theorem Path.le {b : List Int} {n : Nat} {l : List Int} (h : Path b n l) : n ≤ b.length := h.at.1
theorem Path.app {p : List Int} (t : List Int) {n : Nat} {l : List Int} (h : Path p n l) : Path (p ++ t) n l := by
  induction h with
  | nil => exact .nil
  | @step n l hp hn ho ih =>
    have hd : (p ++ t).drop n = p.drop n ++ t := List.drop_append_of_le_length (by omega)
    have hle := fN_le (p.drop n)
    obtain ⟨f1, f2, f3⟩ := first_same (v := p.drop n ++ t) ho (List.take_append_of_le_length hle) (by rw [List.length_append]; omega)
    have := Path.step ih (by rw [List.length_append]; omega) (by rw [hd]; exact f1)
    rw [hd, f2, f3] at this
    exact this
theorem Path.cut {b : List Int} {n : Nat} {l : List Int} (h : Path b n l) : ∀ m, n ≤ m → m ≤ b.length → Path (b.take m) n l := by
  induction h with
  | nil => intro m _ _; exact .nil
  | @step n l hp hn ho ih =>
    intro m hm hb
    have hpos := fN_pos ho
    have hd : (b.take m).drop n = (b.drop n).take (m - n) := by rw [List.drop_take]
    have hle := fN_le (b.drop n)
    rw [List.length_drop] at hle
    obtain ⟨f1, f2, f3⟩ := first_same (v := (b.drop n).take (m - n)) ho (by rw [List.take_take, Nat.min_eq_left (by omega)]) (by rw [List.length_take, List.length_drop]; omega)
    have := Path.step (ih m (by omega) hb) (by rw [List.length_take]; omega) (by rw [hd]; exact f1)
    rw [hd, f2, f3] at this
    exact this
/-- what All tells, by paths -/
theorem path_go (b : List Int) : ∀ (f n : Nat) (l : List Int), b.length - n < f → Path b n l →
    ((allA b f n l).2.2 = true ∧ Path b b.length (allA b f n l).1 ∧ (allA b f n l).2.1 = b.length) ∨
    ((allA b f n l).2.2 = false ∧ ∃ n' l', Path b n' l' ∧ n' < b.length ∧ fOk (b.drop n') = false ∧ (allA b f n l).2.1 = n' + fN (b.drop n'))
  | 0, n, l, hf, hp => by omega
  | f + 1, n, l, hf, hp => by
    have hle := hp.le
    rw [allA]
    by_cases hn : n < b.length
    · rw [if_pos hn]
      cases ho : fOk (b.drop n) with
      | true =>
        simp only [if_true]
        have hpos := fN_pos ho
        exact path_go b f _ _ (by omega) (hp.step hn ho)
      | false => exact .inr ⟨rfl, n, l, hp, hn, ho, rfl⟩
    · rw [if_neg hn]
      obtain rfl : n = b.length := by omega
      exact .inl ⟨rfl, hp, rfl⟩
theorem path_all (b : List Int) : ((allS b).2.2 = true ∧ Path b b.length (allS b).1 ∧ (allS b).2.1 = b.length) ∨
    ((allS b).2.2 = false ∧ ∃ n' l', Path b n' l' ∧ n' < b.length ∧ fOk (b.drop n') = false ∧ (allS b).2.1 = n' + fN (b.drop n')) :=
  path_go b _ 0 [] (by omega) .nil
theorem path_whole {b l : List Int} (h : Path b b.length l) : allS b = (l, b.length, true) := h.at.done (Nat.le_refl _)
theorem path_stuck {p t l : List Int} (h : Path p p.length l) (ht : 0 < t.length) (ho : fOk t = false) : allS (p ++ t) = ([], p.length + fN t, false) := by
  have hd : (p ++ t).drop p.length = t := by simp
  have := (h.app t).at.fail (by rw [List.length_append]; omega) (by rw [hd]; exact ho)
  rw [hd] at this; exact this
theorem path_more {p t l : List Int} (h : Path p p.length l) (hb : ∀ j, 1 ≤ j → j < t.length → how (t.take j) = 1) (hw : how t = 2) : Path (p ++ t) (p ++ t).length (l ++ [bitsOf t]) := by
  obtain ⟨n, hn⟩ : ∃ n, t.length = n + 1 := ⟨t.length - 1, by have := (how_len (l := t) (by rw [hw]; decide)).1; omega⟩
  have htt : t.take (n + 1) = t := by rw [← hn]; exact List.take_length
  obtain ⟨f1, f2, f3⟩ := first_yes (b := t) (k := n) (by omega) (fun j a b => hb j a (by omega)) (by rw [htt]; exact hw)
  have hd : (p ++ t).drop p.length = t := by simp
  have := (h.app t).step (by rw [List.length_append]; omega) (by rw [hd]; exact f1)
  rw [hd, f2, f3, htt, ← hn] at this
  rw [List.length_append]; exact this
/-- each beginning of what is begun is begun -/
theorem how_pre {t : List Int} (h : how t = 1 ∨ how t = 2) : ∀ j, 1 ≤ j → j < t.length → how (t.take j) = 1 := by
  have h0 : how t ≠ 0 := by rcases h with h | h <;> rw [h] <;> decide
  intro j h1 h2
  match t, h0 with
  | [], h0 => simp at h2
  | [a], h0 => simp at h2; omega
  | [a, b], h0 =>
    have hh : (if 2 ≤ lng a ∧ secB a b = true then (if lng a = 2 then (2 : Int) else 1) else 0) ≠ 0 := h0
    have c : 2 ≤ lng a ∧ secB a b = true := by
      apply Classical.byContradiction; intro hn; rw [if_neg hn] at hh; exact hh rfl
    obtain rfl : j = 1 := by simp at h2; omega
    show (if lng a = 1 then (2 : Int) else if 1 < lng a then 1 else 0) = 1
    rw [if_neg (by omega), if_pos (by omega)]
  | [a, b, d], h0 =>
    have hh : (if 3 ≤ lng a ∧ secB a b = true ∧ tlB d = true then (if lng a = 3 then (2 : Int) else 1) else 0) ≠ 0 := h0
    have c : 3 ≤ lng a ∧ secB a b = true ∧ tlB d = true := by
      apply Classical.byContradiction; intro hn; rw [if_neg hn] at hh; exact hh rfl
    have : j = 1 ∨ j = 2 := by simp at h2; omega
    rcases this with rfl | rfl
    · show (if lng a = 1 then (2 : Int) else if 1 < lng a then 1 else 0) = 1
      rw [if_neg (by omega), if_pos (by omega)]
    · show (if 2 ≤ lng a ∧ secB a b = true then (if lng a = 2 then (2 : Int) else 1) else 0) = 1
      rw [if_pos ⟨by omega, c.2.1⟩, if_neg (by omega)]
  | [a, b, d, e], h0 =>
    have hh : (if 4 ≤ lng a ∧ secB a b = true ∧ tlB d = true ∧ tlB e = true then (2 : Int) else 0) ≠ 0 := h0
    have c : 4 ≤ lng a ∧ secB a b = true ∧ tlB d = true ∧ tlB e = true := by
      apply Classical.byContradiction; intro hn; rw [if_neg hn] at hh; exact hh rfl
    have : j = 1 ∨ j = 2 ∨ j = 3 := by simp at h2; omega
    rcases this with rfl | rfl | rfl
    · show (if lng a = 1 then (2 : Int) else if 1 < lng a then 1 else 0) = 1
      rw [if_neg (by omega), if_pos (by omega)]
    · show (if 2 ≤ lng a ∧ secB a b = true then (if lng a = 2 then (2 : Int) else 1) else 0) = 1
      rw [if_pos ⟨by omega, c.2.1⟩, if_neg (by omega)]
    · show (if 3 ≤ lng a ∧ secB a b = true ∧ tlB d = true then (if lng a = 3 then (2 : Int) else 1) else 0) = 1
      rw [if_pos ⟨by omega, c.2.1, c.2.2.1⟩, if_neg (by omega)]
  | _ :: _ :: _ :: _ :: _ :: _, h0 => simp [how] at h0
theorem begun_first {t : List Int} (h : how t = 1) : fOk t = false ∧ fN t = t.length ∧ fC t = 0 :=
  first_no (Nat.le_refl _) (fun j a b => by
    rcases Nat.lt_or_ge j t.length with hj | hj
    · exact how_pre (.inl h) j a hj
    · rw [List.take_of_length_le hj]; exact h) (.inl rfl)
/-- bytes that are scalars' but for what is begun at their end; so many more may be wanted -/
structure Good (s : List Int) (more : Nat) : Prop where
  ex : ∃ p t l, s = p ++ t ∧ Path p p.length l ∧ ((t = [] ∧ True) ∨ (how t = 1 ∧ lng (t.getD 0 0) ≤ t.length + more))
/-- which bytes may stand behind it -/
def begB (s : List Int) : Bool := decide ((allS s).2.1 = s.length)
theorem good_whole {s : List Int} {m : Nat} (h : Good s m) : (allS s).2.2 = true ∨
    ((allS s).2.2 = false ∧ 0 < m ∧ (∃ y, 128 ≤ y ∧ y ≤ 191 ∧ begB (s ++ [y]) = true) ∧ ∀ y, begB (s ++ [y]) = true → Good (s ++ [y]) (m - 1)) := by
  obtain ⟨p, t, l, rfl, hp, ht⟩ := h.ex
  rcases ht with ⟨rfl, _⟩ | ⟨ht, hl⟩
  · rw [List.append_nil, path_whole hp]; exact .inl rfl
  · obtain ⟨f1, f2, f3⟩ := begun_first ht
    have hlen := how_len1 ht
    have hs := path_stuck hp (by omega) f1
    rw [hs]
    refine .inr ⟨rfl, ?_, ?_, ?_⟩
    · -- what is begun is shorter than its scalar
      match t, ht, hl with
      | [a], ht, hl =>
        have hh : (if lng a = 1 then (2 : Int) else if 1 < lng a then 1 else 0) = 1 := ht
        have : 2 ≤ lng a := by revert hh; (repeat' split) <;> omega
        have hl : lng a ≤ (1 : Nat) + m := hl
        omega
      | [a, b], ht, hl =>
        have hh : (if 2 ≤ lng a ∧ secB a b = true then (if lng a = 2 then (2 : Int) else 1) else 0) = 1 := ht
        have : 3 ≤ lng a := by revert hh; (repeat' split) <;> omega
        have hl : lng a ≤ (2 : Nat) + m := hl
        omega
      | [a, b, c], ht, hl =>
        have hh : (if 3 ≤ lng a ∧ secB a b = true ∧ tlB c = true then (if lng a = 3 then (2 : Int) else 1) else 0) = 1 := ht
        have : 4 ≤ lng a := by revert hh; (repeat' split) <;> omega
        have hl : lng a ≤ (3 : Nat) + m := hl
        omega
      | [], ht, _ => simp [how] at ht
      | _ :: _ :: _ :: _ :: _, ht, _ => have := (how_len1 ht).2; simp at this
    · obtain ⟨y, y0, y1, hy⟩ : ∃ y, 128 ≤ y ∧ y ≤ 191 ∧ how (t ++ [y]) ≠ 0 := by
        match t, ht with
        | [a], ht =>
          have hh : (if lng a = 1 then (2 : Int) else if 1 < lng a then 1 else 0) = 1 := ht
          have h2 : 2 ≤ lng a := by revert hh; (repeat' split) <;> omega
          have e1 : 128 ≤ lo2 a ∧ lo2 a ≤ hi2 a ∧ hi2 a ≤ 191 := by unfold lo2 hi2; (repeat' split) <;> omega
          refine ⟨lo2 a, by omega, by omega, ?_⟩
          have hs : secB a (lo2 a) = true := sec_is (Int.le_refl _) e1.2.1
          show (if 2 ≤ lng a ∧ secB a (lo2 a) = true then (if lng a = 2 then (2 : Int) else 1) else 0) ≠ 0
          rw [if_pos ⟨h2, hs⟩]; split <;> decide
        | [a, b], ht =>
          have hh : (if 2 ≤ lng a ∧ secB a b = true then (if lng a = 2 then (2 : Int) else 1) else 0) = 1 := ht
          have c : 2 ≤ lng a ∧ secB a b = true := by
            apply Classical.byContradiction; intro hn; rw [if_neg hn] at hh; cases hh
          have h3 : 3 ≤ lng a := by rw [if_pos c] at hh; revert hh; split <;> omega
          refine ⟨128, by omega, by omega, ?_⟩
          show (if 3 ≤ lng a ∧ secB a b = true ∧ tlB 128 = true then (if lng a = 3 then (2 : Int) else 1) else 0) ≠ 0
          rw [if_pos ⟨h3, c.2, by decide⟩]; split <;> decide
        | [a, b, d], ht =>
          have hh : (if 3 ≤ lng a ∧ secB a b = true ∧ tlB d = true then (if lng a = 3 then (2 : Int) else 1) else 0) = 1 := ht
          have c : 3 ≤ lng a ∧ secB a b = true ∧ tlB d = true := by
            apply Classical.byContradiction; intro hn; rw [if_neg hn] at hh; cases hh
          have h3 : 4 ≤ lng a := by rw [if_pos c] at hh; revert hh; split <;> omega
          refine ⟨128, by omega, by omega, ?_⟩
          show (if 4 ≤ lng a ∧ secB a b = true ∧ tlB d = true ∧ tlB 128 = true then (2 : Int) else 0) ≠ 0
          rw [if_pos ⟨h3, c.2.1, c.2.2, by decide⟩]; decide
        | [], ht => simp [how] at ht
        | _ :: _ :: _ :: _ :: _, ht => have := (how_len1 ht).2; simp at this
      refine ⟨y, y0, y1, ?_⟩
      unfold begB
      rw [List.append_assoc]
      rcases how_cases (t ++ [y]) with h0 | h1 | h2
      · exact absurd h0 hy
      · obtain ⟨g1, g2, g3⟩ := begun_first h1
        rw [path_stuck hp (by simp) g1]
        exact decide_eq_true (by simp only [g2, List.length_append])
      · rw [path_whole (path_more hp (how_pre (.inr h2)) h2)]
        exact decide_eq_true rfl
    · intro y hy
      have hy' := of_decide_eq_true hy
      rw [List.append_assoc] at hy' ⊢
      rcases how_cases (t ++ [y]) with h0 | h1 | h2
      · exfalso
        have g := first_no (b := t ++ [y]) (k := t.length) (by simp) (fun j a b => by
          rw [List.take_append_of_le_length b]
          rcases Nat.lt_or_ge j t.length with hj | hj
          · exact how_pre (.inl ht) j a hj
          · rw [List.take_of_length_le hj]; exact ht) (.inr (by rw [List.take_of_length_le (by simp)]; exact h0))
        rw [path_stuck hp (by simp) g.1, g.2.1] at hy'
        simp at hy'
      · refine ⟨p, t ++ [y], l, rfl, hp, .inr ⟨h1, ?_⟩⟩
        have e : (t ++ [y]).getD 0 0 = t.getD 0 0 := by
          match t, hlen with
          | [], h => simp at h
          | a :: r, _ => rfl
        rw [e, List.length_append]
        simp only [List.length_cons, List.length_nil]
        omega
      · exact ⟨p ++ (t ++ [y]), [], _, by rw [List.append_nil], path_more hp (how_pre (.inr h2)) h2, .inl ⟨rfl, trivial⟩⟩
theorem good_start (b : List Int) : Good (b.take (allS b).2.1) 3 := by
  rcases path_all b with ⟨_, hp, hn⟩ | ⟨_, n, l, hp, hlt, ho, hn⟩
  · rw [hn, List.take_length]
    exact ⟨b, [], _, by rw [List.append_nil], hp, .inl ⟨rfl, trivial⟩⟩
  · have hk : fN (b.drop n) = fk (b.drop n) := by unfold fN; rw [ho]; rfl
    have hsp := fk_spec (b.drop n)
    have hp' : Path (b.take n) (b.take n).length l := by
      rw [List.length_take, Nat.min_eq_left (by omega)]; exact hp.cut n (Nat.le_refl _) (by omega)
    have e : b.take (n + fk (b.drop n)) = b.take n ++ (b.drop n).take (fk (b.drop n)) := List.take_add
    rw [hn, hk, e]
    refine ⟨_, _, l, rfl, hp', ?_⟩
    rcases Nat.eq_zero_or_pos (fk (b.drop n)) with h0 | h0
    · left; rw [h0]; exact ⟨rfl, trivial⟩
    · right
      refine ⟨hsp.2.1 _ h0 (Nat.le_refl _), ?_⟩
      have := (lng_le (((b.drop n).take (fk (b.drop n))).getD 0 0)).2
      rw [List.length_take, Nat.min_eq_left hsp.1]
      omega
/-- with one byte more none can -/
theorem none_more (b more : List Int) (ho : (allS b).2.2 = false) (hn : (allS b).2.1 < b.length) : (allS (b.take ((allS b).2.1 + 1) ++ more)).2.2 = false := by
  rcases path_all b with ⟨h, _⟩ | ⟨_, n, l, hp, hlt, hof, hN⟩
  · rw [ho] at h; cases h
  · have hk : fN (b.drop n) = fk (b.drop n) := by unfold fN; rw [hof]; rfl
    have hsp := fk_spec (b.drop n)
    have hp' : Path (b.take n) (b.take n).length l := by
      rw [List.length_take, Nat.min_eq_left (by omega)]; exact hp.cut n (Nat.le_refl _) (by omega)
    rw [hN, hk] at hn ⊢
    have e : b.take (n + fk (b.drop n) + 1) = b.take n ++ (b.drop n).take (fk (b.drop n) + 1) := by rw [Nat.add_assoc]; exact List.take_add
    rw [e, List.append_assoc]
    generalize hu : b.drop n = u at *
    have hul : fk u < u.length := by rw [← hu, List.length_drop, hu]; omega
    have h0 : how (u.take (fk u + 1)) = 0 := by
      rcases how_cases (u.take (fk u + 1)) with h | h | h
      · exact h
      · rcases hsp.2.2 with h' | h'
        · omega
        · exact absurd h h'
      · exfalso
        have : fOk u = true := decide_eq_true ⟨hul, h⟩
        rw [this] at hof; cases hof
    have g := first_no (b := u.take (fk u + 1) ++ more) (k := fk u) (by rw [List.length_append, List.length_take]; omega) (fun j a c => by
      rw [List.take_append_of_le_length (by rw [List.length_take]; omega), List.take_take, Nat.min_eq_left (by omega)]
      exact hsp.2.1 j a c) (.inr (by
      rw [List.take_append_of_le_length (by rw [List.length_take]; omega), List.take_take, Nat.min_self]
      exact h0))
    rw [path_stuck hp' (by rw [List.length_append, List.length_take]; omega) g.1]
theorem allS_le (b : List Int) : (allS b).2.1 ≤ b.length ∧ ((allS b).2.2 = true → (allS b).2.1 = b.length) := by
  rcases path_all b with ⟨h, _, hn⟩ | ⟨h, n, l, hp, hlt, hof, hN⟩
  · exact ⟨by omega, fun _ => hn⟩
  · refine ⟨?_, fun k => by rw [h] at k; cases k⟩
    have := fN_le (b.drop n)
    rw [List.length_drop] at this
    omega
end Go.Proofs.YtbmeinicjfmjlaaDoor
