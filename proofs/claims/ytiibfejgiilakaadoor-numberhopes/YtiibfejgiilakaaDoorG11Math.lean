/- Plain mathematics of layer 11: a number byte by byte, as places; and the same read at once. No program in it. -/
import Derived.Test.YtiibfejgiilakaaDoorG10Read
namespace Go.Proofs.YtiibfejgiilakaaDoor
set_option linter.unusedVariables false

/-- a text that begins a number: the place, the sign, all digits, how many behind the point, the power's sign (0: none), the power's digits -/
structure Nt where
  p : Nat
  n : Bool
  d : List UInt8
  b : Nat
  g : UInt8
  x : List UInt8
def t0 : Nt := ⟨0, false, [], 0, 0, []⟩
def isE (c : UInt8) : Bool := c == 101 || c == 69
def nextF (p : Nat) (c : UInt8) : Option Nat :=
  match p with
  | 0 => if c = 45 then some 1 else if c = 48 then some 2 else if isD c then some 3 else none
  | 1 => if c = 48 then some 2 else if isD c then some 3 else none
  | 2 => if c = 46 then some 4 else if isE c then some 6 else none
  | 3 => if isD c then some 3 else if c = 46 then some 4 else if isE c then some 6 else none
  | 4 => if isD c then some 5 else none
  | 5 => if isE c then some 6 else if isD c then some 5 else none
  | 6 => if c = 43 ∨ c = 45 then some 7 else if isD c then some 8 else none
  | 7 => if isD c then some 8 else none
  | 8 => if isD c then some 8 else none
  | _ => none
def withF (t : Nt) (c : UInt8) (q : Nat) : Nt :=
  match q with
  | 1 => { t with p := 1, n := true }
  | 2 => { t with p := 2, d := t.d ++ [c] }
  | 3 => { t with p := 3, d := t.d ++ [c] }
  | 5 => { t with p := 5, d := t.d ++ [c], b := t.b + 1 }
  | 7 => { t with p := 7, g := c }
  | 8 => { t with p := 8, x := t.x ++ [c] }
  | q => { t with p := q }
def stepF (t : Nt) (c : UInt8) : Option Nt := (nextF t.p c).map (withF t c)
def goF : Nt → List UInt8 → Option Nt
  | t, [] => some t
  | t, c :: l => match stepF t c with
    | none => none
    | some u => goF u l
def endsF (p : Nat) : Bool := p == 2 || p == 3 || p == 5 || p == 8
def decF (t : Nt) : Dc := ⟨t.n, t.d, -(t.b : Int) + (if t.g = 45 then -(exF t.x : Int) else exF t.x)⟩
def finF (t : Nt) : Option Dc := if endsF t.p then some (normF (decF t)) else none
theorem go_cons (t : Nt) (c : UInt8) (l : List UInt8) : goF t (c :: l) = (stepF t c).bind fun u => goF u l := by
  conv => lhs; unfold goF
  cases stepF t c with
  | none => rfl
  | some u => rfl
theorem go_app (t : Nt) (a b : List UInt8) : goF t (a ++ b) = (goF t a).bind fun u => goF u b := by
  induction a generalizing t with
  | nil => rfl
  | cons c a ih =>
    rw [List.cons_append, go_cons, go_cons]
    cases stepF t c with
    | none => rfl
    | some u => exact ih u
theorem go_snoc (t : Nt) (a : List UInt8) (c : UInt8) : goF t (a ++ [c]) = (goF t a).bind fun u => stepF u c := by
  rw [go_app]
  cases goF t a with
  | none => rfl
  | some u =>
    show goF u [c] = stepF u c
    rw [go_cons]
    cases stepF u c with
    | none => rfl
    | some v => rfl
/-! ## at once -/
def fwdE (t : Nt) (s : List UInt8) : Option Nt :=
  if s = [] then some t
  else if s.head? = some 101 ∨ s.head? = some 69 then
    let k := if s.tail.head? = some 45 ∨ s.tail.head? = some 43 then s.tail.tail else s.tail
    let g : UInt8 := if s.tail.head? = some 45 then 45 else if s.tail.head? = some 43 then 43 else 0
    if k = [] then some { t with p := if g = 0 then 6 else 7, g := g }
    else if k.dropWhile isD = [] then some { t with p := 8, g := g, x := k }
    else none
  else none
def fwdP (t : Nt) (s : List UInt8) : Option Nt :=
  if s.head? = some 46 then
    if s.tail.takeWhile isD = [] then (if s.tail = [] then some { t with p := 4 } else none)
    else fwdE { t with p := 5, d := t.d ++ s.tail.takeWhile isD, b := (s.tail.takeWhile isD).length } (s.tail.dropWhile isD)
  else fwdE t s
def fwdW (n : Bool) (s : List UInt8) : Option Nt :=
  if s.takeWhile isD = [] then (if s = [] then some ⟨if n then 1 else 0, n, [], 0, 0, []⟩ else none)
  else if 1 < (s.takeWhile isD).length ∧ s.head? = some 48 then none
  else fwdP ⟨if s.head? = some 48 then 2 else 3, n, s.takeWhile isD, 0, 0, []⟩ (s.dropWhile isD)
def fwdF (s : List UInt8) : Option Nt := if s.head? = some 45 then fwdW true s.tail else fwdW false s
theorem isE_iff (c : UInt8) : isE c = true ↔ c = 101 ∨ c = 69 := by unfold isE; simp
theorem go_8 (t : Nt) (l : List UInt8) (h : t.p = 8) : goF t l = if l.dropWhile isD = [] then some { t with x := t.x ++ l } else none := by
  induction l generalizing t with
  | nil => obtain ⟨p, n, d, b, g, x⟩ := t; simp [goF]
  | cons c l ih =>
    obtain ⟨p, n, d, b, g, x⟩ := t
    obtain rfl : p = 8 := h
    rw [go_cons, List.dropWhile_cons]
    cases hc : isD c with
    | true =>
      have e : stepF ⟨8, n, d, b, g, x⟩ c = some ⟨8, n, d, b, g, x ++ [c]⟩ := by unfold stepF nextF; simp [hc, withF]
      rw [e, if_pos rfl]
      show goF ⟨8, n, d, b, g, x ++ [c]⟩ l = _
      rw [ih _ rfl]
      simp
    | false =>
      have e : stepF ⟨8, n, d, b, g, x⟩ c = none := by unfold stepF nextF; simp [hc]
      rw [e, if_neg (by simp)]
      simp
theorem go_7 (t : Nt) (l : List UInt8) (h : t.p = 7) (hx : t.x = []) : goF t l = if l = [] then some t else if l.dropWhile isD = [] then some { t with p := 8, x := l } else none := by
  obtain ⟨p, n, d, b, g, x⟩ := t
  obtain rfl : p = 7 := h
  obtain rfl : x = [] := hx
  cases l with
  | nil => simp [goF]
  | cons c l =>
    rw [go_cons, List.dropWhile_cons, if_neg (by simp)]
    cases hc : isD c with
    | true =>
      have e : stepF ⟨7, n, d, b, g, []⟩ c = some ⟨8, n, d, b, g, [c]⟩ := by unfold stepF nextF; simp [hc, withF]
      rw [e, if_pos rfl]
      show goF ⟨8, n, d, b, g, [c]⟩ l = _
      rw [go_8 _ _ rfl]
      simp
    | false =>
      have e : stepF ⟨7, n, d, b, g, []⟩ c = none := by unfold stepF nextF; simp [hc]
      rw [e]
      simp
theorem go_5 (t : Nt) (l : List UInt8) (h : t.p = 5) : goF t l = goF { t with d := t.d ++ l.takeWhile isD, b := t.b + (l.takeWhile isD).length } (l.dropWhile isD) := by
  induction l generalizing t with
  | nil => obtain ⟨p, n, d, b, g, x⟩ := t; simp
  | cons c l ih =>
    obtain ⟨p, n, d, b, g, x⟩ := t
    obtain rfl : p = 5 := h
    rw [List.dropWhile_cons, List.takeWhile_cons]
    cases hc : isD c with
    | true =>
      have hne : isE c = false := by
        cases hh : isE c with
        | false => rfl
        | true => have h1 := d_not hc; rcases (isE_iff c).1 hh with h2 | h2 <;> simp [h2] at h1
      have e : stepF ⟨5, n, d, b, g, x⟩ c = some ⟨5, n, d ++ [c], b + 1, g, x⟩ := by unfold stepF nextF; simp [hc, hne, withF]
      rw [go_cons, e]
      show goF ⟨5, n, d ++ [c], b + 1, g, x⟩ l = _
      rw [ih _ rfl]
      simp [Nat.add_assoc, Nat.add_comm 1, hc]
    | false => simp [hc]
theorem go_3 (t : Nt) (l : List UInt8) (h : t.p = 3) : goF t l = goF { t with d := t.d ++ l.takeWhile isD } (l.dropWhile isD) := by
  induction l generalizing t with
  | nil => obtain ⟨p, n, d, b, g, x⟩ := t; simp
  | cons c l ih =>
    obtain ⟨p, n, d, b, g, x⟩ := t
    obtain rfl : p = 3 := h
    rw [List.dropWhile_cons, List.takeWhile_cons]
    cases hc : isD c with
    | true =>
      have e : stepF ⟨3, n, d, b, g, x⟩ c = some ⟨3, n, d ++ [c], b, g, x⟩ := by unfold stepF nextF; simp [hc, withF]
      rw [go_cons, e]
      show goF ⟨3, n, d ++ [c], b, g, x⟩ l = _
      rw [ih _ rfl]
      simp
    | false => simp
theorem not_d {c : UInt8} (h : c = 45 ∨ c = 43 ∨ c = 46 ∨ c = 101 ∨ c = 69) : isD c = false := by
  rcases h with rfl | rfl | rfl | rfl | rfl <;> decide
theorem go_E (t : Nt) (l : List UInt8) (hp : t.p = 2 ∨ t.p = 3 ∨ t.p = 5) (hg : t.g = 0) (hx : t.x = []) (hd : ∀ c ∈ l.head?, isD c = false ∧ c ≠ 46 ∨ (isD c = false ∧ t.p = 5)) : goF t l = fwdE t l := by
  obtain ⟨p, n, d, b, g, x⟩ := t
  dsimp only at hp hg hx hd
  subst hg hx
  cases l with
  | nil => rfl
  | cons c l =>
    have hd1 : isD c = false := by rcases hd c rfl with h | h <;> exact h.1
    have hd2 : c ≠ 46 ∨ p = 5 := by rcases hd c rfl with h | h; exact .inl h.2; exact .inr h.2
    unfold fwdE
    rw [if_neg (by simp)]
    simp only [List.head?_cons, List.tail_cons, Option.some.injEq]
    cases he : isE c with
    | false =>
      have hn : ¬ (c = 101 ∨ c = 69) := fun h => by rw [(isE_iff c).2 h] at he; cases he
      rw [if_neg hn, go_cons]
      have e : stepF ⟨p, n, d, b, 0, []⟩ c = none := by
        unfold stepF nextF
        rcases hp with rfl | rfl | rfl
        · have h46 : c ≠ 46 := by rcases hd2 with h | h; exact h; omega
          simp [h46, he]
        · have h46 : c ≠ 46 := by rcases hd2 with h | h; exact h; omega
          simp [h46, he, hd1]
        · simp [he, hd1]
      rw [e]; rfl
    | true =>
      have hn : c = 101 ∨ c = 69 := (isE_iff c).1 he
      rw [if_pos hn, go_cons]
      have h46 : c ≠ 46 := by rcases hn with rfl | rfl <;> decide
      have e : stepF ⟨p, n, d, b, 0, []⟩ c = some ⟨6, n, d, b, 0, []⟩ := by
        unfold stepF nextF
        rcases hp with rfl | rfl | rfl <;> simp [h46, he, hd1, withF]
      rw [e]
      show goF ⟨6, n, d, b, 0, []⟩ l = _
      cases l with
      | nil => rfl
      | cons y l =>
        rw [go_cons]
        by_cases hs : y = 43 ∨ y = 45
        · have e2 : stepF ⟨6, n, d, b, 0, []⟩ y = some ⟨7, n, d, b, y, []⟩ := by unfold stepF nextF; simp [hs, withF]
          rw [e2]
          show goF ⟨7, n, d, b, y, []⟩ l = _
          rw [go_7 _ _ rfl rfl]
          rcases hs with rfl | rfl <;> simp
        · have hs1 : y ≠ 43 := fun h => hs (.inl h)
          have hs2 : y ≠ 45 := fun h => hs (.inr h)
          cases hy : isD y with
          | true =>
            have e2 : stepF ⟨6, n, d, b, 0, []⟩ y = some ⟨8, n, d, b, 0, [y]⟩ := by unfold stepF nextF; simp [hs, hy, withF]
            rw [e2]
            show goF ⟨8, n, d, b, 0, [y]⟩ l = _
            rw [go_8 _ _ rfl]
            simp [hs1, hs2, List.dropWhile_cons, hy]
          | false =>
            have e2 : stepF ⟨6, n, d, b, 0, []⟩ y = none := by unfold stepF nextF; simp [hs, hy]
            rw [e2]
            simp [hs1, hs2, List.dropWhile_cons, hy]
theorem drop_head (l : List UInt8) : ∀ c ∈ (l.dropWhile isD).head?, isD c = false := by
  induction l with
  | nil => intro c h; cases h
  | cons c l ih =>
    rw [List.dropWhile_cons]
    cases hc : isD c with
    | true => exact ih
    | false => intro x hx; simp at hx; rw [← hx]; exact hc
theorem go_P (t : Nt) (l : List UInt8) (hp : t.p = 2 ∨ t.p = 3) (hb : t.b = 0) (hg : t.g = 0) (hx : t.x = []) (hd : ∀ c ∈ l.head?, isD c = false) : goF t l = fwdP t l := by
  unfold fwdP
  by_cases h46 : l.head? = some 46
  · rw [if_pos h46]
    obtain ⟨p, n, d, b, g, x⟩ := t
    dsimp only at hp hg hx hb ⊢
    subst hg hx hb
    cases l with
    | nil => cases h46
    | cons c l =>
      obtain rfl : c = 46 := by simpa using h46
      rw [go_cons]
      have e : stepF ⟨p, n, d, 0, 0, []⟩ 46 = some ⟨4, n, d, 0, 0, []⟩ := by
        rcases hp with rfl | rfl <;> rfl
      rw [e, List.tail_cons]
      show goF ⟨4, n, d, 0, 0, []⟩ l = _
      cases l with
      | nil => rfl
      | cons y l =>
        rw [go_cons, List.takeWhile_cons, List.dropWhile_cons]
        cases hy : isD y with
        | true =>
          have e2 : stepF ⟨4, n, d, 0, 0, []⟩ y = some ⟨5, n, d ++ [y], 1, 0, []⟩ := by unfold stepF nextF; simp [hy, withF]
          rw [e2]
          show goF ⟨5, n, d ++ [y], 1, 0, []⟩ l = _
          rw [go_5 _ _ rfl, if_pos rfl, if_neg (by simp), if_pos rfl]
          have e3 : (⟨5, n, d ++ [y] ++ l.takeWhile isD, 1 + (l.takeWhile isD).length, 0, []⟩ : Nt) = ⟨5, n, d ++ y :: l.takeWhile isD, (y :: l.takeWhile isD).length, 0, []⟩ := by
            simp [Nat.add_comm]
          dsimp only
          rw [e3]
          exact go_E _ _ (.inr (.inr rfl)) rfl rfl (fun c hc => .inr ⟨drop_head l c hc, rfl⟩)
        | false =>
          have e2 : stepF ⟨4, n, d, 0, 0, []⟩ y = none := by unfold stepF nextF; simp [hy]
          rw [e2]
          simp
  · rw [if_neg h46]
    exact go_E t l (by omega) hg hx (fun c hc => .inl ⟨hd c hc, fun h => h46 (by subst h; exact hc)⟩)
theorem go_W (n : Bool) (l : List UInt8) (hn : n = true ∨ l.head? ≠ some 45) : goF ⟨if n then 1 else 0, n, [], 0, 0, []⟩ l = fwdW n l := by
  unfold fwdW
  cases l with
  | nil => rfl
  | cons c l =>
    rw [go_cons]
    have h45 : n = true ∨ c ≠ 45 := by rcases hn with h | h; exact .inl h; exact .inr (by simpa using h)
    cases hc : isD c with
    | false =>
      have h48 : c ≠ 48 := fun h => by subst h; cases hc
      have e : stepF ⟨if n then 1 else 0, n, [], 0, 0, []⟩ c = none := by
        unfold stepF nextF
        cases n with
        | true => simp [h48, hc]
        | false => have : c ≠ 45 := by rcases h45 with h | h; cases h; exact h
                   simp [h48, hc, this]
      rw [e]
      simp [hc]
    | true =>
      have hcn := d_not hc
      rw [List.takeWhile_cons, List.dropWhile_cons, if_pos hc, if_pos hc, if_neg (List.cons_ne_nil c _)]
      by_cases h48 : c = 48
      · subst h48
        have e : stepF ⟨if n then 1 else 0, n, [], 0, 0, []⟩ 48 = some ⟨2, n, [48], 0, 0, []⟩ := by
          cases n <;> rfl
        rw [e]
        show goF ⟨2, n, [48], 0, 0, []⟩ l = _
        cases l with
        | nil => rfl
        | cons y l =>
          cases hy : isD y with
          | true =>
            have hyn := d_not hy
            have hye : isE y = false := by
              cases hh : isE y with
              | false => rfl
              | true => rcases (isE_iff y).1 hh with h2 | h2 <;> simp [h2] at hyn
            have e2 : stepF ⟨2, n, [48], 0, 0, []⟩ y = none := by unfold stepF nextF; simp [hyn, hye]
            rw [go_cons, e2, if_pos (by simp [hy])]
            rfl
          | false =>
            have e3 : (y :: l).takeWhile isD = [] ∧ (y :: l).dropWhile isD = y :: l := by simp [hy]
            rw [e3.1, e3.2, if_neg (by simp), List.head?_cons, if_pos rfl]
            exact go_P _ _ (.inl rfl) rfl rfl rfl (fun z hz => by simp at hz; rw [← hz]; exact hy)
      · have e : stepF ⟨if n then 1 else 0, n, [], 0, 0, []⟩ c = some ⟨3, n, [c], 0, 0, []⟩ := by
          unfold stepF nextF
          cases n <;> simp [h48, hc, hcn, withF]
        rw [e]
        show goF ⟨3, n, [c], 0, 0, []⟩ l = _
        have h48' : ¬ (some c = some (48 : UInt8)) := fun h => h48 (Option.some.inj h)
        rw [go_3 _ _ rfl, if_neg (by simp [h48]), List.head?_cons, if_neg h48']
        exact go_P _ _ (.inr rfl) rfl rfl rfl (drop_head l)
theorem go_fwd (s : List UInt8) : goF t0 s = fwdF s := by
  unfold fwdF
  by_cases h : s.head? = some 45
  · rw [if_pos h]
    cases s with
    | nil => cases h
    | cons c s =>
      obtain rfl : c = 45 := by simpa using h
      rw [go_cons]
      have e : stepF t0 45 = some ⟨1, true, [], 0, 0, []⟩ := rfl
      rw [e]
      exact go_W true s (.inl rfl)
  · rw [if_neg h]
    exact go_W false s (.inr h)
/-! ## what is read -/
theorem fin_E (t : Nt) (s : List UInt8) (hp : t.p = 2 ∨ t.p = 3 ∨ t.p = 5) (hg : t.g = 0) (hx : t.x = []) : (fwdE t s).bind finF = readE t.n t.d (-(t.b : Int)) s := by
  obtain ⟨p, n, d, b, g, x⟩ := t
  dsimp only at hp hg hx ⊢
  subst hg hx
  unfold fwdE readE
  by_cases hs : s = []
  · rw [if_pos hs, if_pos hs]
    show finF _ = _
    have he : endsF p = true := by rcases hp with rfl | rfl | rfl <;> rfl
    unfold finF decF
    rw [if_pos he]
    simp [exF]
  · rw [if_neg hs, if_neg hs]
    by_cases hh : s.head? = some 101 ∨ s.head? = some 69
    · rw [if_pos hh, if_pos hh]
      dsimp only
      generalize s.tail = r
      have key : ∀ k : List UInt8, ∀ g : UInt8, ∀ m : Int → Int, (∀ z : Nat, (if g = 45 then -(z : Int) else z) = m z) → ((if k = [] then some (⟨if g = 0 then 6 else 7, n, d, b, g, []⟩ : Nt) else if k.dropWhile isD = [] then some ⟨8, n, d, b, g, k⟩ else none).bind finF) = if k.takeWhile isD = [] then none else if k.dropWhile isD = [] then some (normF ⟨n, d, -(b : Int) + m (exF (k.takeWhile isD))⟩) else none := by
        intro k g m hm
        by_cases hk : k = []
        · subst hk
          have e1 : ([] : List UInt8).takeWhile isD = [] := rfl
          have e2 : endsF (if g = 0 then 6 else 7) = false := by split <;> rfl
          rw [if_pos rfl, if_pos e1]
          show (if endsF (if g = 0 then 6 else 7) = true then some (normF (decF ⟨if g = 0 then 6 else 7, n, d, b, g, []⟩)) else none) = none
          rw [e2]; rfl
        · rw [if_neg hk]
          by_cases hd : k.dropWhile isD = []
          · have ht : k.takeWhile isD = k := by
              have := List.takeWhile_append_dropWhile (p := isD) (l := k)
              rwa [hd, List.append_nil] at this
            rw [if_pos hd, ht, if_neg hk, if_pos hd]
            show finF _ = _
            unfold finF decF
            dsimp only
            rw [if_pos (by rfl), hm]
          · rw [if_neg hd, if_neg hd]
            split <;> rfl
      have k1 := key r.tail 45 (fun z => -z) (fun z => by simp)
      have k2 := key r.tail 43 (fun z => z) (fun z => by simp)
      have k3 := key r 0 (fun z => z) (fun z => by simp)
      by_cases h45 : r.head? = some 45
      · simp only [h45, true_or, if_true] at k1 ⊢
        exact k1
      · by_cases h43 : r.head? = some 43
        · have hne : ¬ (some (43 : UInt8) = some 45) := by decide
          simp only [h43, hne, or_true, if_true, if_false] at k2 ⊢
          exact k2
        · simp only [h45, h43, or_self, if_false] at k3 ⊢
          exact k3
    · rw [if_neg hh, if_neg hh]; rfl
theorem fin_P (t : Nt) (s : List UInt8) (hp : t.p = 2 ∨ t.p = 3) (hb : t.b = 0) (hg : t.g = 0) (hx : t.x = []) : (fwdP t s).bind finF = readP t.n t.d s := by
  unfold fwdP readP
  by_cases h : s.head? = some 46
  · rw [if_pos h, if_pos h]
    by_cases hf : s.tail.takeWhile isD = []
    · rw [if_pos hf, if_pos hf]
      split
      · show finF _ = none
        unfold finF
        rw [if_neg (fun h => by cases h)]
      · rfl
    · rw [if_neg hf, if_neg hf]
      exact fin_E _ _ (.inr (.inr rfl)) hg hx
  · rw [if_neg h, if_neg h]
    have := fin_E t s (by omega) hg hx
    rw [this, hb]
    rfl
theorem fin_W (n : Bool) (s : List UInt8) : (fwdW n s).bind finF = readW n s := by
  unfold fwdW readW
  by_cases h0 : s.takeWhile isD = []
  · have h0' : s.takeWhile isD = [] ∨ (1 < (s.takeWhile isD).length ∧ s.head? = some 48) := .inl h0
    rw [if_pos h0, if_pos h0']
    by_cases hs : s = []
    · rw [if_pos hs]
      show finF _ = none
      unfold finF
      cases n <;> rfl
    · rw [if_neg hs]; rfl
  · by_cases h1 : 1 < (s.takeWhile isD).length ∧ s.head? = some 48
    · have h0' : s.takeWhile isD = [] ∨ (1 < (s.takeWhile isD).length ∧ s.head? = some 48) := .inr h1
      rw [if_neg h0, if_pos h1, if_pos h0']; rfl
    · have h0' : ¬ (s.takeWhile isD = [] ∨ (1 < (s.takeWhile isD).length ∧ s.head? = some 48)) := fun h => h.elim h0 h1
      rw [if_neg h0, if_neg h1, if_neg h0']
      refine fin_P _ _ ?_ rfl rfl rfl
      show (if s.head? = some 48 then 2 else 3) = 2 ∨ (if s.head? = some 48 then 2 else 3) = 3
      split
      · exact .inl rfl
      · exact .inr rfl
theorem read_go (s : List UInt8) : readF s = (goF t0 s).bind finF := by
  rw [go_fwd]
  unfold fwdF readF
  by_cases h : s.head? = some 45
  · rw [if_pos h, if_pos h, fin_W]
  · rw [if_neg h, if_neg h, fin_W]
end Go.Proofs.YtiibfejgiilakaaDoor
