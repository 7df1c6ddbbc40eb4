/- A text that begins a number and its reading: what a byte behind it makes of both; what Push and End answer. No program in it. -/
import Derived.Test.YtiibfejgiilakaaDoorG11Rg
namespace Go.Proofs.YtiibfejgiilakaaDoor
set_option linter.unusedVariables false

def nrm (d : List UInt8) : List UInt8 := endL (frontL d)
def rgOf (t : Nt) : Rg := ⟨t.p, t.n, nrm t.d, (frontL t.d).length - (nrm t.d).length, t.b, t.g == 45, exF t.x⟩
def mayF (t : Nt) : Bool := mayR (rgOf t)
def pushF (s : List UInt8) (c : UInt8) : Int :=
  match goF t0 (s ++ [c]) with
  | none => 2
  | some t => if mayF t = true then 0 else if wholeF (decF t) = true then 8 else 7
def stopF (s : List UInt8) : Int × Int :=
  match readF s with
  | none => (0, 3)
  | some x => intF x
/-- fed byte by byte till one is not OK: what has been taken, and the error of the first that is not OK -/
def feedF : List UInt8 → List UInt8 → List UInt8 × Int
  | s, [] => (s, 0)
  | s, c :: l => if pushF s c = 0 then feedF (s ++ [c]) l else (s, pushF s c)
theorem norm_eq (n : Bool) (d : List UInt8) (e : Int) : normF ⟨n, d, e⟩ = if nrm d = [] then zeroD else ⟨n, nrm d, e + (((frontL d).length - (nrm d).length : Nat) : Int)⟩ := rfl
theorem nrm_nm {d : List UInt8} (h : nrm d ≠ []) : NmD (nrm d) := ⟨h, end_head (front_head _), end_last _⟩
theorem as_dec (t : Nt) : normF (asR (rgOf t)) = normF (decF t) := by
  unfold asR decF rgOf
  dsimp only
  rw [norm_eq t.n t.d]
  have hg : (if (t.g == 45) = true then -(exF t.x : Int) else (exF t.x : Int)) = (if t.g = 45 then -(exF t.x : Int) else (exF t.x : Int)) := by
    by_cases h : t.g = 45
    · rw [if_pos h, if_pos (by simpa using h)]
    · rw [if_neg h, if_neg (by simpa using h)]
  rw [hg]
  by_cases h0 : nrm t.d = []
  · rw [if_pos h0, h0]
    rfl
  · rw [if_neg h0, norm_id (x := ⟨t.n, nrm t.d, _⟩) (nrm_nm h0)]
    congr 1
    omega
theorem whole_norm (x : Dc) : wholeF (normF x) = wholeF x := by unfold wholeF; rw [norm_twice]
theorem int_norm (x : Dc) : intF (normF x) = intF x := by unfold intF; rw [norm_twice]
theorem as_whole (t : Nt) : wholeF (asR (rgOf t)) = wholeF (decF t) := by rw [← whole_norm, as_dec, whole_norm]
theorem as_int (t : Nt) : intF (asR (rgOf t)) = intF (decF t) := by rw [← int_norm, as_dec, int_norm]
/-- what holds wherever a text has come to -/
structure Good (s : List UInt8) (t : Nt) : Prop where
  p : t.p ≤ 8
  d0 : t.p ≤ 1 → t.d = []
  d1 : 2 ≤ t.p → t.d ≠ []
  d : allD t.d
  x : allD t.x
  g : t.p ≤ 6 → t.g = 0
  x0 : t.p ≤ 7 → t.x = []
  x1 : t.p = 8 → t.x ≠ []
  b0 : t.p ≤ 4 → t.b = 0
  ld : t.d.length ≤ s.length
  lb : t.b ≤ s.length
  lx : t.x.length ≤ s.length
theorem good_0 : Good [] t0 := ⟨by decide, fun _ => rfl, fun h => by exact absurd h (by decide), (fun c h => by cases h), (fun c h => by cases h), fun _ => rfl, fun _ => rfl, fun h => by exact absurd h (by decide), fun _ => rfl, Nat.le_refl _, Nat.le_refl _, Nat.le_refl _⟩
theorem allD_snoc {l : List UInt8} {c : UInt8} (h : allD l) (hc : isD c = true) : allD (l ++ [c]) := fun x hx => by
  rcases List.mem_append.1 hx with hx | hx
  · exact h x hx
  · rw [List.mem_singleton.1 hx]; exact hc
/-- which places follow which -/
theorem next_is {p q : Nat} {c : UInt8} (h : nextF p c = some q) : (q = 1 ∧ p = 0) ∨ (q = 2 ∧ p ≤ 1 ∧ c = 48) ∨ (q = 3 ∧ (p ≤ 1 ∨ p = 3) ∧ isD c = true) ∨ (q = 4 ∧ (p = 2 ∨ p = 3)) ∨ (q = 5 ∧ (p = 4 ∨ p = 5) ∧ isD c = true) ∨ (q = 6 ∧ (p = 2 ∨ p = 3 ∨ p = 5)) ∨ (q = 7 ∧ p = 6) ∨ (q = 8 ∧ (p = 6 ∨ p = 7 ∨ p = 8) ∧ isD c = true) := by
  unfold nextF at h
  split at h <;> (repeat' split at h) <;> first | (obtain rfl := Option.some.inj h; simp_all) | cases h
theorem good_step {s : List UInt8} {t u : Nt} {c : UInt8} (h : Good s t) (hs : stepF t c = some u) : Good (s ++ [c]) u := by
  unfold stepF at hs
  cases hq : nextF t.p c with
  | none => rw [hq] at hs; cases hs
  | some q =>
    rw [hq] at hs
    obtain rfl := Option.some.inj hs
    have hn := next_is hq
    obtain ⟨a1, a2, a3, a4, a5, a6, a7, a8, a9, a10, a11, a12⟩ := h
    have hl : (s ++ [c]).length = s.length + 1 := by simp
    rcases hn with ⟨rfl, hp⟩ | ⟨rfl, hp, hc⟩ | ⟨rfl, hp, hc⟩ | ⟨rfl, hp⟩ | ⟨rfl, hp, hc⟩ | ⟨rfl, hp⟩ | ⟨rfl, hp⟩ | ⟨rfl, hp, hc⟩
    · exact ⟨by show 1 ≤ 8; omega, fun _ => a2 (by omega), fun h => absurd (show 2 ≤ 1 from h) (by decide), a4, a5, fun _ => a6 (by omega), fun _ => a7 (by omega), fun h => absurd (show 1 = 8 from h) (by decide), fun _ => a9 (by omega), by rw [hl]; (show t.d.length ≤ _; omega), by rw [hl]; (show t.b ≤ _; omega), by rw [hl]; (show t.x.length ≤ _; omega)⟩
    · exact ⟨by show 2 ≤ 8; omega, fun h => absurd (show 2 ≤ 1 from h) (by decide), fun _ => by show t.d ++ [c] ≠ []; simp, allD_snoc a4 (by rw [hc]; rfl), a5, fun _ => a6 (by omega), fun _ => a7 (by omega), fun h => absurd (show 2 = 8 from h) (by decide), fun _ => a9 (by omega), by rw [hl]; (show (t.d ++ [c]).length ≤ _; simp; omega), by rw [hl]; (show t.b ≤ _; omega), by rw [hl]; (show t.x.length ≤ _; omega)⟩
    · exact ⟨by show 3 ≤ 8; omega, fun h => absurd (show 3 ≤ 1 from h) (by decide), fun _ => by show t.d ++ [c] ≠ []; simp, allD_snoc a4 hc, a5, fun _ => a6 (by omega), fun _ => a7 (by omega), fun h => absurd (show 3 = 8 from h) (by decide), fun _ => a9 (by omega), by rw [hl]; (show (t.d ++ [c]).length ≤ _; simp; omega), by rw [hl]; (show t.b ≤ _; omega), by rw [hl]; (show t.x.length ≤ _; omega)⟩
    · exact ⟨by show 4 ≤ 8; omega, fun h => absurd (show 4 ≤ 1 from h) (by decide), fun _ => a3 (by omega), a4, a5, fun _ => a6 (by omega), fun _ => a7 (by omega), fun h => absurd (show 4 = 8 from h) (by decide), fun _ => a9 (by omega), by rw [hl]; (show t.d.length ≤ _; omega), by rw [hl]; (show t.b ≤ _; omega), by rw [hl]; (show t.x.length ≤ _; omega)⟩
    · exact ⟨by show 5 ≤ 8; omega, fun h => absurd (show 5 ≤ 1 from h) (by decide), fun _ => by show t.d ++ [c] ≠ []; simp, allD_snoc a4 hc, a5, fun _ => a6 (by omega), fun _ => a7 (by omega), fun h => absurd (show 5 = 8 from h) (by decide), fun h => absurd (show 5 ≤ 4 from h) (by decide), by rw [hl]; (show (t.d ++ [c]).length ≤ _; simp; omega), by rw [hl]; (show t.b + 1 ≤ _; omega), by rw [hl]; (show t.x.length ≤ _; omega)⟩
    · exact ⟨by show 6 ≤ 8; omega, fun h => absurd (show 6 ≤ 1 from h) (by decide), fun _ => a3 (by omega), a4, a5, fun _ => a6 (by omega), fun _ => a7 (by omega), fun h => absurd (show 6 = 8 from h) (by decide), fun h => absurd (show 6 ≤ 4 from h) (by decide), by rw [hl]; (show t.d.length ≤ _; omega), by rw [hl]; (show t.b ≤ _; omega), by rw [hl]; (show t.x.length ≤ _; omega)⟩
    · exact ⟨by show 7 ≤ 8; omega, fun h => absurd (show 7 ≤ 1 from h) (by decide), fun _ => a3 (by omega), a4, a5, fun h => absurd (show 7 ≤ 6 from h) (by decide), fun _ => a7 (by omega), fun h => absurd (show 7 = 8 from h) (by decide), fun h => absurd (show 7 ≤ 4 from h) (by decide), by rw [hl]; (show t.d.length ≤ _; omega), by rw [hl]; (show t.b ≤ _; omega), by rw [hl]; (show t.x.length ≤ _; omega)⟩
    · exact ⟨by show 8 ≤ 8; omega, fun h => absurd (show 8 ≤ 1 from h) (by decide), fun _ => a3 (by omega), a4, allD_snoc a5 hc, fun h => absurd (show 8 ≤ 6 from h) (by decide), fun h => absurd (show 8 ≤ 7 from h) (by decide), fun _ => by show t.x ++ [c] ≠ []; simp, fun h => absurd (show 8 ≤ 4 from h) (by decide), by rw [hl]; (show t.d.length ≤ _; omega), by rw [hl]; (show t.b ≤ _; omega), by rw [hl]; (show (t.x ++ [c]).length ≤ _; simp; omega)⟩
theorem good_go {s : List UInt8} {t : Nt} (h : goF t0 s = some t) : Good s t := by
  refine snoc8 (p := fun s => ∀ t, goF t0 s = some t → Good s t) (fun t h => ?_) (fun l c ih t h => ?_) s t h
  · obtain rfl := Option.some.inj h; exact good_0
  · rw [go_snoc] at h
    cases hu : goF t0 l with
    | none => rw [hu] at h; cases h
    | some u => rw [hu] at h; exact good_step (ih u hu) h
theorem front_len (d : List UInt8) : (frontL d).length - (nrm d).length ≤ d.length ∧ (nrm d).length ≤ d.length := by
  have h1 := front_le d
  have h2 := end_le (frontL d)
  unfold nrm
  omega
/-! ## the reading behind one more byte -/
theorem front_snoc_ne (d : List UInt8) {c : UInt8} (hc : c ≠ 48) : frontL (d ++ [c]) = frontL d ++ [c] := by
  induction d with
  | nil => rw [List.nil_append, front_cons, if_neg hc]; rfl
  | cons x d ih =>
    rw [List.cons_append, front_cons, front_cons]
    by_cases h : x = 48
    · rw [if_pos h, if_pos h]; exact ih
    · rw [if_neg h, if_neg h]; rfl
theorem nrm_nil {d : List UInt8} : nrm d = [] ↔ frontL d = [] := by
  constructor
  · intro h
    obtain ⟨m, e, hm⟩ := end_pre (frontL d)
    unfold nrm at h
    rw [h, List.nil_append] at e
    cases m with
    | nil => exact e
    | cons c m =>
      have h1 := front_head d
      rw [e] at h1
      exact absurd (by rw [hm c (by simp)]; rfl) h1
  · intro h; unfold nrm; rw [h]; rfl
theorem front_nrm (d : List UInt8) : frontL d = nrm d ++ List.replicate ((frontL d).length - (nrm d).length) 48 := by
  obtain ⟨m, e, hm⟩ := end_pre (frontL d)
  have hm2 : m = List.replicate m.length 48 := List.eq_replicate_iff.2 ⟨rfl, hm⟩
  have hl : (frontL d).length - (nrm d).length = m.length := by
    have := congrArg List.length e
    rw [List.length_append] at this
    unfold nrm
    omega
  rw [hl, ← hm2]
  exact e
/-- a digit taken -/
theorem take_rg (d : List UInt8) (r : Rg) (c : UInt8) (hd : r.d = nrm d) (hz : r.z = (frontL d).length - (nrm d).length) :
    takeR r c = { r with d := nrm (d ++ [c]), z := (frontL (d ++ [c])).length - (nrm (d ++ [c])).length } ∨ ((takeR r c).d ≠ [] ∧ 16 < (takeR r c).d.length ∧ 16 < (nrm (d ++ [c])).length ∧ (takeR r c).z = 0 ∧ (frontL (d ++ [c])).length - (nrm (d ++ [c])).length = 0 ∧ NmD (takeR r c).d ∧ takeR r c = { r with d := (takeR r c).d, z := 0 }) := by
  by_cases hc : c = 48
  · left
    subst hc
    have h1 : frontL (d ++ [48]) = if frontL d = [] then [] else frontL d ++ [48] := front_snoc d
    unfold takeR
    rw [if_pos rfl]
    by_cases h0 : r.d = []
    · have hf : frontL d = [] := nrm_nil.1 (by rw [← hd]; exact h0)
      rw [if_pos hf] at h1
      have hn : nrm (d ++ [48]) = [] := nrm_nil.2 h1
      rw [if_pos h0, hn, h1]
      have hz0 : r.z = 0 := by rw [hz, hf]; simp
      obtain ⟨p, n, d', z, b, m, w⟩ := r
      simp only at h0 hz0
      subst h0 hz0
      rfl
    · have hf : ¬ frontL d = [] := fun h => h0 (by rw [hd]; exact nrm_nil.2 h)
      rw [if_neg hf] at h1
      have hn : nrm (d ++ [48]) = nrm d := by unfold nrm; rw [h1, end_snoc, if_pos rfl]
      rw [if_neg h0, hn, h1, ← hd]
      have hl := end_le (frontL d)
      have e : (frontL d ++ [48]).length - r.d.length = r.z + 1 := by
        rw [List.length_append, List.length_singleton, hz, hd]
        unfold nrm at *
        omega
      rw [e]
  · have h1 := front_snoc_ne d hc
    have hn : nrm (d ++ [c]) = frontL d ++ [c] := by unfold nrm; rw [h1, end_snoc, if_neg hc]
    have hz0 : (frontL (d ++ [c])).length - (nrm (d ++ [c])).length = 0 := by rw [hn, h1]; omega
    have hfn := front_nrm d
    rw [← hz, ← hd] at hfn
    by_cases h16 : r.z ≤ 16
    · left
      unfold takeR
      rw [if_neg hc, hz0, hn, hfn, Nat.min_eq_left h16, List.append_assoc]
    · right
      have e : takeR r c = { r with d := r.d ++ (List.replicate (min r.z 16) 48 ++ [c]), z := 0 } := by unfold takeR; rw [if_neg hc]
      have hm : min r.z 16 = 16 := by omega
      rw [e, hm]
      dsimp only
      have hne : r.d ≠ [] := by
        intro h
        have := nrm_nil.1 (by rw [← hd]; exact h)
        rw [hz, this] at h16
        simp at h16
      refine ⟨by simp, by simp only [List.length_append, List.length_replicate, List.length_singleton]; omega, ?_, rfl, hz0, ⟨by simp, ?_, ?_⟩, rfl⟩
      · rw [hn, hfn]; simp; omega
      · have hh := (nrm_nm (d := d) (by rw [← hd]; exact hne)).2.1
        rw [← hd] at hh
        cases hr : r.d with
        | nil => exact absurd hr hne
        | cons y l => rw [hr] at hh; simpa using hh
      · rw [← List.append_assoc, List.getLast?_append]; simpa using hc
theorem may_long {r : Rg} (h : r.d ≠ []) (hl : 16 < r.d.length) : mayR r = false := by
  unfold mayR
  have : roomF r.d < 0 := by unfold roomF; split <;> omega
  rw [if_neg h, if_pos this]
theorem whole_nm {n : Bool} {d : List UInt8} {e : Int} (h : NmD d) : wholeF ⟨n, d, e⟩ = decide (0 ≤ e) := by unfold wholeF; rw [norm_id (x := ⟨n, d, e⟩) h]
theorem whole_as {r : Rg} (h : NmD r.d) : wholeF (asR r) = decide (0 ≤ (r.z : Int) - r.b + (if r.m then -(r.w : Int) else r.w)) := whole_nm h
/-- what with makes of a text's reading is that text's with the byte behind it, or both are too long to become one, and whole or not whole -/
theorem with_rg {s : List UInt8} {t : Nt} {c : UInt8} {q : Nat} (h : Good s t) (hq : nextF t.p c = some q) :
    withR (rgOf t) c q = rgOf (withF t c q) ∨ (mayR (withR (rgOf t) c q) = false ∧ mayF (withF t c q) = false ∧ wholeF (asR (withR (rgOf t) c q)) = wholeF (decF (withF t c q))) := by
  rcases next_is hq with ⟨rfl, hp⟩ | ⟨rfl, hp, hc⟩ | ⟨rfl, hp, hc⟩ | ⟨rfl, hp⟩ | ⟨rfl, hp, hc⟩ | ⟨rfl, hp⟩ | ⟨rfl, hp⟩ | ⟨rfl, hp, hc⟩
  · exact .inl rfl
  · left
    have hd := h.d0 hp
    subst hc
    unfold rgOf withR withF
    simp only [hd]
    rfl
  · have e : withR (rgOf t) c 3 = takeR { rgOf t with p := 3 } c := rfl
    rcases take_rg t.d { rgOf t with p := 3 } c rfl rfl with h1 | ⟨h1, h2, h3, h4, h5, h6, h7⟩
    · left; rw [e, h1]; rfl
    · right
      rw [e]
      have h8 : nrm (t.d ++ [c]) ≠ [] := fun h => by rw [h] at h3; simp at h3
      refine ⟨may_long h1 h2, may_long (r := rgOf (withF t c 3)) h8 h3, ?_⟩
      have hb := congrArg Rg.b h7
      have hm := congrArg Rg.m h7
      have hw := congrArg Rg.w h7
      have hz : (rgOf (withF t c 3)).z = 0 := h5
      rw [← as_whole, whole_as h6, whole_as (r := rgOf (withF t c 3)) (nrm_nm h8), h4, hb, hm, hw, hz]
      rfl
  · exact .inl rfl
  · have e : withR (rgOf t) c 5 = takeR { rgOf t with p := 5, b := t.b + 1 } c := rfl
    rcases take_rg t.d { rgOf t with p := 5, b := t.b + 1 } c rfl rfl with h1 | ⟨h1, h2, h3, h4, h5, h6, h7⟩
    · left; rw [e, h1]; rfl
    · right
      rw [e]
      have h8 : nrm (t.d ++ [c]) ≠ [] := fun h => by rw [h] at h3; simp at h3
      refine ⟨may_long h1 h2, may_long (r := rgOf (withF t c 5)) h8 h3, ?_⟩
      have hb := congrArg Rg.b h7
      have hm := congrArg Rg.m h7
      have hw := congrArg Rg.w h7
      have hz : (rgOf (withF t c 5)).z = 0 := h5
      rw [← as_whole, whole_as h6, whole_as (r := rgOf (withF t c 5)) (nrm_nm h8), h4, hb, hm, hw, hz]
      rfl
  · exact .inl rfl
  · exact .inl rfl
  · left
    show ({ rgOf t with p := 8, w := min (10 * exF t.x + dv c) 1000000000 } : Rg) = _
    rw [← exF_snoc]
    rfl
end Go.Proofs.YtiibfejgiilakaaDoor
