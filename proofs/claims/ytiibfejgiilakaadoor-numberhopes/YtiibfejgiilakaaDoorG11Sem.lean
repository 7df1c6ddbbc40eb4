/- What may become a number: the texts that some text behind them makes one that is whole and within. No program in it. -/
import Derived.Test.YtiibfejgiilakaaDoorG11Hope
namespace Go.Proofs.YtiibfejgiilakaaDoor
set_option linter.unusedVariables false

/-- what goes on behind t -/
structure Ext (t u : Nt) : Prop where
  d : ∃ m, u.d = t.d ++ m
  p6 : 6 ≤ t.p → u.d = t.d ∧ u.b = t.b ∧ u.n = t.n ∧ 6 ≤ u.p
  p7 : 7 ≤ t.p → u.g = t.g ∧ 7 ≤ u.p
  x : ∃ m, allD m ∧ u.x = t.x ++ m
theorem Ext.refl (t : Nt) : Ext t t := ⟨⟨[], by simp⟩, fun h => ⟨rfl, rfl, rfl, h⟩, fun h => ⟨rfl, h⟩, ⟨[], (fun c h => by cases h), by simp⟩⟩
theorem Ext.trans {t u v : Nt} (h : Ext t u) (k : Ext u v) : Ext t v := by
  obtain ⟨⟨m1, e1⟩, p1, q1, ⟨x1, a1, f1⟩⟩ := h
  obtain ⟨⟨m2, e2⟩, p2, q2, ⟨x2, a2, f2⟩⟩ := k
  refine ⟨⟨m1 ++ m2, by rw [e2, e1, List.append_assoc]⟩, fun h => ?_, fun h => ?_, ⟨x1 ++ x2, fun c hc => ?_, by rw [f2, f1, List.append_assoc]⟩⟩
  · obtain ⟨b1, b2, b3, b4⟩ := p1 h
    obtain ⟨c1, c2, c3, c4⟩ := p2 b4
    exact ⟨c1.trans b1, c2.trans b2, c3.trans b3, c4⟩
  · obtain ⟨b1, b2⟩ := q1 h
    obtain ⟨c1, c2⟩ := q2 b2
    exact ⟨c1.trans b1, c2⟩
  · rcases List.mem_append.1 hc with hc | hc
    · exact a1 c hc
    · exact a2 c hc
theorem ext_step {t u : Nt} {c : UInt8} (h : stepF t c = some u) : Ext t u := by
  unfold stepF at h
  cases hq : nextF t.p c with
  | none => rw [hq] at h; cases h
  | some q =>
    rw [hq] at h
    obtain rfl := Option.some.inj h
    have hnil : ∃ m, allD m ∧ t.x = t.x ++ m := ⟨[], (fun c h => by cases h), by simp⟩
    have hdn : ∃ m, t.d = t.d ++ m := ⟨[], by simp⟩
    rcases next_is hq with ⟨rfl, hp⟩ | ⟨rfl, hp, hc⟩ | ⟨rfl, hp, hc⟩ | ⟨rfl, hp⟩ | ⟨rfl, hp, hc⟩ | ⟨rfl, hp⟩ | ⟨rfl, hp⟩ | ⟨rfl, hp, hc⟩
    · exact ⟨hdn, fun h => by omega, fun h => by omega, hnil⟩
    · exact ⟨⟨[c], rfl⟩, fun h => by omega, fun h => by omega, hnil⟩
    · exact ⟨⟨[c], rfl⟩, fun h => by omega, fun h => by omega, hnil⟩
    · exact ⟨hdn, fun h => by omega, fun h => by omega, hnil⟩
    · exact ⟨⟨[c], rfl⟩, fun h => by omega, fun h => by omega, hnil⟩
    · exact ⟨hdn, fun h => by omega, fun h => by omega, hnil⟩
    · exact ⟨hdn, fun h => ⟨rfl, rfl, rfl, by show 6 ≤ 7; omega⟩, fun h => by omega, hnil⟩
    · refine ⟨hdn, fun h => ⟨rfl, rfl, rfl, by show 6 ≤ 8; omega⟩, fun h => ⟨rfl, by show 7 ≤ 8; omega⟩, ⟨[c], fun x hx => ?_, rfl⟩⟩
      rw [List.mem_singleton.1 hx]; exact hc
theorem ext_go {t u : Nt} {l : List UInt8} (h : goF t l = some u) : Ext t u := by
  induction l generalizing t with
  | nil => obtain rfl := Option.some.inj h; exact Ext.refl _
  | cons c l ih =>
    rw [go_cons] at h
    cases hs : stepF t c with
    | none => rw [hs] at h; cases h
    | some v => rw [hs] at h; exact (ext_step hs).trans (ih h)
/-- more digits: more digits, normed -/
theorem nrm_pre (d m : List UInt8) : ∃ k, nrm (d ++ m) = nrm d ++ k := by
  refine snoc8 (p := fun m => ∃ k, nrm (d ++ m) = nrm d ++ k) ⟨[], by simp⟩ (fun l c ih => ?_) m
  obtain ⟨k, hk⟩ := ih
  rw [← List.append_assoc]
  by_cases hc : c = 48
  · subst hc
    have h1 : frontL (d ++ l ++ [48]) = if frontL (d ++ l) = [] then [] else frontL (d ++ l) ++ [48] := front_snoc _
    by_cases hf : frontL (d ++ l) = []
    · rw [if_pos hf] at h1
      rw [nrm_nil.2 h1]
      rw [nrm_nil.2 hf] at hk
      exact ⟨k, hk⟩
    · rw [if_neg hf] at h1
      have : nrm (d ++ l ++ [48]) = nrm (d ++ l) := by unfold nrm; rw [h1, end_snoc, if_pos rfl]
      rw [this]
      exact ⟨k, hk⟩
  · have h1 := front_snoc_ne (d ++ l) hc
    have hn : nrm (d ++ l ++ [c]) = frontL (d ++ l) ++ [c] := by unfold nrm; rw [h1, end_snoc, if_neg hc]
    rw [hn, front_nrm (d ++ l), hk]
    exact ⟨_, by rw [List.append_assoc, List.append_assoc]⟩
theorem nrm_allD {d : List UInt8} (h : allD d) : allD (nrm d) := fun c hc => h c (front_mem (end_mem hc))
/-- Int says OK of what has normed digits -/
theorem int_ok {n : Bool} {d : List UInt8} {e : Int} (h : NmD d) (hi : (intF ⟨n, d, e⟩).2 = 0) : 0 ≤ e ∧ (intF ⟨false, d, e.toNat⟩).2 = 0 ∧ num d ≤ maxW ∧ d.length ≤ 16 := by
  have hne : errRange ≠ 0 := by decide
  have hne2 : errFraction ≠ 0 := by decide
  rw [intF_nm h] at hi
  by_cases h0 : e < 0
  · rw [if_pos h0] at hi; exact absurd hi hne2
  · rw [if_neg h0] at hi
    by_cases h1 : 16 < (d.length : Int) + e
    · rw [if_pos h1] at hi; exact absurd hi hne
    · rw [if_neg h1] at hi
      by_cases h2 : maxW < num d * 10 ^ e.toNat
      · rw [if_pos h2] at hi; exact absurd hi hne
      · have hp : 1 ≤ 10 ^ e.toNat := Nat.pow_pos (by omega)
        have hm : num d * 1 ≤ num d * 10 ^ e.toNat := Nat.mul_le_mul_left _ hp
        refine ⟨by omega, ?_, by omega, by omega⟩
        rw [intF_nm h]
        have e3 : (((e.toNat : Nat) : Int)).toNat = e.toNat := by omega
        rw [if_neg (by omega), if_neg (by omega), e3, if_neg h2]
theorem room_pos {d : List UInt8} (h : NmD d) (hd : allD d) (hn : num d ≤ maxW) (hl : d.length ≤ 16) : 0 ≤ roomF d := by
  have h1 := (room_ok h hd 0).1 (by
    rw [intF_nm h]
    have e3 : (((0 : Nat) : Int)).toNat = 0 := rfl
    rw [if_neg (by omega), if_neg (by omega), e3, Nat.pow_zero, Nat.mul_one, if_neg (by omega)])
  omega
theorem num_pre (a b : List UInt8) : num a ≤ num (a ++ b) := by
  rw [num_app]
  have hp : 1 ≤ 10 ^ b.length := Nat.pow_pos (by omega)
  have hm : num a * 1 ≤ num a * 10 ^ b.length := Nat.mul_le_mul_left _ hp
  omega
/-- what some text behind it makes one may become one -/
theorem may_of {s u : List UInt8} {t : Nt} {x : Dc} (hs : s.length ≤ 1000) (ht : goF t0 s = some t) (hr : readF (s ++ u) = some x) (hi : (intF x).2 = 0) : mayF t = true := by
  rw [read_go, go_app, ht] at hr
  have hr2 : (goF t u).bind finF = some x := hr
  cases hu : goF t u with
  | none => rw [hu] at hr2; cases hr2
  | some v =>
    rw [hu] at hr2
    have hf : finF v = some x := hr2
    unfold finF at hf
    cases he : endsF v.p with
    | false => rw [he] at hf; cases hf
    | true =>
      rw [he, if_pos rfl] at hf
      obtain rfl := Option.some.inj hf
      rw [int_norm, ← as_int] at hi
      have hE := ext_go hu
      have hgt := good_go ht
      have hgv : Good (s ++ u) v := good_go (by rw [go_app, ht]; exact hu)
      unfold mayF mayR
      by_cases h0 : (rgOf t).d = []
      · rw [if_pos h0]
      · rw [if_neg h0]
        have hD : nrm t.d ≠ [] := h0
        obtain ⟨m, hm⟩ := hE.d
        obtain ⟨k, hk⟩ := nrm_pre t.d m
        rw [← hm] at hk
        have hDv : nrm v.d ≠ [] := by rw [hk]; intro h; exact hD (List.append_eq_nil_iff.1 h).1
        have hI := int_ok (n := v.n) (d := nrm v.d) (e := (asR (rgOf v)).e) (nrm_nm hDv) hi
        obtain ⟨i1, i2, i3, i4⟩ := hI
        have hroom : 0 ≤ roomF (nrm t.d) := room_pos (nrm_nm hD) (nrm_allD hgt.d) (by
          have := num_pre (nrm t.d) k
          rw [← hk] at this
          omega) (by
          have := congrArg List.length hk
          rw [List.length_append] at this
          omega)
        have hroom' : ¬ roomF (rgOf t).d < 0 := by show ¬ roomF (nrm t.d) < 0; omega
        rw [if_neg hroom']
        have hle := (room_le (nrm t.d)).1
        have hfl := front_len t.d
        have hld := hgt.ld
        have hlb := hgt.lb
        have hz : (rgOf t).z = (frontL t.d).length - (nrm t.d).length := rfl
        have hlo : -2000 ≤ loF (rgOf t) ∧ loF (rgOf t) ≤ 2000 := by
          unfold loF
          show -2000 ≤ (if (t.g == 45) = true then -(((t.b : Nat) : Int) - ((frontL t.d).length - (nrm t.d).length : Nat) + roomF (nrm t.d)) else ((t.b : Nat) : Int) - ((frontL t.d).length - (nrm t.d).length : Nat)) ∧ (if (t.g == 45) = true then -(((t.b : Nat) : Int) - ((frontL t.d).length - (nrm t.d).length : Nat) + roomF (nrm t.d)) else ((t.b : Nat) : Int) - ((frontL t.d).length - (nrm t.d).length : Nat)) ≤ 2000
          split <;> omega
        have hhi : -2000 ≤ hiF (rgOf t) ∧ hiF (rgOf t) ≤ 2000 := by
          unfold hiF
          show -2000 ≤ (if (t.g == 45) = true then -(((t.b : Nat) : Int) - ((frontL t.d).length - (nrm t.d).length : Nat)) else ((t.b : Nat) : Int) - ((frontL t.d).length - (nrm t.d).length : Nat) + roomF (nrm t.d)) ∧ (if (t.g == 45) = true then -(((t.b : Nat) : Int) - ((frontL t.d).length - (nrm t.d).length : Nat)) else ((t.b : Nat) : Int) - ((frontL t.d).length - (nrm t.d).length : Nat) + roomF (nrm t.d)) ≤ 2000
          split <;> omega
        -- behind the power's sign
        have hpow : 7 ≤ t.p → ∃ n : List UInt8, allD n ∧ v.x = t.x ++ n ∧ loF (rgOf t) ≤ (exF v.x : Int) ∧ (exF v.x : Int) ≤ hiF (rgOf t) := by
          intro h7
          obtain ⟨b1, b2, b3, b4⟩ := hE.p6 (by omega)
          obtain ⟨c1, c2⟩ := hE.p7 h7
          obtain ⟨n, hn, hx⟩ := hE.x
          refine ⟨n, hn, hx, ?_⟩
          have hre := (room_ok (nrm_nm hDv) (nrm_allD hgv.d) _).1 i2
          have hae : (asR (rgOf v)).e = (((frontL v.d).length - (nrm v.d).length : Nat) : Int) - v.b + (if (v.g == 45) = true then -(exF v.x : Int) else exF v.x) := rfl
          rw [hae] at i1 hre
          rw [b1, b2, c1] at i1 hre
          have e1 : loF (rgOf t) = (if (t.g == 45) = true then -(((t.b : Nat) : Int) - ((frontL t.d).length - (nrm t.d).length : Nat) + roomF (nrm t.d)) else ((t.b : Nat) : Int) - ((frontL t.d).length - (nrm t.d).length : Nat)) := rfl
          have e2 : hiF (rgOf t) = (if (t.g == 45) = true then -(((t.b : Nat) : Int) - ((frontL t.d).length - (nrm t.d).length : Nat)) else ((t.b : Nat) : Int) - ((frontL t.d).length - (nrm t.d).length : Nat) + roomF (nrm t.d)) := rfl
          rw [e1, e2]
          cases hg : (t.g == 45) with
          | true => rw [hg] at i1 hre; simp only [if_true] at i1 hre ⊢; omega
          | false => rw [hg] at i1 hre; simp only [Bool.false_eq_true, if_false] at i1 hre ⊢; omega
        have hp8 := hgt.p
        by_cases h7 : t.p = 7
        · have h7' : (rgOf t).p = 7 := h7
          rw [if_pos h7']
          obtain ⟨n, hn, hx, y1, y2⟩ := hpow (by omega)
          exact decide_eq_true ⟨by omega, by omega⟩
        · have h7' : ¬ (rgOf t).p = 7 := h7
          rw [if_neg h7']
          by_cases h8 : t.p = 8
          · have h8' : (rgOf t).p = 8 := h8
            rw [if_pos h8']
            obtain ⟨n, hn, hx, y1, y2⟩ := hpow (by omega)
            have hxv : exF v.x = num t.x * 10 ^ n.length + num n := by
              have h1 := exF_num v.x
              rw [hx, num_app] at h1
              rw [hx] at y2
              rw [hx]
              omega
            have hnl := num_lt hn
            have hxt : exF t.x = num t.x := by
              have h1 := exF_num t.x
              have hp : 1 ≤ 10 ^ n.length := Nat.pow_pos (by omega)
              have h2 : num t.x * 1 ≤ num t.x * 10 ^ n.length := Nat.mul_le_mul_left _ hp
              omega
            show reachB (exF t.x) _ _ = true
            rw [hxt]
            exact reach_any (by omega) (by omega) (k := n.length) (by omega) (by omega)
          · have h8' : ¬ (rgOf t).p = 8 := h8
            rw [if_neg h8']
            exact decide_eq_true ⟨by omega, by omega⟩
/-- a byte that is not OK: whatever stands behind it, it is none -/
theorem push_of {s u : List UInt8} {c : UInt8} {x : Dc} (hs : s.length + 1 ≤ 1000) (hr : readF (s ++ c :: u) = some x) (hi : (intF x).2 = 0) : pushF s c = 0 := by
  have e : s ++ c :: u = (s ++ [c]) ++ u := by simp
  rw [e] at hr
  unfold pushF
  cases ht : goF t0 (s ++ [c]) with
  | none => rw [read_go, go_app, ht] at hr; cases hr
  | some t =>
    have := may_of (by simp; omega) ht hr hi
    dsimp only
    rw [this, if_pos rfl]
theorem feed_of {l s : List UInt8} {x : Dc} (hs : s.length + l.length ≤ 1000) (hr : readF (s ++ l) = some x) (hi : (intF x).2 = 0) : feedF s l = (s ++ l, 0) := by
  induction l generalizing s with
  | nil => unfold feedF; simp
  | cons c l ih =>
    have h1 : (c :: l).length = l.length + 1 := rfl
    have hp := push_of (s := s) (c := c) (u := l) (by omega) hr hi
    unfold feedF
    rw [if_pos hp]
    have e : s ++ c :: l = (s ++ [c]) ++ l := by simp
    rw [e] at hr ⊢
    exact ih (by simp; omega) hr
/-- where a byte is not OK -/
theorem feed_stop {l s : List UInt8} (h : (feedF s l).2 ≠ 0) : ∃ a c b, l = a ++ c :: b ∧ (feedF s l).1 = s ++ a ∧ pushF (s ++ a) c ≠ 0 := by
  induction l generalizing s with
  | nil => exact absurd rfl h
  | cons c l ih =>
    unfold feedF at h ⊢
    by_cases hp : pushF s c = 0
    · rw [if_pos hp] at h ⊢
      obtain ⟨a, y, b, h1, h2, h3⟩ := ih h
      exact ⟨c :: a, y, b, by rw [h1]; rfl, by rw [h2]; simp, by simpa using h3⟩
    · rw [if_neg hp]
      exact ⟨[], c, l, rfl, by simp, by simpa using hp⟩
end Go.Proofs.YtiibfejgiilakaaDoor
