/- The document's More, by its ways: what each answers makes a number. No program in it. -/
import Derived.Test.YtiibfejgiilakaaDoorG11More
import Derived.Test.YtiibfejgiilakaaDoorR11May
namespace Go.Proofs.YtiibfejgiilakaaDoor
set_option maxRecDepth 100000
set_option linter.unusedVariables false

theorem makes_none : Makes [] [48] := ⟨_, by rw [List.nil_append]; rfl, by kernel_rfl⟩
theorem makes_minus : Makes [45] [48] := ⟨_, rfl, by kernel_rfl⟩
/-- where the digits themselves are within -/
theorem within {t : Nt} (hd : allD t.d) (hi : (intF ⟨false, t.d, -(t.b : Int)⟩).2 = 0) : nrm t.d = [] ∨ (0 ≤ eOf t ∧ eOf t ≤ roomF (nrm t.d)) := by
  by_cases h0 : nrm t.d = []
  · exact .inl h0
  · right
    rw [← int_norm, norm_eq, if_neg h0] at hi
    obtain ⟨i1, i2, i3, i4⟩ := int_ok (nrm_nm h0) hi
    have := (room_ok (nrm_nm h0) (nrm_allD hd) _).1 i2
    unfold eOf
    rw [if_neg h0]
    omega
theorem within_not {t : Nt} (hi : (intF ⟨false, t.d, -(t.b : Int)⟩).2 ≠ 0) : nrm t.d ≠ [] := fun h0 => hi (by
  rw [← int_norm, norm_eq, if_pos h0]
  rfl)
theorem may_room {t : Nt} (h0 : nrm t.d ≠ []) (hm : mayF t = true) : 0 ≤ roomF (nrm t.d) := by
  unfold mayF mayR at hm
  have h0' : ¬ (rgOf t).d = [] := h0
  rw [if_neg h0'] at hm
  by_cases hr : roomF (rgOf t).d < 0
  · rw [if_pos hr] at hm; cases hm
  · have : ¬ roomF (nrm t.d) < 0 := hr
    omega
/-- the text as it stands: a point that has no digit gets one -/
def dotL (t : Nt) : List UInt8 := if t.p = 4 then [48] else []
def dotT (t : Nt) : Nt := if t.p = 4 then { t with p := 5, d := t.d ++ [48], b := t.b + 1 } else t
theorem go_dot {t : Nt} : goF t (dotL t) = some (dotT t) := by
  unfold dotL dotT
  by_cases h : t.p = 4
  · rw [if_pos h, if_pos h]
    obtain ⟨p, n, d, b, g, x⟩ := t
    obtain rfl : p = 4 := h
    rfl
  · rw [if_neg h, if_neg h]
    rfl
theorem dot_same {t : Nt} (hd : allD t.d) : allD (dotT t).d ∧ nrm (dotT t).d = nrm t.d ∧ (nrm t.d ≠ [] → (((frontL (dotT t).d).length - (nrm (dotT t).d).length : Nat) : Int) - (dotT t).b = (((frontL t.d).length - (nrm t.d).length : Nat) : Int) - t.b) ∧ (dotT t).g = t.g ∧ (dotT t).x = t.x ∧ ((2 ≤ t.p ∧ t.p ≤ 5) → (dotT t).p = 2 ∨ (dotT t).p = 3 ∨ (dotT t).p = 5) := by
  unfold dotT
  by_cases h : t.p = 4
  · rw [if_pos h]
    have h1 : frontL (t.d ++ [48]) = if frontL t.d = [] then [] else frontL t.d ++ [48] := front_snoc _
    have h2 : nrm (t.d ++ [48]) = nrm t.d := by
      by_cases hf : frontL t.d = []
      · rw [if_pos hf] at h1
        rw [nrm_nil.2 h1, nrm_nil.2 hf]
      · rw [if_neg hf] at h1
        unfold nrm
        rw [h1, end_snoc, if_pos rfl]
    refine ⟨allD_snoc hd rfl, h2, fun hn => ?_, rfl, rfl, fun _ => .inr (.inr rfl)⟩
    show (((frontL (t.d ++ [48])).length - (nrm (t.d ++ [48])).length : Nat) : Int) - ((t.b + 1 : Nat) : Int) = _
    have hf : frontL t.d ≠ [] := fun e => hn (nrm_nil.2 e)
    rw [if_neg hf] at h1
    have hle : (nrm t.d).length ≤ (frontL t.d).length := by
      have := congrArg List.length (front_nrm t.d)
      rw [List.length_append] at this
      omega
    rw [h2, h1, List.length_append]
    show (((frontL t.d).length + 1 - (nrm t.d).length : Nat) : Int) - ((t.b + 1 : Nat) : Int) = _
    omega
  · rw [if_neg h]
    exact ⟨hd, rfl, fun _ => rfl, rfl, rfl, fun hp => by omega⟩
theorem dot_ends {v : Nt} (h : v.p = 2 ∨ v.p = 3 ∨ v.p = 5) : endsF v.p = true := by
  rcases h with h | h | h <;> rw [h] <;> rfl
theorem makes_dot {s : List UInt8} {t : Nt} (ht : goF t0 s = some t) (hp : 2 ≤ t.p ∧ t.p ≤ 5) (hi : (intF ⟨false, t.d, -(t.b : Int)⟩).2 = 0) : Makes s (dotL t) := by
  have hg := good_go ht
  obtain ⟨d1, d2, d3, d4, d5, d6⟩ := dot_same hg.d
  refine mk_of ht go_dot (dot_ends (d6 hp)) (int_at d1 ?_)
  rw [d2]
  rcases within hg.d hi with h | ⟨h1, h2⟩
  · exact .inl h
  · by_cases h0 : nrm t.d = []
    · exact .inl h0
    · right
      have hgz : t.g = 0 := hg.g (by omega)
      have hxz : t.x = [] := hg.x0 (by omega)
      rw [as_e, d3 h0, d4, d5, hgz, hxz]
      unfold eOf at h1 h2
      rw [if_neg h0] at h1 h2
      have e1 : (if (((0 : UInt8) == 45) = true) then -((exF [] : Nat) : Int) else ((exF [] : Nat) : Int)) = 0 := rfl
      rw [e1]
      omega
/-- an exponent that brings the digits to stand as they are -/
theorem exp_at {v : Nt} {k : Int} (hd : allD v.d) (hk : -2000 ≤ k ∧ k ≤ 2000) (h : nrm v.d ≠ [] → (((frontL v.d).length - (nrm v.d).length : Nat) : Int) - v.b + k = 0 ∧ 0 ≤ roomF (nrm v.d)) : (intF (decF { v with p := 8, g := if k < 0 then 45 else 0, x := dig k.natAbs })).2 = 0 := by
  refine int_at hd ?_
  show nrm v.d = [] ∨ _
  by_cases h0 : nrm v.d = []
  · exact .inl h0
  · right
    obtain ⟨h1, h2⟩ := h h0
    rw [as_e]
    have hx : exF (dig k.natAbs) = k.natAbs := by rw [exF_num, dig_num]; omega
    show 0 ≤ (((frontL v.d).length - (nrm v.d).length : Nat) : Int) - v.b + (if (((if k < 0 then 45 else 0 : UInt8) == 45) = true) then -((exF (dig k.natAbs) : Nat) : Int) else ((exF (dig k.natAbs) : Nat) : Int)) ∧ (((frontL v.d).length - (nrm v.d).length : Nat) : Int) - v.b + (if (((if k < 0 then 45 else 0 : UInt8) == 45) = true) then -((exF (dig k.natAbs) : Nat) : Int) else ((exF (dig k.natAbs) : Nat) : Int)) ≤ roomF (nrm v.d)
    rw [hx]
    have e : (if (((if k < 0 then 45 else 0 : UInt8) == 45) = true) then -((k.natAbs : Nat) : Int) else ((k.natAbs : Nat) : Int)) = k := by
      by_cases hk0 : k < 0
      · rw [if_pos hk0, if_pos (by decide)]; omega
      · rw [if_neg hk0, if_neg (by decide)]; omega
    rw [e]
    omega
theorem e_bd {s : List UInt8} {t : Nt} (hs : s.length ≤ 1000) (ht : goF t0 s = some t) : -1000 ≤ eOf t ∧ eOf t ≤ 1000 := by
  have hg := good_go ht
  have hfl := front_len t.d
  have hld := hg.ld
  have hlb := hg.lb
  unfold eOf
  split <;> omega
theorem makes_e {s : List UInt8} {t : Nt} (hs : s.length ≤ 1000) (ht : goF t0 s = some t) (hp : 2 ≤ t.p ∧ t.p ≤ 5) (hm : mayF t = true) (hi : (intF ⟨false, t.d, -(t.b : Int)⟩).2 ≠ 0) : Makes s (dotL t ++ 101 :: printF (-(eOf t))) := by
  have hg := good_go ht
  have h0 := within_not hi
  obtain ⟨d1, d2, d3, d4, d5, d6⟩ := dot_same hg.d
  have hb := e_bd hs ht
  have hgz : (dotT t).g = 0 := d4.trans (hg.g (by omega))
  have hxz : (dotT t).x = [] := d5.trans (hg.x0 (by omega))
  have hstep : stepF (dotT t) 101 = some { dotT t with p := 6 } := by
    have hq : nextF (dotT t).p 101 = some 6 := by rcases d6 hp with h | h | h <;> rw [h] <;> rfl
    unfold stepF
    rw [hq]
    rfl
  have hgo : goF t (dotL t ++ 101 :: printF (-(eOf t))) = some { { dotT t with p := 6 } with p := 8, g := if -(eOf t) < 0 then 45 else 0, x := dig (-(eOf t)).natAbs } := by
    rw [go_app, go_dot]
    show goF (dotT t) (101 :: printF (-(eOf t))) = _
    rw [go_cons, hstep]
    show goF { dotT t with p := 6 } (printF (-(eOf t))) = _
    exact go_print (t := { dotT t with p := 6 }) rfl hgz hxz _
  refine mk_of ht hgo rfl (exp_at (v := { dotT t with p := 6 }) d1 (by omega) (fun hn => ?_))
  show (((frontL (dotT t).d).length - (nrm (dotT t).d).length : Nat) : Int) - (dotT t).b + -(eOf t) = 0 ∧ 0 ≤ roomF (nrm (dotT t).d)
  rw [d3 h0, d2]
  refine ⟨?_, may_room h0 hm⟩
  unfold eOf
  rw [if_neg h0]
  omega
theorem makes_p {s : List UInt8} {t : Nt} (hs : s.length ≤ 1000) (ht : goF t0 s = some t) (hp : t.p = 6) (hm : mayF t = true) : Makes s (printF (-(eOf t))) := by
  have hg := good_go ht
  have hb := e_bd hs ht
  have hgo := go_print hp (hg.g (by omega)) (hg.x0 (by omega)) (-(eOf t))
  refine mk_of ht hgo rfl (exp_at hg.d (by omega) (fun hn => ⟨?_, may_room hn hm⟩))
  unfold eOf
  rw [if_neg hn]
  omega
/-- some exponent within the loop's range is reached -/
theorem makes_loop {s : List UInt8} {t : Nt} (hs : s.length ≤ 1000) (ht : goF t0 s = some t) (hp : 7 ≤ t.p) (hm : mayF t = true) (h0 : nrm t.d ≠ []) : ∃ j : Nat, j ≤ 16 ∧ ∃ u, fitF (t.g == 45) t.x (-(eOf t) + j) = some u ∧ Makes s u := by
  have hg := good_go ht
  have hroom := may_room h0 hm
  have hdoc := may_doc hs ht h0 hroom
  rw [hm, if_neg (by omega)] at hdoc
  obtain ⟨k, hk, r1, r2⟩ := (reach_iff _ _ _).1 hdoc.symm
  rw [loF_eq] at r2
  rw [hiF_eq] at r1
  have hb := e_bd hs ht
  have hrl := (room_le (nrm t.d)).1
  have hE : eOf t = -(t.b : Int) + (((frontL t.d).length - (nrm t.d).length : Nat) : Int) := by unfold eOf; rw [if_neg h0]
  have hfl := front_len t.d
  have hld := hg.ld
  have hlb := hg.lb
  have hpk : 1 ≤ 10 ^ k := Nat.pow_pos (by omega)
  have hvm : exF t.x * 1 ≤ exF t.x * 10 ^ k := Nat.mul_le_mul_left _ hpk
  have hxn : exF t.x = num t.x := by
    have h1 := exF_num t.x
    have h2 : ((exF t.x * 10 ^ k : Nat) : Int) ≤ 3000 := by
      cases hgg : (t.g == 45) with
      | true => rw [hgg, if_pos rfl] at r1; omega
      | false => rw [hgg, if_neg (by decide)] at r1; omega
    omega
  rw [hxn] at r1 r2 hvm
  obtain ⟨V, hV⟩ : ∃ V, num t.x * 10 ^ k = V := ⟨_, rfl⟩
  obtain ⟨P, hP⟩ : ∃ P, 10 ^ k = P := ⟨_, rfl⟩
  have r2' : (if (t.g == 45) = true then -(((t.b : Nat) : Int) - ((frontL t.d).length - (nrm t.d).length : Nat) + roomF (nrm t.d)) else ((t.b : Nat) : Int) - ((frontL t.d).length - (nrm t.d).length : Nat)) ≤ ((V + P : Nat) : Int) - 1 := by rw [← hV, ← hP]; exact r2
  rw [hV] at r1
  rw [hP] at hpk
  have hx7 : t.p = 7 → t.x = [] := fun h => hg.x0 (by omega)
  have hp78 : t.p = 7 ∨ t.p = 8 := by have := hg.p; omega
  -- the exponent
  have pick : ∀ lo hi : Int, (V : Int) ≤ hi → lo ≤ ((V + P : Nat) : Int) - 1 → lo ≤ hi → ∃ X : Nat, lo ≤ X ∧ (X : Int) ≤ hi ∧ V ≤ X ∧ X - V < P := by
    intro lo hi a1 a2 a3
    by_cases h : lo ≤ (V : Int)
    · exact ⟨V, h, a1, Nat.le_refl _, by omega⟩
    · exact ⟨lo.toNat, by omega, by omega, by omega, by omega⟩
  have last : ∀ (X : Nat) (e : Int), (if (t.g == 45) = true then -e else e) = (X : Int) → X ≤ 3000 → V ≤ X → X - V < P → (0 ≤ eOf t + e ∧ eOf t + e ≤ roomF (nrm t.d)) → ∃ u, fitF (t.g == 45) t.x e = some u ∧ Makes s u := by
    intro X e he hX3 hVX hXP hin
    obtain ⟨u, f1, f2, f3, f4⟩ := fit_says (neg := (t.g == 45)) (x := t.x) (e := e) (X := X) hg.x he (k := k) (r := X - V) (by rw [hP]; exact hXP) (by rw [hV]; omega)
    refine ⟨u, f1, ?_⟩
    refine mk_of ht (go_more hp78 hx7 f2 (fun h => f4 (hx7 h))) rfl (int_at (v := { t with p := 8, x := t.x ++ u }) hg.d (.inr ?_))
    have hex : exF (t.x ++ u) = X := by rw [exF_num, f3]; omega
    rw [as_e]
    show 0 ≤ (((frontL t.d).length - (nrm t.d).length : Nat) : Int) - t.b + (if (t.g == 45) = true then -((exF (t.x ++ u) : Nat) : Int) else ((exF (t.x ++ u) : Nat) : Int)) ∧ (((frontL t.d).length - (nrm t.d).length : Nat) : Int) - t.b + (if (t.g == 45) = true then -((exF (t.x ++ u) : Nat) : Int) else ((exF (t.x ++ u) : Nat) : Int)) ≤ roomF (nrm t.d)
    rw [hex, ← he]
    have e2 : (if (t.g == 45) = true then -(if (t.g == 45) = true then -e else e) else (if (t.g == 45) = true then -e else e)) = e := by
      cases (t.g == 45) <;> simp
    rw [e2]
    rw [hE] at hin
    omega
  cases hgg : (t.g == 45) with
  | true =>
    rw [hgg, if_pos rfl] at r1 r2'
    obtain ⟨X, x1, x2, x3, x4⟩ := pick _ _ r1 r2' (by omega)
    obtain ⟨u, h1, h2⟩ := last X (-(X : Int)) (by rw [hgg, if_pos rfl]; omega) (by omega) x3 x4 (by rw [hE]; omega)
    refine ⟨(eOf t - X).toNat, by omega, u, ?_, h2⟩
    rw [hgg] at h1
    rw [show -(eOf t) + ((eOf t - X).toNat : Int) = -(X : Int) by omega]
    exact h1
  | false =>
    rw [hgg, if_neg (by decide)] at r1 r2'
    obtain ⟨X, x1, x2, x3, x4⟩ := pick _ _ r1 r2' (by omega)
    obtain ⟨u, h1, h2⟩ := last X (X : Int) (by rw [hgg, if_neg (by decide)]) (by omega) x3 x4 (by rw [hE]; omega)
    refine ⟨(eOf t + X).toNat, by omega, u, ?_, h2⟩
    rw [hgg] at h1
    rw [show -(eOf t) + ((eOf t + X).toNat : Int) = (X : Int) by omega]
    exact h1
theorem makes_last {s : List UInt8} {t : Nt} (ht : goF t0 s = some t) (hp : 7 ≤ t.p) (h0 : nrm t.d = []) : Makes s (if t.x = [] then [48] else []) := by
  have hg := good_go ht
  have hp8 := hg.p
  by_cases hx : t.x = []
  · rw [if_pos hx]
    have h7 : t.p = 7 := by
      rcases Nat.lt_or_ge t.p 8 with h | h
      · omega
      · exact absurd hx (hg.x1 (by omega))
    refine mk_of ht (go_more (.inl h7) (fun _ => hx) (fun c hc => by rw [List.mem_singleton.1 hc]; rfl) (fun _ => by simp)) rfl (int_at (v := { t with p := 8, x := t.x ++ [48] }) hg.d (.inl h0))
  · rw [if_neg hx]
    have h8 : t.p = 8 := by
      rcases Nat.lt_or_ge t.p 8 with h | h
      · exact absurd (hg.x0 (by omega)) hx
      · omega
    exact mk_of ht (u := []) rfl (by rw [h8]; rfl) (int_at hg.d (.inl h0))
end Go.Proofs.YtiibfejgiilakaaDoor
