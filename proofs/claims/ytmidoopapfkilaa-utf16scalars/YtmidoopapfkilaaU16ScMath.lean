/- Plain mathematics: the order of scalars' bytes is that of scalars; that of their units is not. -/
import Derived.Test.YtmidoopapfkilaaU16Math
import Derived.Test.YtmidoopapfkilaaU8Math
import Derived.Laws.BytesArg
import Derived.Lib.Strings
namespace Go.Proofs.Ytmidoopapfkilaa

theorem u8_lt {m n : Int} (h0 : 0 ≤ m) (h1 : m ≤ 255) (g0 : 0 ≤ n) (g1 : n ≤ 255) : (UInt8.ofNat m.toNat < UInt8.ofNat n.toNat) ↔ m < n := by
  rw [UInt8.lt_iff_toNat_lt]
  simp
  omega
theorem u8_eq {m n : Int} (h0 : 0 ≤ m) (h1 : m ≤ 255) (g0 : 0 ≤ n) (g1 : n ≤ 255) : (UInt8.ofNat m.toNat = UInt8.ofNat n.toNat) ↔ m = n := by
  rw [← UInt8.toNat_inj]
  simp
  omega
theorem less_cmp : ∀ (xs ys : List Int), (∀ x ∈ xs, 0 ≤ x ∧ x ≤ 255) → (∀ y ∈ ys, 0 ≤ y ∧ y ≤ 255) → Op.bytesLess (xs.map fun n => UInt8.ofNat n.toNat) (ys.map fun n => UInt8.ofNat n.toNat) = decide (cmpL xs ys < 0)
  | [], [], _, _ => by simp [Op.bytesLess, cmpL]
  | [], _ :: _, _, _ => by simp [Op.bytesLess, cmpL]
  | _ :: _, [], _, _ => by simp [Op.bytesLess, cmpL]
  | x :: xs, y :: ys, hx, hy => by
    have ih := less_cmp xs ys (fun z h => hx z (by simp [h])) (fun z h => hy z (by simp [h]))
    have a := hx x (by simp)
    have b := hy y (by simp)
    simp only [List.map_cons, Op.bytesLess, cmpL, ih]
    by_cases h1 : x < y
    · simp [h1, u8_lt a.1 a.2 b.1 b.2]
    · by_cases h2 : y < x
      · have : ¬ x = y := by omega
        simp [h1, h2, u8_lt a.1 a.2 b.1 b.2, u8_eq a.1 a.2 b.1 b.2, this]
      · have e : x = y := by omega
        subst e
        simp
theorem byt_cases {c : Int} (h : isB c = true) : (0 ≤ c ∧ c < 128 ∧ byt c = [c]) ∨ (128 ≤ c ∧ c < 2048 ∧ byt c = [192 + c / 64, 128 + c % 64]) ∨ (2048 ≤ c ∧ c < 65536 ∧ byt c = [224 + c / 4096, 128 + c / 64 % 64, 128 + c % 64]) ∨ (65536 ≤ c ∧ c ≤ 1114111 ∧ byt c = [240 + c / 262144, 128 + c / 4096 % 64, 128 + c / 64 % 64, 128 + c % 64]) := by
  have hc := of_decide_eq_true h
  by_cases h1 : c < 128
  · exact .inl ⟨by omega, h1, by simp [byt, h, h1]⟩
  by_cases h2 : c < 2048
  · exact .inr (.inl ⟨by omega, h2, by simp [byt, h, h1, h2]⟩)
  by_cases h3 : c < 65536
  · exact .inr (.inr (.inl ⟨by omega, h3, by simp [byt, h, h1, h2, h3]⟩))
  · exact .inr (.inr (.inr ⟨by omega, by omega, by simp [byt, h, h1, h2, h3]⟩))
theorem byt_255 {c : Int} (h : isB c = true) : ∀ x ∈ byt c, 0 ≤ x ∧ x ≤ 255 := by
  intro x hx
  rcases byt_cases h with ⟨a, b, e⟩ | ⟨a, b, e⟩ | ⟨a, b, e⟩ | ⟨a, b, e⟩
  all_goals
    rw [e] at hx
    simp at hx
    omega
theorem cmpL_1 {x y : Int} (a b : List Int) (h : x < y) : cmpL (x :: a) (y :: b) = -1 := by simp [cmpL, h]
theorem cmpL_2 {x y : Int} (a b : List Int) (h : y < x) : cmpL (x :: a) (y :: b) = 1 := by
  have : ¬ x < y := by omega
  simp [cmpL, h, this]
theorem cmpL_3 {x y : Int} (a b : List Int) (h : x = y) : cmpL (x :: a) (y :: b) = cmpL a b := by subst h; simp [cmpL]
theorem cmp_byt {c d : Int} (hc : isB c = true) (hd : isB d = true) : cmpL (byt c) (byt d) = cmpI c d := by
  unfold cmpI
  rcases byt_cases hc with ⟨a, b, e⟩ | ⟨a, b, e⟩ | ⟨a, b, e⟩ | ⟨a, b, e⟩ <;> rcases byt_cases hd with ⟨p, q, f⟩ | ⟨p, q, f⟩ | ⟨p, q, f⟩ | ⟨p, q, f⟩
  all_goals rw [e, f]; clear e f hc hd
  case inl.inl => simp only [cmpL]
  case inr.inl.inr.inl =>
    simp only [cmpL]
    repeat' split
    all_goals omega
  case inr.inr.inl.inr.inr.inl =>
    have k1 : c = 4096 * (c / 4096) + 64 * (c / 64 % 64) + c % 64 := by omega
    have k2 : d = 4096 * (d / 4096) + 64 * (d / 64 % 64) + d % 64 := by omega
    have b1 : 0 ≤ c / 64 % 64 ∧ c / 64 % 64 < 64 ∧ 0 ≤ c % 64 ∧ c % 64 < 64 := by omega
    have b2 : 0 ≤ d / 64 % 64 ∧ d / 64 % 64 < 64 ∧ 0 ≤ d % 64 ∧ d % 64 < 64 := by omega
    generalize c / 4096 = c2 at *
    generalize c / 64 % 64 = c1 at *
    generalize c % 64 = c0 at *
    generalize d / 4096 = d2 at *
    generalize d / 64 % 64 = d1 at *
    generalize d % 64 = d0 at *
    simp only [cmpL]
    repeat' split
    all_goals omega
  case inr.inr.inr.inr.inr.inr =>
    have k1 : c = 262144 * (c / 262144) + 4096 * (c / 4096 % 64) + 64 * (c / 64 % 64) + c % 64 := by omega
    have k2 : d = 262144 * (d / 262144) + 4096 * (d / 4096 % 64) + 64 * (d / 64 % 64) + d % 64 := by omega
    have b1 : 0 ≤ c / 64 % 64 ∧ c / 64 % 64 < 64 ∧ 0 ≤ c % 64 ∧ c % 64 < 64 ∧ 0 ≤ c / 4096 % 64 ∧ c / 4096 % 64 < 64 := by omega
    have b2 : 0 ≤ d / 64 % 64 ∧ d / 64 % 64 < 64 ∧ 0 ≤ d % 64 ∧ d % 64 < 64 ∧ 0 ≤ d / 4096 % 64 ∧ d / 4096 % 64 < 64 := by omega
    generalize c / 262144 = c3 at *
    generalize c / 4096 % 64 = c2 at *
    generalize c / 64 % 64 = c1 at *
    generalize c % 64 = c0 at *
    generalize d / 262144 = d3 at *
    generalize d / 4096 % 64 = d2 at *
    generalize d / 64 % 64 = d1 at *
    generalize d % 64 = d0 at *
    simp only [cmpL]
    repeat' split
    all_goals omega
  all_goals
    first
      | (rw [cmpL_1 _ _ (by omega), if_pos (by omega)])
      | (rw [cmpL_2 _ _ (by omega), if_neg (by omega), if_pos (by omega)])
theorem str_less {c d : Int} (hc : isB c = true) (hd : isB d = true) : Op.bytesLess (strOfNums (byt c)).toList (strOfNums (byt d)).toList = decide (c < d) := by
  rw [Lib.toList_data, Lib.toList_data, strOfNums_data, strOfNums_data, less_cmp _ _ (byt_255 hc) (byt_255 hd), cmp_byt hc hd]
  unfold cmpI
  by_cases h : c < d
  · rw [if_pos h]; simp [h]
  · rw [if_neg h, decide_eq_false h]
    split <;> simp
theorem cmp_un1 {c d : Int} (hc : isB c = true) (hd : isB d = true) :
    (c < d ∧ (65536 ≤ c ∨ d < 65536 ∨ c < 57344) ∧ cmpL (un1 c) (un1 d) = -1) ∨ (c < d ∧ 65536 ≤ d ∧ 57344 ≤ c ∧ c < 65536 ∧ cmpL (un1 c) (un1 d) = 1) ∨ (c = d ∧ cmpL (un1 c) (un1 d) = 0) ∨
    (d < c ∧ (65536 ≤ d ∨ c < 65536 ∨ d < 57344) ∧ cmpL (un1 c) (un1 d) = 1) ∨ (d < c ∧ 65536 ≤ c ∧ 57344 ≤ d ∧ d < 65536 ∧ cmpL (un1 c) (un1 d) = -1) := by
  by_cases e : c = d
  · exact .inr (.inr (.inl ⟨e, by rw [e]; exact cmpL_refl _⟩))
  have hc' := of_decide_eq_true hc
  have hd' := of_decide_eq_true hd
  rcases un1_cases c with ⟨hi, f⟩ | ⟨hi, hx, f⟩ | ⟨hx, hg, f⟩
  · rw [hc] at hi; cases hi
  · rcases un1_cases d with ⟨hj, g⟩ | ⟨hj, hy, g⟩ | ⟨hy, hh, g⟩
    · rw [hd] at hj; cases hj
    · rw [f, g]
      rcases Int.lt_or_lt_of_ne e with h | h
      · exact .inl ⟨h, by omega, cmpL_1 _ _ h⟩
      · exact .inr (.inr (.inr (.inl ⟨h, by omega, cmpL_2 _ _ h⟩)))
    · rw [f, g]
      by_cases k : 57344 ≤ c
      · exact .inr (.inl ⟨by omega, hy, k, hx, cmpL_2 _ _ (by omega)⟩)
      · exact .inl ⟨by omega, by omega, cmpL_1 _ _ (by omega)⟩
  · rcases un1_cases d with ⟨hj, g⟩ | ⟨hj, hy, g⟩ | ⟨hy, hh, g⟩
    · rw [hd] at hj; cases hj
    · rw [f, g]
      by_cases k : 57344 ≤ d
      · exact .inr (.inr (.inr (.inr ⟨by omega, hx, k, hy, cmpL_1 _ _ (by omega)⟩)))
      · exact .inr (.inr (.inr (.inl ⟨by omega, by omega, cmpL_2 _ _ (by omega)⟩)))
    · rw [f, g]
      have k1 : c - 65536 = 1024 * ((c - 65536) / 1024) + (c - 65536) % 1024 := by omega
      have k2 : d - 65536 = 1024 * ((d - 65536) / 1024) + (d - 65536) % 1024 := by omega
      have b1 : 0 ≤ (c - 65536) % 1024 ∧ (c - 65536) % 1024 < 1024 := by omega
      have b2 : 0 ≤ (d - 65536) % 1024 ∧ (d - 65536) % 1024 < 1024 := by omega
      generalize (c - 65536) / 1024 = c1 at *
      generalize (c - 65536) % 1024 = c0 at *
      generalize (d - 65536) / 1024 = d1 at *
      generalize (d - 65536) % 1024 = d0 at *
      rcases Int.lt_or_lt_of_ne e with h | h
      · refine .inl ⟨h, by omega, ?_⟩
        by_cases k : c1 = d1
        · rw [cmpL_3 _ _ (by omega)]; exact cmpL_1 _ _ (by omega)
        · exact cmpL_1 _ _ (by omega)
      · refine .inr (.inr (.inr (.inl ⟨h, by omega, ?_⟩)))
        by_cases k : c1 = d1
        · rw [cmpL_3 _ _ (by omega)]; exact cmpL_2 _ _ (by omega)
        · exact cmpL_2 _ _ (by omega)
theorem cmp_high {h : Int} (h0 : 65536 ≤ h) (h1 : h ≤ 1114111) : cmpL (un1 h) (un1 57344) = -1 ∧ cmpL (un1 h) (un1 55295) = 1 := by
  rw [un1_two h0 h1, un1_one (c := 57344) (by decide) (by omega), un1_one (c := 55295) (by decide) (by omega)]
  exact ⟨cmpL_1 _ _ (by omega), cmpL_2 _ _ (by omega)⟩
end Go.Proofs.Ytmidoopapfkilaa
