/- Plain mathematics: what is read, place by place. -/
import Derived.Test.YtiibfejgiilakaaDoorG10Run
namespace Go.Proofs.YtiibfejgiilakaaDoor
set_option linter.unusedVariables false

theorem tw_take (l : List UInt8) : l.takeWhile isD = l.take (l.takeWhile isD).length ∧ l.dropWhile isD = l.drop (l.takeWhile isD).length := by
  have h := List.takeWhile_append_dropWhile (p := isD) (l := l)
  have e1 : (l.takeWhile isD ++ l.dropWhile isD).take (l.takeWhile isD).length = l.takeWhile isD := List.take_left
  have e2 : (l.takeWhile isD ++ l.dropWhile isD).drop (l.takeWhile isD).length = l.dropWhile isD := List.drop_left
  rw [h] at e1 e2
  exact ⟨e1.symm, e2.symm⟩
theorem run_tw (l : List UInt8) (i : Nat) : (l.drop i).takeWhile isD = (l.drop i).take (runL l i) ∧ (l.drop i).dropWhile isD = l.drop (i + runL l i) := by
  have h := tw_take (l.drop i)
  refine ⟨h.1, ?_⟩
  have h2 := h.2
  rw [List.drop_drop] at h2
  exact h2
theorem run_le (l : List UInt8) (i : Nat) : runL l i ≤ l.length - i := by
  unfold runL
  have := (List.takeWhile_sublist isD (l := l.drop i)).length_le
  rw [List.length_drop] at this
  exact this
theorem run_nil {l : List UInt8} {i : Nat} : (l.drop i).take (runL l i) = [] ↔ runL l i = 0 := by
  have h := run_le l i
  constructor
  · intro e
    have := congrArg List.length e
    rw [List.length_take, List.length_drop] at this
    simp at this
    omega
  · intro e; rw [e]; rfl
theorem run_len (l : List UInt8) (i : Nat) : ((l.drop i).take (runL l i)).length = runL l i := by
  have h := run_le l i
  rw [List.length_take, List.length_drop]; omega
section
variable {s : ByteArray}
theorem rd_head {i : Nat} (h : i < s.size) : ((L8 s).drop i).head? = some s[i] := by rw [L8_drop s i h]; rfl
theorem rd_tail (i : Nat) : ((L8 s).drop i).tail = (L8 s).drop (i + 1) := by rw [List.tail_drop]
theorem rd_end {i : Nat} (h : s.size ≤ i) : (L8 s).drop i = [] := List.drop_eq_nil_of_le (by rw [L8_len]; exact h)
theorem rd_ne {i : Nat} (h : i < s.size) : (L8 s).drop i ≠ [] := by rw [L8_drop s i h]; simp
theorem run_le8 (i : Nat) (hi : i ≤ s.size) : i + runL (L8 s) i ≤ s.size := by
  have := run_le (L8 s) i
  rw [L8_len] at this
  omega
/-- the sign -/
theorem rd_neg (h : 0 < s.size) (hc : s[0] = 45) : readF (L8 s) = readW true ((L8 s).drop 1) := by
  have h1 := rd_head h
  rw [List.drop_zero] at h1
  unfold readF
  rw [h1, hc, if_pos rfl]
  have h2 := rd_tail (s := s) 0
  rw [List.drop_zero] at h2
  rw [h2]
theorem rd_pos (h : s.size = 0 ∨ ∃ h : 0 < s.size, s[0] ≠ 45) : readF (L8 s) = readW false ((L8 s).drop 0) := by
  rw [List.drop_zero]
  unfold readF
  rw [if_neg]
  rcases h with h | ⟨h, hc⟩
  · have e : L8 s = [] := List.eq_nil_of_length_eq_zero (by rw [L8_len]; exact h)
    rw [e]; simp
  · have h1 := rd_head h
    rw [List.drop_zero] at h1
    rw [h1]
    simpa using hc
/-- the whole part -/
theorem rd_none {n : Bool} {i : Nat} (h : runL (L8 s) i = 0 ∨ (1 < runL (L8 s) i ∧ ∃ h : i < s.size, s[i] = 48)) : readW n ((L8 s).drop i) = none := by
  obtain ⟨h1, h2⟩ := run_tw (L8 s) i
  unfold readW
  rw [if_pos]
  rw [h1, run_len]
  rcases h with h | ⟨h, hi, hc⟩
  · exact .inl (run_nil.2 h)
  · exact .inr ⟨h, by rw [rd_head hi, hc]⟩
theorem rd_whole {n : Bool} {i : Nat} (h0 : runL (L8 s) i ≠ 0) (h : runL (L8 s) i ≤ 1 ∨ ∃ h : i < s.size, s[i] ≠ 48) : readW n ((L8 s).drop i) = readP n (((L8 s).drop i).take (runL (L8 s) i)) ((L8 s).drop (i + runL (L8 s) i)) := by
  obtain ⟨h1, h2⟩ := run_tw (L8 s) i
  unfold readW
  rw [if_neg, h1, h2]
  rw [h1, run_len]
  rintro (h3 | ⟨h3, h4⟩)
  · exact h0 (run_nil.1 h3)
  · rcases h with h | ⟨hi, hc⟩
    · omega
    · rw [rd_head hi] at h4
      exact hc (by simpa using h4)
/-- the fraction -/
theorem rd_noP {n : Bool} {d : List UInt8} {j : Nat} (h : s.size ≤ j ∨ ∃ h : j < s.size, s[j] ≠ 46) : readP n d ((L8 s).drop j) = readE n d 0 ((L8 s).drop j) := by
  unfold readP
  rw [if_neg]
  rcases h with h | ⟨h, hc⟩
  · rw [rd_end h]; simp
  · rw [rd_head h]; simpa using hc
theorem rd_P {n : Bool} {d : List UInt8} {j : Nat} (h : j < s.size) (hc : s[j] = 46) : readP n d ((L8 s).drop j) = if runL (L8 s) (j + 1) = 0 then none else readE n (d ++ ((L8 s).drop (j + 1)).take (runL (L8 s) (j + 1))) (-(runL (L8 s) (j + 1) : Int)) ((L8 s).drop (j + 1 + runL (L8 s) (j + 1))) := by
  obtain ⟨h1, h2⟩ := run_tw (L8 s) (j + 1)
  unfold readP
  rw [if_pos (by rw [rd_head h, hc]), rd_tail, h1, h2, run_len]
  by_cases h0 : runL (L8 s) (j + 1) = 0
  · rw [if_pos (run_nil.2 h0), if_pos h0]
  · rw [if_neg (fun h => h0 (run_nil.1 h)), if_neg h0]
/-- what is left at the end -/
def endF (n : Bool) (d : List UInt8) (e : Int) (s : ByteArray) (i : Nat) : Option Dc := if s.size ≤ i then some (normF ⟨n, d, e⟩) else none
theorem rd_noE {n : Bool} {d : List UInt8} {e : Int} {j : Nat} (h : s.size ≤ j ∨ ∃ h : j < s.size, s[j] ≠ 101 ∧ s[j] ≠ 69) : readE n d e ((L8 s).drop j) = endF n d e s j := by
  unfold readE endF
  rcases h with h | ⟨h, hc⟩
  · rw [rd_end h, if_pos rfl, if_pos h]
  · rw [if_neg (rd_ne h), if_neg, if_neg (by omega)]
    rw [rd_head h]
    simpa using hc
/-- where the exponent's digits begin -/
theorem rd_E {n : Bool} {d : List UInt8} {e : Int} {j j1 : Nat} {m : Bool} (h : j < s.size) (hc : s[j] = 101 ∨ s[j] = 69)
    (hj : (∃ h : j + 1 < s.size, s[j + 1] = 45 ∧ m = true ∧ j1 = j + 2) ∨ (∃ h : j + 1 < s.size, s[j + 1] = 43 ∧ m = false ∧ j1 = j + 2) ∨ ((s.size ≤ j + 1 ∨ ∃ h : j + 1 < s.size, s[j + 1] ≠ 45 ∧ s[j + 1] ≠ 43) ∧ m = false ∧ j1 = j + 1)) :
    readE n d e ((L8 s).drop j) = if runL (L8 s) j1 = 0 then none else endF n d (e + (if m = true then -(exF (((L8 s).drop j1).take (runL (L8 s) j1)) : Int) else (exF (((L8 s).drop j1).take (runL (L8 s) j1)) : Int))) s (j1 + runL (L8 s) j1) := by
  obtain ⟨h1, h2⟩ := run_tw (L8 s) j1
  have hle := run_le (L8 s) j1
  have hce : ((L8 s).drop j).head? = some 101 ∨ ((L8 s).drop j).head? = some 69 := by rw [rd_head h]; simpa using hc
  have key : ∀ t, t = (L8 s).drop j1 → (if t.takeWhile isD = [] then none else if t.dropWhile isD = [] then some (normF ⟨n, d, e + (if m = true then -(exF (t.takeWhile isD) : Int) else (exF (t.takeWhile isD) : Int))⟩) else none) = if runL (L8 s) j1 = 0 then none else endF n d (e + (if m = true then -(exF (((L8 s).drop j1).take (runL (L8 s) j1)) : Int) else (exF (((L8 s).drop j1).take (runL (L8 s) j1)) : Int))) s (j1 + runL (L8 s) j1) := fun t ht => by
    subst ht
    rw [h1, h2]
    by_cases h0 : runL (L8 s) j1 = 0
    · rw [if_pos (run_nil.2 h0), if_pos h0]
    · rw [if_neg (fun h => h0 (run_nil.1 h)), if_neg h0]
      unfold endF
      by_cases he : s.size ≤ j1 + runL (L8 s) j1
      · rw [if_pos (rd_end he), if_pos he]
      · rw [if_neg (rd_ne (by omega)), if_neg he]
  unfold readE
  rw [if_neg (rd_ne h), if_pos hce, rd_tail]
  rcases hj with ⟨hl, hb, rfl, rfl⟩ | ⟨hl, hb, rfl, rfl⟩ | ⟨hn, rfl, rfl⟩
  · have e1 : ((L8 s).drop (j + 1)).head? = some 45 := by rw [rd_head hl, hb]
    have et : (if ((L8 s).drop (j + 1)).head? = some 45 ∨ ((L8 s).drop (j + 1)).head? = some 43 then ((L8 s).drop (j + 1)).tail else (L8 s).drop (j + 1)) = (L8 s).drop (j + 2) := by rw [if_pos (.inl e1), rd_tail]
    have e2 : (((L8 s).drop (j + 1)).head? = some 45) = True := by rw [e1]; simp
    simp only [et]
    simp only [e2, if_true]
    exact key _ rfl
  · have e1 : ((L8 s).drop (j + 1)).head? = some 43 := by rw [rd_head hl, hb]
    have et : (if ((L8 s).drop (j + 1)).head? = some 45 ∨ ((L8 s).drop (j + 1)).head? = some 43 then ((L8 s).drop (j + 1)).tail else (L8 s).drop (j + 1)) = (L8 s).drop (j + 2) := by rw [if_pos (.inr e1), rd_tail]
    have e2 : (((L8 s).drop (j + 1)).head? = some 45) = False := by rw [e1]; simp
    simp only [et]
    simp only [e2, if_false]
    exact key _ rfl
  · have e1 : ((L8 s).drop (j + 1)).head? ≠ some 45 ∧ ((L8 s).drop (j + 1)).head? ≠ some 43 := by
      rcases hn with hn | ⟨hl, ha, hb⟩
      · rw [rd_end hn]; simp
      · rw [rd_head hl]; simpa using ⟨ha, hb⟩
    have et : (if ((L8 s).drop (j + 1)).head? = some 45 ∨ ((L8 s).drop (j + 1)).head? = some 43 then ((L8 s).drop (j + 1)).tail else (L8 s).drop (j + 1)) = (L8 s).drop (j + 1) := by rw [if_neg (fun h => h.elim e1.1 e1.2)]
    simp only [et]
    simp only [e1.1, if_false]
    exact key _ rfl
end
theorem exF_le (l : List UInt8) : exF l ≤ 1000000000 := by rw [exF_num]; omega
end Go.Proofs.YtiibfejgiilakaaDoor
