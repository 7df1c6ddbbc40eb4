/- The document's cut of layer 11, by places: what its walk asks. -/
import Derived.Test.YtiibfejgiilakaaDoorG11Hope
import Derived.Test.YtiibfejgiilakaaDoorG10RRead
namespace Go.Proofs.YtiibfejgiilakaaDoor
set_option maxRecDepth 100000
open Go.ChangeShapes Go.WideShapes Go.ChangeAt Go.RowKit
set_option linter.unusedVariables false
set_option linter.unusedSimpArgs false

/-- the parts of a text that begins a number, as cut hands them on -/
def partV (t : Nt) : Value := .agg #[.string (bs t.d), .int .i64 (t.b : Int), .bool (decide (6 ≤ t.p)), .int .u8 (t.g.toNat : Int), .string (bs t.x)]
abbrev PBlk (w : World) (g : Nat) (d : ByteArray) (b : Nat) (e : Bool) (s : UInt8) (x : ByteArray) : Prop := Blk w g 55 #[.string d, .int .i64 (b : Int), .bool e, .int .u8 (s.toNat : Int), .string x]
structure Cp (w : World) (d : ByteArray) (b : Nat) (e : Bool) (g : UInt8) (x : ByteArray) (W : World) : Prop where
  p : PBlk W (w.heap.size + 1) d b e g x
  z : Blk W w.heap.size 55 #[.string (bs []), .int .i64 0, .bool false, .int .u8 0, .string (bs [])]
  b : Below w.heap.size w W
def CutRes (w : World) (r : Option Nt) (e : Ending) (w' : World) : Prop := ∃ a0 a1 a2 a3 a4, e = .returned (.tuple #[.agg #[.string a0, .int .i64 a1, .bool a2, .int .u8 a3, .string a4], .bool r.isSome]) ∧ (∀ t, r = some t → Value.agg #[.string a0, .int .i64 a1, .bool a2, .int .u8 a3, .string a4] = partV t) ∧ Below w.heap.size w w'
section
variable {w W : World} {d x : ByteArray} {b : Nat} {e : Bool} {g : UInt8}
theorem Cp.drew (h : Cp w d b e g x W) : Cp w d b e g x W.drew := ⟨h.p.drew, h.z.drew, h.b.drew⟩
theorem Cp.putD (h : Cp w d b e g x W) (d' : ByteArray) : Cp w d' b e g x (W.setCell ⟨w.heap.size + 1, 0, none⟩ (.string d')) := ⟨h.p.set' 0 _ rfl, h.z.far (by simp) _, h.b.setCell (by simp) _⟩
theorem Cp.putB (h : Cp w d b e g x W) (b' : Nat) : Cp w d b' e g x (W.setCell ⟨w.heap.size + 1, 1, none⟩ (.int .i64 (b' : Int))) := ⟨h.p.set' 1 _ rfl, h.z.far (by simp) _, h.b.setCell (by simp) _⟩
theorem Cp.putE (h : Cp w d b e g x W) (e' : Bool) : Cp w d b e' g x (W.setCell ⟨w.heap.size + 1, 2, none⟩ (.bool e')) := ⟨h.p.set' 2 _ rfl, h.z.far (by simp) _, h.b.setCell (by simp) _⟩
theorem Cp.putG (h : Cp w d b e g x W) (g' : UInt8) : Cp w d b e g' x (W.setCell ⟨w.heap.size + 1, 3, none⟩ (.int .u8 (g'.toNat : Int))) := ⟨h.p.set' 3 _ rfl, h.z.far (by simp) _, h.b.setCell (by simp) _⟩
theorem Cp.putX (h : Cp w d b e g x W) (x' : ByteArray) : Cp w d b e g x' (W.setCell ⟨w.heap.size + 1, 4, none⟩ (.string x')) := ⟨h.p.set' 4 _ rfl, h.z.far (by simp) _, h.b.setCell (by simp) _⟩
/-- the world in which cut ends -/
theorem Cp.fin (h : Cp w d b e g x W) : Blk (((((W.setCell ⟨w.heap.size, 0, none⟩ (.string d)).setCell ⟨w.heap.size, 1, none⟩ (.int .i64 (b : Int))).setCell ⟨w.heap.size, 2, none⟩ (.bool e)).setCell ⟨w.heap.size, 3, none⟩ (.int .u8 (g.toNat : Int))).setCell ⟨w.heap.size, 4, none⟩ (.string x)) w.heap.size 55 #[.string d, .int .i64 (b : Int), .bool e, .int .u8 (g.toNat : Int), .string x]
    ∧ Below w.heap.size w (((((W.setCell ⟨w.heap.size, 0, none⟩ (.string d)).setCell ⟨w.heap.size, 1, none⟩ (.int .i64 (b : Int))).setCell ⟨w.heap.size, 2, none⟩ (.bool e)).setCell ⟨w.heap.size, 3, none⟩ (.int .u8 (g.toNat : Int))).setCell ⟨w.heap.size, 4, none⟩ (.string x)) :=
  ⟨((((h.z.set' 0 (.string d) rfl).set' 1 (.int .i64 (b : Int)) rfl).set' 2 (.bool e) rfl).set' 3 (.int .u8 (g.toNat : Int)) rfl).set' 4 (.string x) rfl, ((((h.b.setCell (by simp) _).setCell (by simp) _).setCell (by simp) _).setCell (by simp) _).setCell (by simp) _⟩
end
/-! ## where a text is cut, by places -/
section
variable {s : ByteArray}
theorem fw_neg (h : 0 < s.size) (hc : s[0] = 45) : goF t0 (L8 s) = fwdW true ((L8 s).drop 1) := by
  have h1 := rd_head h
  rw [List.drop_zero] at h1
  rw [go_fwd]
  unfold fwdF
  have h2 := rd_tail (s := s) 0
  rw [List.drop_zero] at h2
  rw [h1, hc, if_pos rfl, h2]
theorem fw_pos (h : s.size = 0 ∨ ∃ h : 0 < s.size, s[0] ≠ 45) : goF t0 (L8 s) = fwdW false ((L8 s).drop 0) := by
  rw [List.drop_zero, go_fwd]
  unfold fwdF
  rw [if_neg]
  rcases h with h | ⟨h, hc⟩
  · have e : L8 s = [] := List.eq_nil_of_length_eq_zero (by rw [L8_len]; exact h)
    rw [e]; simp
  · have h1 := rd_head h
    rw [List.drop_zero] at h1
    rw [h1]
    simpa using hc
/-- a nought ahead of another digit -/
theorem fw_nought {n : Bool} {i : Nat} (h : 1 < runL (L8 s) i) (hi : i < s.size) (hc : s[i] = 48) : fwdW n ((L8 s).drop i) = none := by
  obtain ⟨h1, h2⟩ := run_tw (L8 s) i
  have h0 : ¬ ((L8 s).drop i).take (runL (L8 s) i) = [] := fun h => by have := run_nil.1 h; omega
  unfold fwdW
  rw [h1, if_neg h0, run_len, if_pos ⟨h, by rw [rd_head hi, hc]⟩]
/-- it ends behind the whole part -/
theorem fw_end {n : Bool} {i : Nat} (h : runL (L8 s) i ≤ 1 ∨ ∃ h : i < s.size, s[i] ≠ 48) (he : s.size ≤ i + runL (L8 s) i) : ∃ p, p < 6 ∧ fwdW n ((L8 s).drop i) = some ⟨p, n, ((L8 s).drop i).take (runL (L8 s) i), 0, 0, []⟩ := by
  obtain ⟨h1, h2⟩ := run_tw (L8 s) i
  unfold fwdW
  rw [h1, h2, rd_end he]
  by_cases h0 : runL (L8 s) i = 0
  · rw [if_pos (run_nil.2 h0)]
    rw [h0, Nat.add_zero] at he
    rw [rd_end he, if_pos rfl, List.take_nil]
    refine ⟨_, ?_, rfl⟩
    split <;> omega
  · rw [if_neg (fun h => h0 (run_nil.1 h)), run_len, if_neg]
    · refine ⟨_, ?_, rfl⟩
      split <;> omega
    · rintro ⟨h3, h4⟩
      rcases h with h | ⟨hi, hc⟩
      · omega
      · rw [rd_head hi] at h4
        exact hc (by simpa using h4)
theorem fw_empty {n : Bool} {i : Nat} (h : runL (L8 s) i = 0) (hi : i < s.size) : fwdW n ((L8 s).drop i) = none := by
  obtain ⟨h1, h2⟩ := run_tw (L8 s) i
  unfold fwdW
  rw [h1, if_pos (run_nil.2 h), if_neg (rd_ne hi)]
theorem fw_whole {n : Bool} {i : Nat} (h0 : runL (L8 s) i ≠ 0) (h : runL (L8 s) i ≤ 1 ∨ ∃ h : i < s.size, s[i] ≠ 48) : ∃ p, p < 6 ∧ fwdW n ((L8 s).drop i) = fwdP ⟨p, n, ((L8 s).drop i).take (runL (L8 s) i), 0, 0, []⟩ ((L8 s).drop (i + runL (L8 s) i)) := by
  obtain ⟨h1, h2⟩ := run_tw (L8 s) i
  unfold fwdW
  rw [h1, h2, if_neg (fun h => h0 (run_nil.1 h)), run_len, if_neg]
  · refine ⟨_, ?_, rfl⟩
    split <;> omega
  · rintro ⟨h3, h4⟩
    rcases h with h | ⟨hi, hc⟩
    · omega
    · rw [rd_head hi] at h4
      exact hc (by simpa using h4)
theorem fw_noP {t : Nt} {j : Nat} (h : j < s.size) (hc : s[j] ≠ 46) : fwdP t ((L8 s).drop j) = fwdE t ((L8 s).drop j) := by
  unfold fwdP
  rw [if_neg]
  rw [rd_head h]; simpa using hc
theorem fw_P {t : Nt} {j : Nat} (hp : t.p < 6) (hb : t.b = 0) (h : j < s.size) (hc : s[j] = 46) :
    (s.size ≤ j + 1 + runL (L8 s) (j + 1) → ∃ p, p < 6 ∧ fwdP t ((L8 s).drop j) = some ⟨p, t.n, t.d ++ ((L8 s).drop (j + 1)).take (runL (L8 s) (j + 1)), runL (L8 s) (j + 1), t.g, t.x⟩)
    ∧ (¬ s.size ≤ j + 1 + runL (L8 s) (j + 1) → runL (L8 s) (j + 1) = 0 → fwdP t ((L8 s).drop j) = none)
    ∧ (runL (L8 s) (j + 1) ≠ 0 → fwdP t ((L8 s).drop j) = fwdE ⟨5, t.n, t.d ++ ((L8 s).drop (j + 1)).take (runL (L8 s) (j + 1)), runL (L8 s) (j + 1), t.g, t.x⟩ ((L8 s).drop (j + 1 + runL (L8 s) (j + 1)))) := by
  obtain ⟨h1, h2⟩ := run_tw (L8 s) (j + 1)
  have hE : runL (L8 s) (j + 1) ≠ 0 → fwdP t ((L8 s).drop j) = fwdE ⟨5, t.n, t.d ++ ((L8 s).drop (j + 1)).take (runL (L8 s) (j + 1)), runL (L8 s) (j + 1), t.g, t.x⟩ ((L8 s).drop (j + 1 + runL (L8 s) (j + 1))) := by
    intro h0
    unfold fwdP
    rw [if_pos (by rw [rd_head h, hc]), rd_tail, h1, h2, run_len, if_neg (fun h => h0 (run_nil.1 h))]
  have hZ : runL (L8 s) (j + 1) = 0 → fwdP t ((L8 s).drop j) = if (L8 s).drop (j + 1) = [] then some { t with p := 4 } else none := by
    intro h0
    unfold fwdP
    rw [if_pos (by rw [rd_head h, hc]), rd_tail, h1, if_pos (run_nil.2 h0)]
  refine ⟨fun he => ?_, fun he h0 => ?_, hE⟩
  · by_cases h0 : runL (L8 s) (j + 1) = 0
    · rw [hZ h0, h0]
      rw [h0, Nat.add_zero] at he
      rw [rd_end he, if_pos rfl]
      exact ⟨4, by omega, by rw [← hb]; simp⟩
    · rw [hE h0, rd_end he]
      exact ⟨5, by omega, rfl⟩
  · rw [hZ h0]
    rw [h0, Nat.add_zero] at he
    rw [if_neg (rd_ne (by omega))]
theorem fw_noE {t : Nt} {j : Nat} (h : j < s.size) (hc : s[j] ≠ 101 ∧ s[j] ≠ 69) : fwdE t ((L8 s).drop j) = none := by
  unfold fwdE
  rw [if_neg (rd_ne h), if_neg]
  rw [rd_head h]
  simpa using hc
/-- what stands behind the e and its sign -/
def restF (t : Nt) (g : UInt8) (k : List UInt8) : Option Nt := if k = [] then some { t with p := if g = 0 then 6 else 7, g := g } else if k.dropWhile isD = [] then some { t with p := 8, g := g, x := k } else none
theorem fw_E {t : Nt} {j j1 : Nat} {g : UInt8} (h : j < s.size) (hc : s[j] = 101 ∨ s[j] = 69)
    (hj : (∃ h : j + 1 < s.size, s[j + 1] = 45 ∧ g = 45 ∧ j1 = j + 2) ∨ (∃ h : j + 1 < s.size, s[j + 1] = 43 ∧ g = 43 ∧ j1 = j + 2) ∨ ((s.size ≤ j + 1 ∨ ∃ h : j + 1 < s.size, s[j + 1] ≠ 45 ∧ s[j + 1] ≠ 43) ∧ g = 0 ∧ j1 = j + 1)) :
    fwdE t ((L8 s).drop j) = restF t g ((L8 s).drop j1) := by
  have hce : ((L8 s).drop j).head? = some 101 ∨ ((L8 s).drop j).head? = some 69 := by rw [rd_head h]; simpa using hc
  unfold fwdE
  rw [if_neg (rd_ne h), if_pos hce, rd_tail]
  rcases hj with ⟨hl, hb, rfl, rfl⟩ | ⟨hl, hb, rfl, rfl⟩ | ⟨hn, rfl, rfl⟩
  · have e1 : ((L8 s).drop (j + 1)).head? = some 45 := by rw [rd_head hl, hb]
    simp only [e1, true_or, if_true, rd_tail]
    rfl
  · have e1 : ((L8 s).drop (j + 1)).head? = some 43 := by rw [rd_head hl, hb]
    have e2 : ¬ (some (43 : UInt8) = some 45) := by decide
    simp only [e1, e2, or_true, if_true, if_false, rd_tail]
    rfl
  · have e1 : ((L8 s).drop (j + 1)).head? ≠ some 45 ∧ ((L8 s).drop (j + 1)).head? ≠ some 43 := by
      rcases hn with hn | ⟨hl, ha, hb⟩
      · rw [rd_end hn]; simp
      · rw [rd_head hl]; simpa using ⟨ha, hb⟩
    simp only [e1.1, e1.2, or_self, if_false]
    rfl
theorem rest_some {t : Nt} {g : UInt8} {k : List UInt8} (h : k.all isD = true) : ∃ p, 6 ≤ p ∧ restF t g k = some ⟨p, t.n, t.d, t.b, g, if k = [] then t.x else k⟩ := by
  unfold restF
  by_cases h0 : k = []
  · rw [if_pos h0, if_pos h0]
    refine ⟨_, ?_, rfl⟩
    split <;> omega
  · have hd : k.dropWhile isD = [] := by
      have := take_app (a := k) (b := []) (fun c hc => List.all_eq_true.1 h c hc) (fun c hc => by cases hc)
      rw [List.append_nil] at this
      exact this.2
    rw [if_neg h0, if_neg h0, if_pos hd]
    exact ⟨8, by omega, rfl⟩
theorem tw_all (l : List UInt8) : ∀ c ∈ l.takeWhile isD, isD c = true := by
  induction l with
  | nil => intro c h; cases h
  | cons x l ih =>
    rw [List.takeWhile_cons]
    cases hx : isD x with
    | true =>
      intro c hc
      rw [if_pos rfl] at hc
      rcases List.mem_cons.1 hc with rfl | hc
      · exact hx
      · exact ih c hc
    | false => intro c hc; cases hc
theorem rest_none {t : Nt} {g : UInt8} {k : List UInt8} {c : UInt8} (hm : c ∈ k) (hc : isD c = false) : restF t g k = none := by
  unfold restF
  rw [if_neg (fun h => by rw [h] at hm; cases hm), if_neg]
  intro h
  have h1 := List.takeWhile_append_dropWhile (p := isD) (l := k)
  rw [h, List.append_nil] at h1
  rw [← h1] at hm
  have := tw_all k c hm
  rw [hc] at this
  cases this
end
end Go.Proofs.YtiibfejgiilakaaDoor
