/- The laws' push by its contract; how numbers stay apart. -/
import Derived.Test.YtiibfejgiilakaaDoorP11Spec
namespace Go.Proofs.YtiibfejgiilakaaDoor
set_option maxRecDepth 100000
open Go.ChangeShapes Go.WideShapes Go.ChangeAt Go.RowKit
set_option linter.unusedVariables false
set_option linter.unusedSimpArgs false

theorem NFr.refl (g : Nat) (v : Value) (w : World) : NFr g v w w := NFr.of_below (Below.refl _ _)
theorem RowAt.refl (w : World) (v : Value) : RowAt w v v := .inl rfl
theorem NFr.trans {g : Nat} {v v1 : Value} {w w1 w2 : World} (h : NFr g v w w1) (hr : RowAt w v v1) (k : NFr g v1 w1 w2) : NFr g v w w2 :=
  ⟨k.os.trans h.os, k.tape.trans h.tape, k.output.trans h.output, Nat.le_trans h.size k.size, fun i hi hg hv => (k.block i (Nat.lt_of_lt_of_le hi h.size) hg (fun e => by
    rcases hr with r | r
    · rw [r] at e; exact hv e
    · have := r i e; omega)).trans (h.block i hi hg hv)⟩
theorem RowAt.trans {w w1 : World} {v v1 v2 : Value} (h : RowAt w v v1) (k : RowAt w1 v1 v2) (hs : w.heap.size ≤ w1.heap.size) : RowAt w v v2 := by
  rcases k with k | k
  · rcases h with h | h
    · exact .inl (k.trans h)
    · exact .inr fun i hi => h i (by rw [← k]; exact hi)
  · exact .inr fun i hi => Nat.le_trans hs (k i hi)
theorem NFr.below {g B : Nat} {v : Value} {w w' : World} (h : NFr g v w w') (hB : B ≤ w.heap.size) (hg : B ≤ g) (hv : ∀ k, v.ownBlock = some k → B ≤ k) : Below B w w' :=
  ⟨h.os, h.tape, h.output, h.size, fun k hk => h.block k (by omega) (by omega) (fun e => by have := hv k e; omega)⟩
theorem NumIs.low {w : World} {base g : Nat} {v : Value} {s : List UInt8} (h : NumIs w base g v s) : ∀ k, v.ownBlock = some k → base ≤ k := fun k hk => by
  rcases h.own.2 with ⟨e1, _⟩ | ⟨b, cap, cur, hv, hb, _⟩
  · rw [e1] at hk; cases hk
  · rw [hv] at hk
    have : b = k := by simpa [Value.ownBlock] using hk
    omega
/-- a row that lies in memory -/
theorem NumIs.top {w : World} {base g : Nat} {v : Value} {s : List UInt8} (h : NumIs w base g v s) : ∀ k, v.ownBlock = some k → k < w.heap.size := fun k hk => by
  rcases h.own.2 with ⟨e1, _⟩ | ⟨b, cap, cur, hv, hb, hh, _⟩
  · rw [e1] at hk; cases hk
  · rw [hv] at hk
    have e : b = k := by simpa [Value.ownBlock] using hk
    rw [← e]
    exact (Array.getElem?_eq_some_iff.1 hh).1
/-- another number's row is not this number's block -/
theorem NumIs.ne {w : World} {base base2 g g2 : Nat} {v v2 : Value} {s s2 : List UInt8} (h : NumIs w base g v s) (h2 : NumIs w base2 g2 v2 s2) : v2.ownBlock ≠ some g := by
  obtain ⟨t, _, hb⟩ := h.ex
  exact own_ne h2.own hb
/-- one that has no row yet stays as it is while another one is pushed to -/
theorem NumIs.fresh {w w' : World} {base base2 g g2 : Nat} {v v2 : Value} {s s2 : List UInt8} (h : NumIs w base g v s) (hv : v.ownBlock = none) (h2 : NumIs w base2 g2 v2 s2) (hf : NFr g2 v2 w w') (hg : g ≠ g2) : NumIs w' base g v s :=
  h.far hf hg (h.ne h2) (fun k hk => by rw [hv] at hk; cases hk)
theorem feed_len (s l : List UInt8) : s.length ≤ (feedF s l).1.length ∧ (feedF s l).1.length ≤ s.length + l.length ∧ ((feedF s l).2 = 0 → (feedF s l).1 = s ++ l) := by
  induction l generalizing s with
  | nil => unfold feedF; simp
  | cons c l ih =>
    unfold feedF
    by_cases h : pushF s c = 0
    · rw [if_pos h]
      have := ih (s ++ [c])
      simp at this ⊢
      refine ⟨by omega, by omega, fun h0 => this.2.2 h0⟩
    · rw [if_neg h]
      exact ⟨Nat.le_refl _, Nat.le_add_right _ _, fun h0 => absurd h0 h⟩
def PLoop (W : World) (base g : Nat) (v : Value) (s : List UInt8) (b : ByteArray) (i : Value) (wr : World) : Prop := ∃ (k : Nat) (v' : Value), k ≤ b.size ∧ i = .int .i64 k ∧ NumIs wr base g v' (s ++ (L8 b).take k) ∧ NFr g v W wr ∧ RowAt W v v' ∧ feedF s (L8 b) = feedF (s ++ (L8 b).take k) ((L8 b).drop k)
theorem push_err (s : List UInt8) (c : UInt8) : pushF s c = 0 ∨ pushF s c = 2 ∨ pushF s c = 7 ∨ pushF s c = 8 := by
  unfold pushF
  split
  · exact .inr (.inl rfl)
  · split
    · exact .inl rfl
    · split
      · exact .inr (.inr (.inr rfl))
      · exact .inr (.inr (.inl rfl))
set_option maxHeartbeats 4000000 in
theorem push_law (base g : Nat) (v : Value) (s : List UInt8) (b : ByteArray) (W : World) (h : NumIs W base g v s) (hb : base ≤ W.heap.size) (hl : s.length + b.size ≤ 900) :
    Calls Tryd.prog 14 #[.pointer (some ⟨g, 0, none⟩), .string b] W fun e w' => e = .returned (.tuple #[.int .i64 (((feedF s (L8 b)).1.length : Int) - s.length), .int .i64 (feedF s (L8 b)).2]) ∧ ∃ v', NumIs w' base g v' (feedF s (L8 b)).1 ∧ NFr g v W w' ∧ RowAt W v v' := by
  generalize hr : feedF s (L8 b) = r
  have HR := Lib.hid hr
  clear hr
  have H := Lib.hid h
  clear h
  go_enter Tryd.func14, Tryd.ntmps14
  go_wp2_with fail
  go_loopw [6] (fun i wr => PLoop W base g v s b i wr) (fun i _ => b.size - (intOf i).toNat)
  case atStart => exact ⟨0, v, by omega, rfl, by rw [List.take_zero, List.append_nil]; exact H.out, NFr.refl _ _ _, RowAt.refl _ _, by rw [List.take_zero, List.append_nil, List.drop_zero]⟩
  case round =>
    obtain ⟨k, v', hk, rfl, hn, hf, hra, hfe⟩ := hrel
    by_cases hlt : k < b.size
    · have hlt' : (k : Int) < b.size := by omega
      have hdr := L8_drop b k hlt
      have htk := L8_take b k hlt
      rw [hdr] at hfe
      have hfe2 : feedF (s ++ (L8 b).take k) (b[k] :: (L8 b).drop (k + 1)) = if pushF (s ++ (L8 b).take k) b[k] = 0 then feedF ((s ++ (L8 b).take k) ++ [b[k]]) ((L8 b).drop (k + 1)) else (s ++ (L8 b).take k, pushF (s ++ (L8 b).take k) b[k]) := rfl
      rw [hfe2] at hfe
      have HS := Lib.hid (push_spec base g v' (s ++ (L8 b).take k) b[k] wr hn (by rw [List.length_append, List.length_take, L8_len]; omega) (Nat.le_trans hb hf.size))
      have HFE := Lib.hid hfe
      have HF := Lib.hid hf
      have HRA := Lib.hid hra
      have HLN : Hid ((s ++ (L8 b).take k).length = s.length + k) := Lib.hid (by rw [List.length_append, List.length_take, L8_len]; omega)
      have HTK := Lib.hid htk
      have hpe := push_err (s ++ (L8 b).take k) b[k]
      clear hn hf hra hfe hfe2 hdr htk
      generalize pushF (s ++ (L8 b).take k) b[k] = pe at *
      by_cases hp : pe = 0
      · subst hp
        rw [if_pos rfl] at HS HFE
        go_wp2_with fail
        with_reducible refine HS.out.mono ?_
        rintro e1 w1 ⟨rfl, v1, hn1, hf1, hra1⟩
        have HN1 := Lib.hid hn1
        have HF1 := Lib.hid (HF.out.trans HRA.out hf1)
        have HRA1 := Lib.hid (HRA.out.trans hra1 HF.out.size)
        clear hn1 hf1 hra1 HS
        go_wp2
        go_roundw
        case rel => exact ⟨k + 1, v1, by omega, by go_num, by rw [HTK.out, ← List.append_assoc]; exact HN1.out, HF1.out, HRA1.out, by rw [HFE.out, HTK.out, ← List.append_assoc]⟩
        case measure => simp [intOf]; omega
      · rw [if_neg hp] at HS HFE
        have hpb : (pe != 0) = true := by simpa using hp
        have hrr : r = (s ++ (L8 b).take k, pe) := by rw [← HR.out, HFE.out]
        clear hpe
        go_wp2_with fail
        with_reducible refine HS.out.mono ?_
        rintro e1 w1 ⟨rfl, v1, hn1, hf1, hra1⟩
        have HN1 := Lib.hid hn1
        have HF1 := Lib.hid (HF.out.trans HRA.out hf1)
        have HRA1 := Lib.hid (HRA.out.trans hra1 HF.out.size)
        clear hn1 hf1 hra1 HS HFE
        have HRR := Lib.hid hrr
        clear hrr
        go_wp2
        go_ret2
        refine ⟨?_, v1, by rw [HRR.out]; exact HN1.out, HF1.out, HRA1.out⟩
        rw [HRR.out]
        have := HLN.out
        have e : ((s ++ (L8 b).take k).length : Int) - s.length = (k : Int) := by omega
        show _ = Ending.returned (.tuple #[.int .i64 (((s ++ (L8 b).take k).length : Int) - s.length), .int .i64 pe])
        rw [e]
        rfl
    · have hlt' : ¬ (k : Int) < b.size := by omega
      have hkk : (L8 b).take k = L8 b := List.take_of_length_le (by rw [L8_len]; omega)
      have hkd : (L8 b).drop k = [] := List.drop_eq_nil_of_le (by rw [L8_len]; omega)
      rw [hkk, hkd] at hfe
      rw [hkk] at hn
      have hrr : r = (s ++ L8 b, 0) := by rw [← HR.out, hfe]; rfl
      have HRR := Lib.hid hrr
      have HN := Lib.hid hn
      have HF := Lib.hid hf
      have HRA := Lib.hid hra
      clear hfe hrr hn hf hra hkk hkd
      go_wp2
      go_ret2
      refine ⟨?_, v', by rw [HRR.out]; exact HN.out, HF.out, HRA.out⟩
      rw [HRR.out]
      show _ = Ending.returned (.tuple #[.int .i64 (((s ++ L8 b).length : Int) - s.length), .int .i64 0])
      have e : ((s ++ L8 b).length : Int) - s.length = (b.size : Int) := by rw [List.length_append, L8_len]; omega
      rw [e]
      rfl
end Go.Proofs.YtiibfejgiilakaaDoor
