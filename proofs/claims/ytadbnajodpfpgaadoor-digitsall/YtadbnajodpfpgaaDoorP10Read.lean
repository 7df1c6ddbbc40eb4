/- The program's Read by its contract. -/
import Derived.Test.YtadbnajodpfpgaaDoorP10Norm
import Derived.Test.YtadbnajodpfpgaaDoorG10RRead
namespace Go.Proofs.YtadbnajodpfpgaaDoor
set_option maxRecDepth 100000
open Go.ChangeShapes Go.WideShapes Go.ChangeAt Go.RowKit
set_option linter.unusedVariables false
set_option linter.unusedSimpArgs false

theorem wp_not {l : List UInt8} : wpB l = false ↔ (l = [] ∨ (1 < l.length ∧ l.head? = some 48)) := by
  unfold wpB
  cases l with
  | nil => simp
  | cons c l =>
    by_cases hc : c = 48
    · subst hc
      cases l with
      | nil => simp
      | cons d l => simp
    · have h1 : ((c :: l) == [48]) = false := by rw [beq_eq_false_iff_ne]; intro h; exact hc (List.cons.inj h).1
      simp [h1, hc]
theorem tw_head {l : List UInt8} (h : l.takeWhile isD ≠ []) : (l.takeWhile isD).head? = l.head? := by
  cases l with
  | nil => rfl
  | cons c l =>
    rw [List.takeWhile_cons] at h ⊢
    split
    · rfl
    · rename_i hc; rw [if_neg hc] at h; exact absurd rfl h
/-- what is read, as the program cuts it -/
theorem read_cuts (s : ByteArray) :
    readF (L8 s) = if wpB (L8 (dgB (cutB s 45))) = true ∧ frO (rsB (cutB s 45)) = true then (powF (L8 (frR (rsB (cutB s 45))))).map fun k => normF ⟨hdB s 45, L8 (dgB (cutB s 45)) ++ L8 (frF (rsB (cutB s 45))), k - (frF (rsB (cutB s 45))).size⟩ else none := by
  have h0 : readF (L8 s) = readW (hdB s 45) (L8 (cutB s 45)) := by
    unfold readF
    rw [L8_cutB]
    unfold hdB
    by_cases h : (L8 s).head? = some 45
    · rw [if_pos h, if_pos h, h]; rfl
    · rw [if_neg h, if_neg h]
      have : ((L8 s).head? == some 45) = false := by simpa using h
      rw [this]
  rw [h0]
  generalize hdB s 45 = n
  generalize cutB s 45 = t
  have e1 : L8 (dgB t) = (L8 t).takeWhile isD := rfl
  have e2 : L8 (rsB t) = (L8 t).dropWhile isD := rfl
  unfold readW
  by_cases hw : (L8 t).takeWhile isD = [] ∨ (1 < ((L8 t).takeWhile isD).length ∧ (L8 t).head? = some 48)
  · rw [if_pos hw, if_neg]
    have : wpB ((L8 t).takeWhile isD) = false := by
      rw [wp_not]
      rcases hw with h | ⟨h1, h2⟩
      · exact .inl h
      · refine .inr ⟨h1, ?_⟩
        rw [tw_head (fun h => by rw [h] at h1; simp at h1)]; exact h2
    rw [e1, this]; simp
  · rw [if_neg hw]
    have hwt : wpB ((L8 t).takeWhile isD) = true := by
      cases h : wpB ((L8 t).takeWhile isD) with
      | true => rfl
      | false =>
        exfalso
        apply hw
        rw [wp_not] at h
        rcases h with h | ⟨h1, h2⟩
        · exact .inl h
        · refine .inr ⟨h1, ?_⟩
          rw [tw_head (fun h => by rw [h] at h1; simp at h1)] at h2; exact h2
    rw [e1, hwt, ← e2]
    generalize (L8 t).takeWhile isD = W
    generalize rsB t = u
    unfold readP frO frR frF hdB
    by_cases h46 : (L8 u).head? = some 46
    · have hb : ((L8 u).head? == some 46) = true := by simpa using h46
      rw [if_pos h46, hb, if_pos rfl, if_pos rfl, if_pos rfl]
      have e3 : L8 (cutB u 46) = (L8 u).tail := by rw [L8_cutB, if_pos h46]
      have e4 : L8 (dgB (cutB u 46)) = (L8 u).tail.takeWhile isD := by rw [← e3]; rfl
      have e5 : L8 (rsB (cutB u 46)) = (L8 u).tail.dropWhile isD := by rw [← e3]; rfl
      rw [← L8_len, L8_toList, e4, e5]
      by_cases h0 : (L8 u).tail.takeWhile isD = []
      · rw [if_pos h0, h0, if_neg (by simp)]
      · rw [if_neg h0, if_pos ⟨rfl, by simpa using h0⟩, read_pow]
        congr 1
        funext k
        have : (-(((L8 u).tail.takeWhile isD).length : Int) + k) = k - ((L8 u).tail.takeWhile isD).length := by omega
        rw [this]
    · have hb : ((L8 u).head? == some 46) = false := by simpa using h46
      rw [if_neg h46, hb, if_neg Bool.false_ne_true, if_neg Bool.false_ne_true, if_neg Bool.false_ne_true, if_pos ⟨rfl, rfl⟩, read_pow, L8_bs, List.append_nil]
      congr 1
      funext k
      have : ((0 : Int) + k) = k - ((bs []).size : Int) := by rw [bs_size]; simp
      rw [this]

theorem pow_cap {l : List UInt8} {k : Int} (h : powF l = some k) : -1000000000 ≤ k ∧ k ≤ 1000000000 := by
  unfold powF at h
  dsimp only at h
  by_cases h1 : l = []
  · rw [if_pos h1] at h; injection h with h; omega
  · rw [if_neg h1] at h
    by_cases h2 : l.head? = some 101 ∨ l.head? = some 69
    · rw [if_pos h2] at h
      generalize (if l.tail.head? = some 45 ∨ l.tail.head? = some 43 then l.tail.tail else l.tail) = t at h
      by_cases h3 : t.takeWhile isD = []
      · rw [if_pos h3] at h; cases h
      · rw [if_neg h3] at h
        by_cases h4 : t.dropWhile isD = []
        · rw [if_pos h4] at h
          injection h with h
          have := exF_num (t.takeWhile isD)
          rw [← h]
          split <;> omega
        · rw [if_neg h4] at h; cases h
    · rw [if_neg h2] at h; cases h

theorem frF_le (s : ByteArray) : (frF s).size ≤ s.size ∧ (frR s).size ≤ s.size := by
  unfold frF frR
  have h1 := dgB_le (cutB s 46)
  have h2 := rsB_le (cutB s 46)
  have h3 := cutB_le s 46
  split
  · omega
  · rw [bs_size]; simp
theorem ret_read (n : Bool) (s : ByteArray) (e : Int) : Ending.returned (.tuple #[.agg #[.bool n, .string s, .int .i64 e], .bool true]) = .returned (readV (some ⟨n, L8 s, e⟩)) := by
  unfold readV dcV; dsimp only; rw [bs_L8]
-- the walk
set_option maxHeartbeats 8000000 in
theorem read_any (s : ByteArray) (w : World) (hs : s.size ≤ 100000) : Calls Tryd.prog 11 #[.string s] w fun e w' => e = .returned (readV (readF (L8 s))) ∧ Below w.heap.size w w' := by
  have HQ := Lib.hid (read_cuts s)
  have HC := Lib.hid (fun W => cutPrefix_any s 45 W (by omega))
  have hl1 := cutB_le s 45
  generalize readF (L8 s) = r at *
  generalize hdB s 45 = n at *
  generalize cutB s 45 = t at *
  have HD := Lib.hid (fun W => cutDigits_any t W (by omega))
  have hl2 := dgB_le t
  have hl3 := rsB_le t
  generalize dgB t = wd at *
  generalize rsB t = u at *
  have HF := Lib.hid (fun W => cutFraction_any u W (by omega))
  obtain ⟨hl4, hl5⟩ := frF_le u
  have HP := Lib.hid (fun W => readPower_any (frR u) W (by omega))
  have hpc : ∀ k, powF (L8 (frR u)) = some k → -1000000000 ≤ k ∧ k ≤ 1000000000 := fun k h => pow_cap h
  have HW := Lib.hid (fun W => isWholePart_any wd W (by omega))
  generalize frF u = f at *
  generalize frO u = ok at *
  generalize wpB (L8 wd) = wb at *
  generalize powF (L8 (frR u)) = pw at *
  generalize frR u = v at *
  have HB0 : Hid (Below w.heap.size w (w.alloc (.cells #[.bool false, .string (bs []), .int .i64 0] 23))) := Lib.hid ((Below.refl _ _).alloc (Nat.le_refl _) _)
  have HZ0 : Hid (DcBlk (w.alloc (.cells #[.bool false, .string (bs []), .int .i64 0] 23)) w.heap.size false (bs []) 0) := Lib.hid (Blk.new w 23 _)
  cases pw with
  | none =>
    cases wb with
    | false =>
      cases ok with
      | false =>
        have hrr : r = none := by rw [HQ.out]; simp
        subst hrr
        clear HQ hpc
        go_enter Tryd.func11, Tryd.ntmps11
        go_wp2_with fail
        have hbs : (⟨#[]⟩ : ByteArray) = bs [] := rfl
        rw [hbs]
        clear hbs
        generalize w.alloc (.cells #[.bool false, .string (bs []), .int .i64 0] 23) = w0 at *
        with_reducible refine (HC.out _).mono ?_
        rintro e w1 ⟨rfl, rfl⟩
        go_wp2_with fail
        with_reducible refine (HD.out _).mono ?_
        rintro e w1 ⟨rfl, hst1⟩
        go_wp2_with fail
        with_reducible refine (HF.out _).mono ?_
        rintro e w2 ⟨rfl, hst2⟩
        go_wp2_with fail
        with_reducible refine (HP.out _).mono ?_
        rintro e w3 ⟨rfl, hst3⟩
        have HB3 := Lib.hid (HB0.out.trans (((hst1.trans hst2).trans hst3).lower _))
        have HZ3 := Lib.hid (HZ0.out.below (((hst1.trans hst2).trans hst3).below) HZ0.out.lt)
        have hz0 : w3.cell? ⟨w.heap.size, 0, none⟩ = some (.bool false) := HZ3.out.cell 0
        have hz1 : w3.cell? ⟨w.heap.size, 1, none⟩ = some (.string (bs [])) := HZ3.out.cell 1
        have hz2 : w3.cell? ⟨w.heap.size, 2, none⟩ = some (.int .i64 0) := HZ3.out.cell 2
        have hf0 : w3.frozen? ⟨w.heap.size, 0, none⟩ = false := HZ3.out.frozen 0
        have hf1 : w3.frozen? ⟨w.heap.size, 1, none⟩ = false := HZ3.out.frozen 1
        have hf2 : w3.frozen? ⟨w.heap.size, 2, none⟩ = false := HZ3.out.frozen 2
        have hpl : w.heap.size < w3.heap.size := HZ3.out.lt
        clear HB0 HZ0 hst1 hst2 hst3
        unfold powV
        go_wp2_with fail
        with_reducible refine (HW.out _).mono ?_
        rintro e w4 ⟨rfl, rfl⟩
        go_wp2
        refine bodyPost_ret (results_blk Tryd.results11 _ _ w.heap.size _ _ _ rfl (((HZ3.out.set' 0 (.bool false) rfl).set' 1 (.string (bs [])) rfl).set' 2 (.int .i64 0) rfl) Tryd.underlying23 rfl (by kernel_rfl)) rfl ?_
        exact ⟨rfl, ((HB3.out.setCell (by simp) _).setCell (by simp) _).setCell (by simp) _⟩
      | true =>
        have hrr : r = none := by rw [HQ.out]; simp
        subst hrr
        clear HQ hpc
        go_enter Tryd.func11, Tryd.ntmps11
        go_wp2_with fail
        have hbs : (⟨#[]⟩ : ByteArray) = bs [] := rfl
        rw [hbs]
        clear hbs
        generalize w.alloc (.cells #[.bool false, .string (bs []), .int .i64 0] 23) = w0 at *
        with_reducible refine (HC.out _).mono ?_
        rintro e w1 ⟨rfl, rfl⟩
        go_wp2_with fail
        with_reducible refine (HD.out _).mono ?_
        rintro e w1 ⟨rfl, hst1⟩
        go_wp2_with fail
        with_reducible refine (HF.out _).mono ?_
        rintro e w2 ⟨rfl, hst2⟩
        go_wp2_with fail
        with_reducible refine (HP.out _).mono ?_
        rintro e w3 ⟨rfl, hst3⟩
        have HB3 := Lib.hid (HB0.out.trans (((hst1.trans hst2).trans hst3).lower _))
        have HZ3 := Lib.hid (HZ0.out.below (((hst1.trans hst2).trans hst3).below) HZ0.out.lt)
        have hz0 : w3.cell? ⟨w.heap.size, 0, none⟩ = some (.bool false) := HZ3.out.cell 0
        have hz1 : w3.cell? ⟨w.heap.size, 1, none⟩ = some (.string (bs [])) := HZ3.out.cell 1
        have hz2 : w3.cell? ⟨w.heap.size, 2, none⟩ = some (.int .i64 0) := HZ3.out.cell 2
        have hf0 : w3.frozen? ⟨w.heap.size, 0, none⟩ = false := HZ3.out.frozen 0
        have hf1 : w3.frozen? ⟨w.heap.size, 1, none⟩ = false := HZ3.out.frozen 1
        have hf2 : w3.frozen? ⟨w.heap.size, 2, none⟩ = false := HZ3.out.frozen 2
        have hpl : w.heap.size < w3.heap.size := HZ3.out.lt
        clear HB0 HZ0 hst1 hst2 hst3
        unfold powV
        go_wp2_with fail
        with_reducible refine (HW.out _).mono ?_
        rintro e w4 ⟨rfl, rfl⟩
        go_wp2
        refine bodyPost_ret (results_blk Tryd.results11 _ _ w.heap.size _ _ _ rfl (((HZ3.out.set' 0 (.bool false) rfl).set' 1 (.string (bs [])) rfl).set' 2 (.int .i64 0) rfl) Tryd.underlying23 rfl (by kernel_rfl)) rfl ?_
        exact ⟨rfl, ((HB3.out.setCell (by simp) _).setCell (by simp) _).setCell (by simp) _⟩
    | true =>
      cases ok with
      | false =>
        have hrr : r = none := by rw [HQ.out]; simp
        subst hrr
        clear HQ hpc
        go_enter Tryd.func11, Tryd.ntmps11
        go_wp2_with fail
        have hbs : (⟨#[]⟩ : ByteArray) = bs [] := rfl
        rw [hbs]
        clear hbs
        generalize w.alloc (.cells #[.bool false, .string (bs []), .int .i64 0] 23) = w0 at *
        with_reducible refine (HC.out _).mono ?_
        rintro e w1 ⟨rfl, rfl⟩
        go_wp2_with fail
        with_reducible refine (HD.out _).mono ?_
        rintro e w1 ⟨rfl, hst1⟩
        go_wp2_with fail
        with_reducible refine (HF.out _).mono ?_
        rintro e w2 ⟨rfl, hst2⟩
        go_wp2_with fail
        with_reducible refine (HP.out _).mono ?_
        rintro e w3 ⟨rfl, hst3⟩
        have HB3 := Lib.hid (HB0.out.trans (((hst1.trans hst2).trans hst3).lower _))
        have HZ3 := Lib.hid (HZ0.out.below (((hst1.trans hst2).trans hst3).below) HZ0.out.lt)
        have hz0 : w3.cell? ⟨w.heap.size, 0, none⟩ = some (.bool false) := HZ3.out.cell 0
        have hz1 : w3.cell? ⟨w.heap.size, 1, none⟩ = some (.string (bs [])) := HZ3.out.cell 1
        have hz2 : w3.cell? ⟨w.heap.size, 2, none⟩ = some (.int .i64 0) := HZ3.out.cell 2
        have hf0 : w3.frozen? ⟨w.heap.size, 0, none⟩ = false := HZ3.out.frozen 0
        have hf1 : w3.frozen? ⟨w.heap.size, 1, none⟩ = false := HZ3.out.frozen 1
        have hf2 : w3.frozen? ⟨w.heap.size, 2, none⟩ = false := HZ3.out.frozen 2
        have hpl : w.heap.size < w3.heap.size := HZ3.out.lt
        clear HB0 HZ0 hst1 hst2 hst3
        unfold powV
        go_wp2_with fail
        with_reducible refine (HW.out _).mono ?_
        rintro e w4 ⟨rfl, rfl⟩
        go_wp2
        refine bodyPost_ret (results_blk Tryd.results11 _ _ w.heap.size _ _ _ rfl (((HZ3.out.set' 0 (.bool false) rfl).set' 1 (.string (bs [])) rfl).set' 2 (.int .i64 0) rfl) Tryd.underlying23 rfl (by kernel_rfl)) rfl ?_
        exact ⟨rfl, ((HB3.out.setCell (by simp) _).setCell (by simp) _).setCell (by simp) _⟩
      | true =>
        have hrr : r = none := by rw [HQ.out]; simp
        subst hrr
        clear HQ hpc
        go_enter Tryd.func11, Tryd.ntmps11
        go_wp2_with fail
        have hbs : (⟨#[]⟩ : ByteArray) = bs [] := rfl
        rw [hbs]
        clear hbs
        generalize w.alloc (.cells #[.bool false, .string (bs []), .int .i64 0] 23) = w0 at *
        with_reducible refine (HC.out _).mono ?_
        rintro e w1 ⟨rfl, rfl⟩
        go_wp2_with fail
        with_reducible refine (HD.out _).mono ?_
        rintro e w1 ⟨rfl, hst1⟩
        go_wp2_with fail
        with_reducible refine (HF.out _).mono ?_
        rintro e w2 ⟨rfl, hst2⟩
        go_wp2_with fail
        with_reducible refine (HP.out _).mono ?_
        rintro e w3 ⟨rfl, hst3⟩
        have HB3 := Lib.hid (HB0.out.trans (((hst1.trans hst2).trans hst3).lower _))
        have HZ3 := Lib.hid (HZ0.out.below (((hst1.trans hst2).trans hst3).below) HZ0.out.lt)
        have hz0 : w3.cell? ⟨w.heap.size, 0, none⟩ = some (.bool false) := HZ3.out.cell 0
        have hz1 : w3.cell? ⟨w.heap.size, 1, none⟩ = some (.string (bs [])) := HZ3.out.cell 1
        have hz2 : w3.cell? ⟨w.heap.size, 2, none⟩ = some (.int .i64 0) := HZ3.out.cell 2
        have hf0 : w3.frozen? ⟨w.heap.size, 0, none⟩ = false := HZ3.out.frozen 0
        have hf1 : w3.frozen? ⟨w.heap.size, 1, none⟩ = false := HZ3.out.frozen 1
        have hf2 : w3.frozen? ⟨w.heap.size, 2, none⟩ = false := HZ3.out.frozen 2
        have hpl : w.heap.size < w3.heap.size := HZ3.out.lt
        clear HB0 HZ0 hst1 hst2 hst3
        unfold powV
        go_wp2_with fail
        with_reducible refine (HW.out _).mono ?_
        rintro e w4 ⟨rfl, rfl⟩
        go_wp2
        refine bodyPost_ret (results_blk Tryd.results11 _ _ w.heap.size _ _ _ rfl (((HZ3.out.set' 0 (.bool false) rfl).set' 1 (.string (bs [])) rfl).set' 2 (.int .i64 0) rfl) Tryd.underlying23 rfl (by kernel_rfl)) rfl ?_
        exact ⟨rfl, ((HB3.out.setCell (by simp) _).setCell (by simp) _).setCell (by simp) _⟩
  | some k =>
    cases wb with
    | false =>
      cases ok with
      | false =>
        have hrr : r = none := by rw [HQ.out]; simp
        subst hrr
        clear HQ hpc
        go_enter Tryd.func11, Tryd.ntmps11
        go_wp2_with fail
        have hbs : (⟨#[]⟩ : ByteArray) = bs [] := rfl
        rw [hbs]
        clear hbs
        generalize w.alloc (.cells #[.bool false, .string (bs []), .int .i64 0] 23) = w0 at *
        with_reducible refine (HC.out _).mono ?_
        rintro e w1 ⟨rfl, rfl⟩
        go_wp2_with fail
        with_reducible refine (HD.out _).mono ?_
        rintro e w1 ⟨rfl, hst1⟩
        go_wp2_with fail
        with_reducible refine (HF.out _).mono ?_
        rintro e w2 ⟨rfl, hst2⟩
        go_wp2_with fail
        with_reducible refine (HP.out _).mono ?_
        rintro e w3 ⟨rfl, hst3⟩
        have HB3 := Lib.hid (HB0.out.trans (((hst1.trans hst2).trans hst3).lower _))
        have HZ3 := Lib.hid (HZ0.out.below (((hst1.trans hst2).trans hst3).below) HZ0.out.lt)
        have hz0 : w3.cell? ⟨w.heap.size, 0, none⟩ = some (.bool false) := HZ3.out.cell 0
        have hz1 : w3.cell? ⟨w.heap.size, 1, none⟩ = some (.string (bs [])) := HZ3.out.cell 1
        have hz2 : w3.cell? ⟨w.heap.size, 2, none⟩ = some (.int .i64 0) := HZ3.out.cell 2
        have hf0 : w3.frozen? ⟨w.heap.size, 0, none⟩ = false := HZ3.out.frozen 0
        have hf1 : w3.frozen? ⟨w.heap.size, 1, none⟩ = false := HZ3.out.frozen 1
        have hf2 : w3.frozen? ⟨w.heap.size, 2, none⟩ = false := HZ3.out.frozen 2
        have hpl : w.heap.size < w3.heap.size := HZ3.out.lt
        clear HB0 HZ0 hst1 hst2 hst3
        unfold powV
        go_wp2_with fail
        with_reducible refine (HW.out _).mono ?_
        rintro e w4 ⟨rfl, rfl⟩
        go_wp2
        refine bodyPost_ret (results_blk Tryd.results11 _ _ w.heap.size _ _ _ rfl (((HZ3.out.set' 0 (.bool false) rfl).set' 1 (.string (bs [])) rfl).set' 2 (.int .i64 0) rfl) Tryd.underlying23 rfl (by kernel_rfl)) rfl ?_
        exact ⟨rfl, ((HB3.out.setCell (by simp) _).setCell (by simp) _).setCell (by simp) _⟩
      | true =>
        have hrr : r = none := by rw [HQ.out]; simp
        subst hrr
        clear HQ hpc
        go_enter Tryd.func11, Tryd.ntmps11
        go_wp2_with fail
        have hbs : (⟨#[]⟩ : ByteArray) = bs [] := rfl
        rw [hbs]
        clear hbs
        generalize w.alloc (.cells #[.bool false, .string (bs []), .int .i64 0] 23) = w0 at *
        with_reducible refine (HC.out _).mono ?_
        rintro e w1 ⟨rfl, rfl⟩
        go_wp2_with fail
        with_reducible refine (HD.out _).mono ?_
        rintro e w1 ⟨rfl, hst1⟩
        go_wp2_with fail
        with_reducible refine (HF.out _).mono ?_
        rintro e w2 ⟨rfl, hst2⟩
        go_wp2_with fail
        with_reducible refine (HP.out _).mono ?_
        rintro e w3 ⟨rfl, hst3⟩
        have HB3 := Lib.hid (HB0.out.trans (((hst1.trans hst2).trans hst3).lower _))
        have HZ3 := Lib.hid (HZ0.out.below (((hst1.trans hst2).trans hst3).below) HZ0.out.lt)
        have hz0 : w3.cell? ⟨w.heap.size, 0, none⟩ = some (.bool false) := HZ3.out.cell 0
        have hz1 : w3.cell? ⟨w.heap.size, 1, none⟩ = some (.string (bs [])) := HZ3.out.cell 1
        have hz2 : w3.cell? ⟨w.heap.size, 2, none⟩ = some (.int .i64 0) := HZ3.out.cell 2
        have hf0 : w3.frozen? ⟨w.heap.size, 0, none⟩ = false := HZ3.out.frozen 0
        have hf1 : w3.frozen? ⟨w.heap.size, 1, none⟩ = false := HZ3.out.frozen 1
        have hf2 : w3.frozen? ⟨w.heap.size, 2, none⟩ = false := HZ3.out.frozen 2
        have hpl : w.heap.size < w3.heap.size := HZ3.out.lt
        clear HB0 HZ0 hst1 hst2 hst3
        unfold powV
        go_wp2_with fail
        with_reducible refine (HW.out _).mono ?_
        rintro e w4 ⟨rfl, rfl⟩
        go_wp2
        refine bodyPost_ret (results_blk Tryd.results11 _ _ w.heap.size _ _ _ rfl (((HZ3.out.set' 0 (.bool false) rfl).set' 1 (.string (bs [])) rfl).set' 2 (.int .i64 0) rfl) Tryd.underlying23 rfl (by kernel_rfl)) rfl ?_
        exact ⟨rfl, ((HB3.out.setCell (by simp) _).setCell (by simp) _).setCell (by simp) _⟩
    | true =>
      cases ok with
      | false =>
        have hrr : r = none := by rw [HQ.out]; simp
        subst hrr
        clear HQ hpc
        go_enter Tryd.func11, Tryd.ntmps11
        go_wp2_with fail
        have hbs : (⟨#[]⟩ : ByteArray) = bs [] := rfl
        rw [hbs]
        clear hbs
        generalize w.alloc (.cells #[.bool false, .string (bs []), .int .i64 0] 23) = w0 at *
        with_reducible refine (HC.out _).mono ?_
        rintro e w1 ⟨rfl, rfl⟩
        go_wp2_with fail
        with_reducible refine (HD.out _).mono ?_
        rintro e w1 ⟨rfl, hst1⟩
        go_wp2_with fail
        with_reducible refine (HF.out _).mono ?_
        rintro e w2 ⟨rfl, hst2⟩
        go_wp2_with fail
        with_reducible refine (HP.out _).mono ?_
        rintro e w3 ⟨rfl, hst3⟩
        have HB3 := Lib.hid (HB0.out.trans (((hst1.trans hst2).trans hst3).lower _))
        have HZ3 := Lib.hid (HZ0.out.below (((hst1.trans hst2).trans hst3).below) HZ0.out.lt)
        have hz0 : w3.cell? ⟨w.heap.size, 0, none⟩ = some (.bool false) := HZ3.out.cell 0
        have hz1 : w3.cell? ⟨w.heap.size, 1, none⟩ = some (.string (bs [])) := HZ3.out.cell 1
        have hz2 : w3.cell? ⟨w.heap.size, 2, none⟩ = some (.int .i64 0) := HZ3.out.cell 2
        have hf0 : w3.frozen? ⟨w.heap.size, 0, none⟩ = false := HZ3.out.frozen 0
        have hf1 : w3.frozen? ⟨w.heap.size, 1, none⟩ = false := HZ3.out.frozen 1
        have hf2 : w3.frozen? ⟨w.heap.size, 2, none⟩ = false := HZ3.out.frozen 2
        have hpl : w.heap.size < w3.heap.size := HZ3.out.lt
        clear HB0 HZ0 hst1 hst2 hst3
        unfold powV
        go_wp2_with fail
        with_reducible refine (HW.out _).mono ?_
        rintro e w4 ⟨rfl, rfl⟩
        go_wp2
        refine bodyPost_ret (results_blk Tryd.results11 _ _ w.heap.size _ _ _ rfl (((HZ3.out.set' 0 (.bool false) rfl).set' 1 (.string (bs [])) rfl).set' 2 (.int .i64 0) rfl) Tryd.underlying23 rfl (by kernel_rfl)) rfl ?_
        exact ⟨rfl, ((HB3.out.setCell (by simp) _).setCell (by simp) _).setCell (by simp) _⟩
      | true =>
        have hrr : r = some (normF ⟨n, L8 wd ++ L8 f, k - f.size⟩) := by rw [HQ.out]; simp
        obtain ⟨hk0, hk1⟩ := hpc k rfl
        clear HQ hpc
        obtain ⟨X, hX⟩ : ∃ X, wd ++ f = X := ⟨_, rfl⟩
        rw [← L8_app, hX] at hrr
        have hXl : X.size = wd.size + f.size := by rw [← hX, ← L8_len, L8_app, List.length_append, L8_len, L8_len]
        have HN := Lib.hid (fun W => norm_any ⟨n, L8 X, k - f.size⟩ W (by rw [L8_len, hXl]; omega) (by dsimp only; omega) (by dsimp only; omega))
        generalize normF ⟨n, L8 X, k - f.size⟩ = y at *
        obtain ⟨yn, yd, ye⟩ := y
        obtain ⟨ys, rfl⟩ : ∃ ys, yd = L8 ys := ⟨bs yd, rfl⟩
        unfold dcV at HN
        dsimp only at HN
        rw [bs_L8, bs_L8] at HN
        subst hrr
        have hsum : ¬ wd.size + f.size > 9223372036854775807 := by omega
        clear hXl
        go_enter Tryd.func11, Tryd.ntmps11
        go_wp2_with fail
        have hbs : (⟨#[]⟩ : ByteArray) = bs [] := rfl
        rw [hbs]
        clear hbs
        generalize w.alloc (.cells #[.bool false, .string (bs []), .int .i64 0] 23) = w0 at *
        with_reducible refine (HC.out _).mono ?_
        rintro e w1 ⟨rfl, rfl⟩
        go_wp2_with fail
        with_reducible refine (HD.out _).mono ?_
        rintro e w1 ⟨rfl, hst1⟩
        go_wp2_with fail
        with_reducible refine (HF.out _).mono ?_
        rintro e w2 ⟨rfl, hst2⟩
        go_wp2_with fail
        with_reducible refine (HP.out _).mono ?_
        rintro e w3 ⟨rfl, hst3⟩
        have HB3 := Lib.hid (HB0.out.trans (((hst1.trans hst2).trans hst3).lower _))
        have HZ3 := Lib.hid (HZ0.out.below (((hst1.trans hst2).trans hst3).below) HZ0.out.lt)
        have hz0 : w3.cell? ⟨w.heap.size, 0, none⟩ = some (.bool false) := HZ3.out.cell 0
        have hz1 : w3.cell? ⟨w.heap.size, 1, none⟩ = some (.string (bs [])) := HZ3.out.cell 1
        have hz2 : w3.cell? ⟨w.heap.size, 2, none⟩ = some (.int .i64 0) := HZ3.out.cell 2
        have hf0 : w3.frozen? ⟨w.heap.size, 0, none⟩ = false := HZ3.out.frozen 0
        have hf1 : w3.frozen? ⟨w.heap.size, 1, none⟩ = false := HZ3.out.frozen 1
        have hf2 : w3.frozen? ⟨w.heap.size, 2, none⟩ = false := HZ3.out.frozen 2
        have hpl : w.heap.size < w3.heap.size := HZ3.out.lt
        clear HB0 HZ0 hst1 hst2 hst3
        unfold powV
        go_wp2_with fail
        with_reducible refine (HW.out _).mono ?_
        rintro e w4 ⟨rfl, rfl⟩
        go_wp2_with fail
        with_reducible refine (HN.out _).mono ?_
        rintro e w5 ⟨rfl, hb5⟩
        have HB5 := Lib.hid (HB3.out.trans (hb5.mono HB3.out.size))
        have HZ5 := Lib.hid (HZ3.out.below hb5 HZ3.out.lt)
        clear hz0 hz1 hz2 hf0 hf1 hf2 hb5
        have hz0 : w5.cell? ⟨w.heap.size, 0, none⟩ = some (.bool false) := HZ5.out.cell 0
        have hz1 : w5.cell? ⟨w.heap.size, 1, none⟩ = some (.string (bs [])) := HZ5.out.cell 1
        have hz2 : w5.cell? ⟨w.heap.size, 2, none⟩ = some (.int .i64 0) := HZ5.out.cell 2
        have hf0 : w5.frozen? ⟨w.heap.size, 0, none⟩ = false := HZ5.out.frozen 0
        have hf1 : w5.frozen? ⟨w.heap.size, 1, none⟩ = false := HZ5.out.frozen 1
        have hf2 : w5.frozen? ⟨w.heap.size, 2, none⟩ = false := HZ5.out.frozen 2
        have hpl : w.heap.size < w5.heap.size := HZ5.out.lt
        go_wp2
        refine bodyPost_ret (results_blk Tryd.results11 _ _ w.heap.size _ _ _ rfl (((HZ5.out.set' 0 (.bool yn) rfl).set' 1 (.string ys) rfl).set' 2 (.int .i64 ye) rfl) Tryd.underlying23 rfl (by kernel_rfl)) rfl ?_
        exact ⟨ret_read yn ys ye, ((HB5.out.setCell (by simp) _).setCell (by simp) _).setCell (by simp) _⟩
end Go.Proofs.YtadbnajodpfpgaaDoor
