/- LimitChecks. Printed by wip/gen_n15.py. -/
import Derived.Test.YthiakokjijfgoaaN15Awk
import Derived.Test.YthiakokjijfgoaaPlace4
namespace Go.Proofs.Ythiakokjijfgoaa
set_option maxRecDepth 100000
open Go.RowKit
set_option linter.unusedVariables false
set_option linter.unusedSimpArgs false

def wideL : Lm := ⟨1048576, 1048576, 1048576, 1048576, 1048576⟩
theorem wide_any (w : World) : Calls Try.prog 25 #[] w fun e w' => e = .returned (.agg #[.int .i64 1048576, .int .i64 1048576, .int .i64 1048576, .int .i64 1048576, .int .i64 1048576]) ∧ Below w.heap.size w w' := by
  have hB := Lib.hid ((Below.refl w.heap.size w).alloc (Nat.le_refl _) (.cells #[.int .i64 1048576, .int .i64 1048576, .int .i64 1048576, .int .i64 1048576, .int .i64 1048576] 23))
  have hX := Lib.hid (Blk.new w 23 #[.int .i64 1048576, .int .i64 1048576, .int .i64 1048576, .int .i64 1048576, .int .i64 1048576])
  go_enter Try.func25, Try.ntmps25
  go_wp2_with fail
  exact bodyPost_ret (results_one Try.results25 _ _ _ _ _ _ rfl hX.out Try.underlying23 rfl (by kernel_rfl)) rfl ⟨rfl, hB.out⟩
set_option maxHeartbeats 16000000 in
theorem checks_walk (a n : Int) (w : World) : Calls Try.prog 5 #[.int .i64 a, .int .i64 n] w fun e w' => e = .returned (.bool true) ∧ Below w.heap.size w w' := by
  obtain ⟨p, hp⟩ : ∃ p, Hid (a % 5 = p) := ⟨_, Lib.hid rfl⟩
  have hpl := Lib.hid (fun W => place_any a 5 W (by decide) (by decide))
  have hp5 : p = 0 ∨ p = 1 ∨ p = 2 ∨ p = 3 ∨ p = 4 := by have := hp.out; omega
  rw [hp.out] at hpl
  clear hp
  have hAw := Lib.hid (fun W => awake15 W)
  go_enter Try.func5, Try.ntmps5
  go_wp2_with fail
  with_reducible refine (wide_any _).mono ?_
  rintro e w1 ⟨rfl, hb⟩
  have HB1 := Lib.hid hb
  clear hb
  go_wp2_with fail
  have hX := Lib.hid (Blk.new w1 23 #[.int .i64 1048576, .int .i64 1048576, .int .i64 1048576, .int .i64 1048576, .int .i64 1048576])
  have hB := Lib.hid (HB1.out.alloc HB1.out.size (.cells #[.int .i64 1048576, .int .i64 1048576, .int .i64 1048576, .int .i64 1048576, .int .i64 1048576] 23))
  have hlo := Lib.hid HB1.out.size
  clear HB1
  generalize w1.alloc (.cells #[.int .i64 1048576, .int .i64 1048576, .int .i64 1048576, .int .i64 1048576, .int .i64 1048576] 23) = w2 at *
  generalize w1.heap.size = y at *
  with_reducible refine (hpl.out _).mono ?_
  rintro e w3 ⟨rfl, rfl⟩
  have hl := hX.out.lt
  have c0 := hX.out.cell 0
  have f0 := hX.out.frozen 0
  have c1 := hX.out.cell 1
  have f1 := hX.out.frozen 1
  have c2 := hX.out.cell 2
  have f2 := hX.out.frozen 2
  have c3 := hX.out.cell 3
  have f3 := hX.out.frozen 3
  have c4 := hX.out.cell 4
  have f4 := hX.out.frozen 4
  simp only [List.getElem?_toArray, List.getElem?_cons_zero, List.getElem?_cons_succ] at c0 c1 c2 c3 c4
  obtain ⟨x, hx, hcase⟩ : ∃ x, inL n = x ∧ ((x = false ∧ n < 1) ∨ (x = true ∧ 1 ≤ n ∧ n ≤ 1048576) ∨ (x = false ∧ 1 ≤ n ∧ 1048576 < n)) := by
    refine ⟨_, rfl, ?_⟩
    unfold inL
    by_cases h1 : 1 ≤ n <;> by_cases h2 : n ≤ 1048576 <;> simp [h1, h2] <;> omega
  rcases hp5 with rfl | rfl | rfl | rfl | rfl
  · have hC : chk ⟨n, 1048576, 1048576, 1048576, 1048576⟩ = x := by rw [← hx]; show (inL n && inL 1048576 && inL 1048576 && inL 1048576 && inL 1048576) = inL n; rw [show inL 1048576 = true from rfl]; cases inL n <;> rfl
    have hXs := Lib.hid ((hX.out.set 0 (.int .i64 n)).cong (b := #[.int .i64 n, .int .i64 1048576, .int .i64 1048576, .int .i64 1048576, .int .i64 1048576]) rfl)
    have hBs := Lib.hid (hB.out.setCell (p := ⟨y, 0, none⟩) hlo.out (.int .i64 n))
    rcases hcase with ⟨rfl, h1⟩ | ⟨rfl, h1, h2⟩ | ⟨rfl, h1, h2⟩
    · have hK := Lib.hid (fun W => pcheck_any ⟨n, 1048576, 1048576, 1048576, 1048576⟩ W)
      rw [hC] at hK
      unfold lmA at hK
      dsimp only at hK
      go_wp2_with fail
      clear c0 c1 c2 c3 c4 f0 f1 f2 f3 f4 hl hX hB
      generalize w2.setCell ⟨y, 0, none⟩ (.int .i64 n) = w4 at *
      with_reducible refine (hK.out _).mono ?_
      rintro e w5 ⟨rfl, hb⟩
      have HX5 := Lib.hid (hXs.out.go' hb)
      have HB5 := Lib.hid (hBs.out.trans (hb.mono hBs.out.size))
      clear hb hXs hBs hK
      have c0 := HX5.out.cell 0
      have c1 := HX5.out.cell 1
      have c2 := HX5.out.cell 2
      have c3 := HX5.out.cell 3
      have c4 := HX5.out.cell 4
      simp only [List.getElem?_toArray, List.getElem?_cons_zero, List.getElem?_cons_succ] at c0 c1 c2 c3 c4
      have hl := HX5.out.lt
      have hN := Lib.hid (pnew_no ⟨n, 1048576, 1048576, 1048576, 1048576⟩ hC w5)
      unfold lmA at hN
      dsimp only at hN
      go_wp2_with fail
      with_reducible refine (hN.out).mono ?_
      rintro e w6 ⟨rfl, hb⟩
      have HB6 := Lib.hid (HB5.out.trans (hb.mono HB5.out.size))
      clear hb HX5 HB5 hN c0 c1 c2 c3 c4 hl
      go_wp2_with fail
      with_reducible refine (hAw.out _).mono ?_
      rintro e w7 ⟨rfl, hb⟩
      have HB7 := Lib.hid (HB6.out.trans (hb.mono HB6.out.size))
      clear hb
      go_wp2_with fail
      go_ret
      exact ⟨rfl, HB7.out⟩
    · have hK := Lib.hid (fun W => pcheck_any ⟨n, 1048576, 1048576, 1048576, 1048576⟩ W)
      rw [hC] at hK
      unfold lmA at hK
      dsimp only at hK
      go_wp2_with fail
      clear c0 c1 c2 c3 c4 f0 f1 f2 f3 f4 hl hX hB
      generalize w2.setCell ⟨y, 0, none⟩ (.int .i64 n) = w4 at *
      with_reducible refine (hK.out _).mono ?_
      rintro e w5 ⟨rfl, hb⟩
      have HX5 := Lib.hid (hXs.out.go' hb)
      have HB5 := Lib.hid (hBs.out.trans (hb.mono hBs.out.size))
      clear hb hXs hBs hK
      have c0 := HX5.out.cell 0
      have c1 := HX5.out.cell 1
      have c2 := HX5.out.cell 2
      have c3 := HX5.out.cell 3
      have c4 := HX5.out.cell 4
      simp only [List.getElem?_toArray, List.getElem?_cons_zero, List.getElem?_cons_succ] at c0 c1 c2 c3 c4
      have hl := HX5.out.lt
      have hN : Hid (Calls Try.prog 6 #[.agg (lmA ⟨n, 1048576, 1048576, 1048576, 1048576⟩)] w5 fun e W' => ∃ g, e = .returned (.pointer (some ⟨g, 0, none⟩)) ∧ Below w5.heap.size w5 W') := Lib.hid ((pnew_yes ⟨n, 1048576, 1048576, 1048576, 1048576⟩ hC w5).mono fun e W' ⟨g, h1, _, _, h4⟩ => ⟨g, h1, h4⟩)
      unfold lmA at hN
      dsimp only at hN
      go_wp2_with fail
      with_reducible refine (hN.out).mono ?_
      rintro e w6 ⟨g, rfl, hb⟩
      have HB6 := Lib.hid (HB5.out.trans (hb.mono HB5.out.size))
      clear hb HX5 HB5 hN c0 c1 c2 c3 c4 hl
      go_wp2_with fail
      with_reducible refine (hAw.out _).mono ?_
      rintro e w7 ⟨rfl, hb⟩
      have HB7 := Lib.hid (HB6.out.trans (hb.mono HB6.out.size))
      clear hb
      go_wp2_with fail
      go_ret
      exact ⟨rfl, HB7.out⟩
    · have hd : decide (n ≤ 1048576) = false := decide_eq_false (by omega)
      have hK := Lib.hid (fun W => pcheck_any ⟨n, 1048576, 1048576, 1048576, 1048576⟩ W)
      rw [hC] at hK
      unfold lmA at hK
      dsimp only at hK
      go_wp2_with fail
      clear c0 c1 c2 c3 c4 f0 f1 f2 f3 f4 hl hX hB
      generalize w2.setCell ⟨y, 0, none⟩ (.int .i64 n) = w4 at *
      with_reducible refine (hK.out _).mono ?_
      rintro e w5 ⟨rfl, hb⟩
      have HX5 := Lib.hid (hXs.out.go' hb)
      have HB5 := Lib.hid (hBs.out.trans (hb.mono hBs.out.size))
      clear hb hXs hBs hK
      have c0 := HX5.out.cell 0
      have c1 := HX5.out.cell 1
      have c2 := HX5.out.cell 2
      have c3 := HX5.out.cell 3
      have c4 := HX5.out.cell 4
      simp only [List.getElem?_toArray, List.getElem?_cons_zero, List.getElem?_cons_succ] at c0 c1 c2 c3 c4
      have hl := HX5.out.lt
      have hN := Lib.hid (pnew_no ⟨n, 1048576, 1048576, 1048576, 1048576⟩ hC w5)
      unfold lmA at hN
      dsimp only at hN
      go_wp2_with fail
      with_reducible refine (hN.out).mono ?_
      rintro e w6 ⟨rfl, hb⟩
      have HB6 := Lib.hid (HB5.out.trans (hb.mono HB5.out.size))
      clear hb HX5 HB5 hN c0 c1 c2 c3 c4 hl
      go_wp2_with fail
      with_reducible refine (hAw.out _).mono ?_
      rintro e w7 ⟨rfl, hb⟩
      have HB7 := Lib.hid (HB6.out.trans (hb.mono HB6.out.size))
      clear hb
      go_wp2_with fail
      go_ret
      exact ⟨rfl, HB7.out⟩
  · have hC : chk ⟨1048576, n, 1048576, 1048576, 1048576⟩ = x := by rw [← hx]; show (inL 1048576 && inL n && inL 1048576 && inL 1048576 && inL 1048576) = inL n; rw [show inL 1048576 = true from rfl]; cases inL n <;> rfl
    have hXs := Lib.hid ((hX.out.set 1 (.int .i64 n)).cong (b := #[.int .i64 1048576, .int .i64 n, .int .i64 1048576, .int .i64 1048576, .int .i64 1048576]) rfl)
    have hBs := Lib.hid (hB.out.setCell (p := ⟨y, 1, none⟩) hlo.out (.int .i64 n))
    rcases hcase with ⟨rfl, h1⟩ | ⟨rfl, h1, h2⟩ | ⟨rfl, h1, h2⟩
    · have hK := Lib.hid (fun W => pcheck_any ⟨1048576, n, 1048576, 1048576, 1048576⟩ W)
      rw [hC] at hK
      unfold lmA at hK
      dsimp only at hK
      go_wp2_with fail
      clear c0 c1 c2 c3 c4 f0 f1 f2 f3 f4 hl hX hB
      generalize w2.setCell ⟨y, 1, none⟩ (.int .i64 n) = w4 at *
      with_reducible refine (hK.out _).mono ?_
      rintro e w5 ⟨rfl, hb⟩
      have HX5 := Lib.hid (hXs.out.go' hb)
      have HB5 := Lib.hid (hBs.out.trans (hb.mono hBs.out.size))
      clear hb hXs hBs hK
      have c0 := HX5.out.cell 0
      have c1 := HX5.out.cell 1
      have c2 := HX5.out.cell 2
      have c3 := HX5.out.cell 3
      have c4 := HX5.out.cell 4
      simp only [List.getElem?_toArray, List.getElem?_cons_zero, List.getElem?_cons_succ] at c0 c1 c2 c3 c4
      have hl := HX5.out.lt
      have hN := Lib.hid (pnew_no ⟨1048576, n, 1048576, 1048576, 1048576⟩ hC w5)
      unfold lmA at hN
      dsimp only at hN
      go_wp2_with fail
      with_reducible refine (hN.out).mono ?_
      rintro e w6 ⟨rfl, hb⟩
      have HB6 := Lib.hid (HB5.out.trans (hb.mono HB5.out.size))
      clear hb HX5 HB5 hN c0 c1 c2 c3 c4 hl
      go_wp2_with fail
      with_reducible refine (hAw.out _).mono ?_
      rintro e w7 ⟨rfl, hb⟩
      have HB7 := Lib.hid (HB6.out.trans (hb.mono HB6.out.size))
      clear hb
      go_wp2_with fail
      go_ret
      exact ⟨rfl, HB7.out⟩
    · have hK := Lib.hid (fun W => pcheck_any ⟨1048576, n, 1048576, 1048576, 1048576⟩ W)
      rw [hC] at hK
      unfold lmA at hK
      dsimp only at hK
      go_wp2_with fail
      clear c0 c1 c2 c3 c4 f0 f1 f2 f3 f4 hl hX hB
      generalize w2.setCell ⟨y, 1, none⟩ (.int .i64 n) = w4 at *
      with_reducible refine (hK.out _).mono ?_
      rintro e w5 ⟨rfl, hb⟩
      have HX5 := Lib.hid (hXs.out.go' hb)
      have HB5 := Lib.hid (hBs.out.trans (hb.mono hBs.out.size))
      clear hb hXs hBs hK
      have c0 := HX5.out.cell 0
      have c1 := HX5.out.cell 1
      have c2 := HX5.out.cell 2
      have c3 := HX5.out.cell 3
      have c4 := HX5.out.cell 4
      simp only [List.getElem?_toArray, List.getElem?_cons_zero, List.getElem?_cons_succ] at c0 c1 c2 c3 c4
      have hl := HX5.out.lt
      have hN : Hid (Calls Try.prog 6 #[.agg (lmA ⟨1048576, n, 1048576, 1048576, 1048576⟩)] w5 fun e W' => ∃ g, e = .returned (.pointer (some ⟨g, 0, none⟩)) ∧ Below w5.heap.size w5 W') := Lib.hid ((pnew_yes ⟨1048576, n, 1048576, 1048576, 1048576⟩ hC w5).mono fun e W' ⟨g, h1, _, _, h4⟩ => ⟨g, h1, h4⟩)
      unfold lmA at hN
      dsimp only at hN
      go_wp2_with fail
      with_reducible refine (hN.out).mono ?_
      rintro e w6 ⟨g, rfl, hb⟩
      have HB6 := Lib.hid (HB5.out.trans (hb.mono HB5.out.size))
      clear hb HX5 HB5 hN c0 c1 c2 c3 c4 hl
      go_wp2_with fail
      with_reducible refine (hAw.out _).mono ?_
      rintro e w7 ⟨rfl, hb⟩
      have HB7 := Lib.hid (HB6.out.trans (hb.mono HB6.out.size))
      clear hb
      go_wp2_with fail
      go_ret
      exact ⟨rfl, HB7.out⟩
    · have hd : decide (n ≤ 1048576) = false := decide_eq_false (by omega)
      have hK := Lib.hid (fun W => pcheck_any ⟨1048576, n, 1048576, 1048576, 1048576⟩ W)
      rw [hC] at hK
      unfold lmA at hK
      dsimp only at hK
      go_wp2_with fail
      clear c0 c1 c2 c3 c4 f0 f1 f2 f3 f4 hl hX hB
      generalize w2.setCell ⟨y, 1, none⟩ (.int .i64 n) = w4 at *
      with_reducible refine (hK.out _).mono ?_
      rintro e w5 ⟨rfl, hb⟩
      have HX5 := Lib.hid (hXs.out.go' hb)
      have HB5 := Lib.hid (hBs.out.trans (hb.mono hBs.out.size))
      clear hb hXs hBs hK
      have c0 := HX5.out.cell 0
      have c1 := HX5.out.cell 1
      have c2 := HX5.out.cell 2
      have c3 := HX5.out.cell 3
      have c4 := HX5.out.cell 4
      simp only [List.getElem?_toArray, List.getElem?_cons_zero, List.getElem?_cons_succ] at c0 c1 c2 c3 c4
      have hl := HX5.out.lt
      have hN := Lib.hid (pnew_no ⟨1048576, n, 1048576, 1048576, 1048576⟩ hC w5)
      unfold lmA at hN
      dsimp only at hN
      go_wp2_with fail
      with_reducible refine (hN.out).mono ?_
      rintro e w6 ⟨rfl, hb⟩
      have HB6 := Lib.hid (HB5.out.trans (hb.mono HB5.out.size))
      clear hb HX5 HB5 hN c0 c1 c2 c3 c4 hl
      go_wp2_with fail
      with_reducible refine (hAw.out _).mono ?_
      rintro e w7 ⟨rfl, hb⟩
      have HB7 := Lib.hid (HB6.out.trans (hb.mono HB6.out.size))
      clear hb
      go_wp2_with fail
      go_ret
      exact ⟨rfl, HB7.out⟩
  · have hC : chk ⟨1048576, 1048576, n, 1048576, 1048576⟩ = x := by rw [← hx]; show (inL 1048576 && inL 1048576 && inL n && inL 1048576 && inL 1048576) = inL n; rw [show inL 1048576 = true from rfl]; cases inL n <;> rfl
    have hXs := Lib.hid ((hX.out.set 2 (.int .i64 n)).cong (b := #[.int .i64 1048576, .int .i64 1048576, .int .i64 n, .int .i64 1048576, .int .i64 1048576]) rfl)
    have hBs := Lib.hid (hB.out.setCell (p := ⟨y, 2, none⟩) hlo.out (.int .i64 n))
    rcases hcase with ⟨rfl, h1⟩ | ⟨rfl, h1, h2⟩ | ⟨rfl, h1, h2⟩
    · have hK := Lib.hid (fun W => pcheck_any ⟨1048576, 1048576, n, 1048576, 1048576⟩ W)
      rw [hC] at hK
      unfold lmA at hK
      dsimp only at hK
      go_wp2_with fail
      clear c0 c1 c2 c3 c4 f0 f1 f2 f3 f4 hl hX hB
      generalize w2.setCell ⟨y, 2, none⟩ (.int .i64 n) = w4 at *
      with_reducible refine (hK.out _).mono ?_
      rintro e w5 ⟨rfl, hb⟩
      have HX5 := Lib.hid (hXs.out.go' hb)
      have HB5 := Lib.hid (hBs.out.trans (hb.mono hBs.out.size))
      clear hb hXs hBs hK
      have c0 := HX5.out.cell 0
      have c1 := HX5.out.cell 1
      have c2 := HX5.out.cell 2
      have c3 := HX5.out.cell 3
      have c4 := HX5.out.cell 4
      simp only [List.getElem?_toArray, List.getElem?_cons_zero, List.getElem?_cons_succ] at c0 c1 c2 c3 c4
      have hl := HX5.out.lt
      have hN := Lib.hid (pnew_no ⟨1048576, 1048576, n, 1048576, 1048576⟩ hC w5)
      unfold lmA at hN
      dsimp only at hN
      go_wp2_with fail
      with_reducible refine (hN.out).mono ?_
      rintro e w6 ⟨rfl, hb⟩
      have HB6 := Lib.hid (HB5.out.trans (hb.mono HB5.out.size))
      clear hb HX5 HB5 hN c0 c1 c2 c3 c4 hl
      go_wp2_with fail
      with_reducible refine (hAw.out _).mono ?_
      rintro e w7 ⟨rfl, hb⟩
      have HB7 := Lib.hid (HB6.out.trans (hb.mono HB6.out.size))
      clear hb
      go_wp2_with fail
      go_ret
      exact ⟨rfl, HB7.out⟩
    · have hK := Lib.hid (fun W => pcheck_any ⟨1048576, 1048576, n, 1048576, 1048576⟩ W)
      rw [hC] at hK
      unfold lmA at hK
      dsimp only at hK
      go_wp2_with fail
      clear c0 c1 c2 c3 c4 f0 f1 f2 f3 f4 hl hX hB
      generalize w2.setCell ⟨y, 2, none⟩ (.int .i64 n) = w4 at *
      with_reducible refine (hK.out _).mono ?_
      rintro e w5 ⟨rfl, hb⟩
      have HX5 := Lib.hid (hXs.out.go' hb)
      have HB5 := Lib.hid (hBs.out.trans (hb.mono hBs.out.size))
      clear hb hXs hBs hK
      have c0 := HX5.out.cell 0
      have c1 := HX5.out.cell 1
      have c2 := HX5.out.cell 2
      have c3 := HX5.out.cell 3
      have c4 := HX5.out.cell 4
      simp only [List.getElem?_toArray, List.getElem?_cons_zero, List.getElem?_cons_succ] at c0 c1 c2 c3 c4
      have hl := HX5.out.lt
      have hN : Hid (Calls Try.prog 6 #[.agg (lmA ⟨1048576, 1048576, n, 1048576, 1048576⟩)] w5 fun e W' => ∃ g, e = .returned (.pointer (some ⟨g, 0, none⟩)) ∧ Below w5.heap.size w5 W') := Lib.hid ((pnew_yes ⟨1048576, 1048576, n, 1048576, 1048576⟩ hC w5).mono fun e W' ⟨g, h1, _, _, h4⟩ => ⟨g, h1, h4⟩)
      unfold lmA at hN
      dsimp only at hN
      go_wp2_with fail
      with_reducible refine (hN.out).mono ?_
      rintro e w6 ⟨g, rfl, hb⟩
      have HB6 := Lib.hid (HB5.out.trans (hb.mono HB5.out.size))
      clear hb HX5 HB5 hN c0 c1 c2 c3 c4 hl
      go_wp2_with fail
      with_reducible refine (hAw.out _).mono ?_
      rintro e w7 ⟨rfl, hb⟩
      have HB7 := Lib.hid (HB6.out.trans (hb.mono HB6.out.size))
      clear hb
      go_wp2_with fail
      go_ret
      exact ⟨rfl, HB7.out⟩
    · have hd : decide (n ≤ 1048576) = false := decide_eq_false (by omega)
      have hK := Lib.hid (fun W => pcheck_any ⟨1048576, 1048576, n, 1048576, 1048576⟩ W)
      rw [hC] at hK
      unfold lmA at hK
      dsimp only at hK
      go_wp2_with fail
      clear c0 c1 c2 c3 c4 f0 f1 f2 f3 f4 hl hX hB
      generalize w2.setCell ⟨y, 2, none⟩ (.int .i64 n) = w4 at *
      with_reducible refine (hK.out _).mono ?_
      rintro e w5 ⟨rfl, hb⟩
      have HX5 := Lib.hid (hXs.out.go' hb)
      have HB5 := Lib.hid (hBs.out.trans (hb.mono hBs.out.size))
      clear hb hXs hBs hK
      have c0 := HX5.out.cell 0
      have c1 := HX5.out.cell 1
      have c2 := HX5.out.cell 2
      have c3 := HX5.out.cell 3
      have c4 := HX5.out.cell 4
      simp only [List.getElem?_toArray, List.getElem?_cons_zero, List.getElem?_cons_succ] at c0 c1 c2 c3 c4
      have hl := HX5.out.lt
      have hN := Lib.hid (pnew_no ⟨1048576, 1048576, n, 1048576, 1048576⟩ hC w5)
      unfold lmA at hN
      dsimp only at hN
      go_wp2_with fail
      with_reducible refine (hN.out).mono ?_
      rintro e w6 ⟨rfl, hb⟩
      have HB6 := Lib.hid (HB5.out.trans (hb.mono HB5.out.size))
      clear hb HX5 HB5 hN c0 c1 c2 c3 c4 hl
      go_wp2_with fail
      with_reducible refine (hAw.out _).mono ?_
      rintro e w7 ⟨rfl, hb⟩
      have HB7 := Lib.hid (HB6.out.trans (hb.mono HB6.out.size))
      clear hb
      go_wp2_with fail
      go_ret
      exact ⟨rfl, HB7.out⟩
  · have hC : chk ⟨1048576, 1048576, 1048576, n, 1048576⟩ = x := by rw [← hx]; show (inL 1048576 && inL 1048576 && inL 1048576 && inL n && inL 1048576) = inL n; rw [show inL 1048576 = true from rfl]; cases inL n <;> rfl
    have hXs := Lib.hid ((hX.out.set 3 (.int .i64 n)).cong (b := #[.int .i64 1048576, .int .i64 1048576, .int .i64 1048576, .int .i64 n, .int .i64 1048576]) rfl)
    have hBs := Lib.hid (hB.out.setCell (p := ⟨y, 3, none⟩) hlo.out (.int .i64 n))
    rcases hcase with ⟨rfl, h1⟩ | ⟨rfl, h1, h2⟩ | ⟨rfl, h1, h2⟩
    · have hK := Lib.hid (fun W => pcheck_any ⟨1048576, 1048576, 1048576, n, 1048576⟩ W)
      rw [hC] at hK
      unfold lmA at hK
      dsimp only at hK
      go_wp2_with fail
      clear c0 c1 c2 c3 c4 f0 f1 f2 f3 f4 hl hX hB
      generalize w2.setCell ⟨y, 3, none⟩ (.int .i64 n) = w4 at *
      with_reducible refine (hK.out _).mono ?_
      rintro e w5 ⟨rfl, hb⟩
      have HX5 := Lib.hid (hXs.out.go' hb)
      have HB5 := Lib.hid (hBs.out.trans (hb.mono hBs.out.size))
      clear hb hXs hBs hK
      have c0 := HX5.out.cell 0
      have c1 := HX5.out.cell 1
      have c2 := HX5.out.cell 2
      have c3 := HX5.out.cell 3
      have c4 := HX5.out.cell 4
      simp only [List.getElem?_toArray, List.getElem?_cons_zero, List.getElem?_cons_succ] at c0 c1 c2 c3 c4
      have hl := HX5.out.lt
      have hN := Lib.hid (pnew_no ⟨1048576, 1048576, 1048576, n, 1048576⟩ hC w5)
      unfold lmA at hN
      dsimp only at hN
      go_wp2_with fail
      with_reducible refine (hN.out).mono ?_
      rintro e w6 ⟨rfl, hb⟩
      have HB6 := Lib.hid (HB5.out.trans (hb.mono HB5.out.size))
      clear hb HX5 HB5 hN c0 c1 c2 c3 c4 hl
      go_wp2_with fail
      with_reducible refine (hAw.out _).mono ?_
      rintro e w7 ⟨rfl, hb⟩
      have HB7 := Lib.hid (HB6.out.trans (hb.mono HB6.out.size))
      clear hb
      go_wp2_with fail
      go_ret
      exact ⟨rfl, HB7.out⟩
    · have hK := Lib.hid (fun W => pcheck_any ⟨1048576, 1048576, 1048576, n, 1048576⟩ W)
      rw [hC] at hK
      unfold lmA at hK
      dsimp only at hK
      go_wp2_with fail
      clear c0 c1 c2 c3 c4 f0 f1 f2 f3 f4 hl hX hB
      generalize w2.setCell ⟨y, 3, none⟩ (.int .i64 n) = w4 at *
      with_reducible refine (hK.out _).mono ?_
      rintro e w5 ⟨rfl, hb⟩
      have HX5 := Lib.hid (hXs.out.go' hb)
      have HB5 := Lib.hid (hBs.out.trans (hb.mono hBs.out.size))
      clear hb hXs hBs hK
      have c0 := HX5.out.cell 0
      have c1 := HX5.out.cell 1
      have c2 := HX5.out.cell 2
      have c3 := HX5.out.cell 3
      have c4 := HX5.out.cell 4
      simp only [List.getElem?_toArray, List.getElem?_cons_zero, List.getElem?_cons_succ] at c0 c1 c2 c3 c4
      have hl := HX5.out.lt
      have hN : Hid (Calls Try.prog 6 #[.agg (lmA ⟨1048576, 1048576, 1048576, n, 1048576⟩)] w5 fun e W' => ∃ g, e = .returned (.pointer (some ⟨g, 0, none⟩)) ∧ Below w5.heap.size w5 W') := Lib.hid ((pnew_yes ⟨1048576, 1048576, 1048576, n, 1048576⟩ hC w5).mono fun e W' ⟨g, h1, _, _, h4⟩ => ⟨g, h1, h4⟩)
      unfold lmA at hN
      dsimp only at hN
      go_wp2_with fail
      with_reducible refine (hN.out).mono ?_
      rintro e w6 ⟨g, rfl, hb⟩
      have HB6 := Lib.hid (HB5.out.trans (hb.mono HB5.out.size))
      clear hb HX5 HB5 hN c0 c1 c2 c3 c4 hl
      go_wp2_with fail
      with_reducible refine (hAw.out _).mono ?_
      rintro e w7 ⟨rfl, hb⟩
      have HB7 := Lib.hid (HB6.out.trans (hb.mono HB6.out.size))
      clear hb
      go_wp2_with fail
      go_ret
      exact ⟨rfl, HB7.out⟩
    · have hd : decide (n ≤ 1048576) = false := decide_eq_false (by omega)
      have hK := Lib.hid (fun W => pcheck_any ⟨1048576, 1048576, 1048576, n, 1048576⟩ W)
      rw [hC] at hK
      unfold lmA at hK
      dsimp only at hK
      go_wp2_with fail
      clear c0 c1 c2 c3 c4 f0 f1 f2 f3 f4 hl hX hB
      generalize w2.setCell ⟨y, 3, none⟩ (.int .i64 n) = w4 at *
      with_reducible refine (hK.out _).mono ?_
      rintro e w5 ⟨rfl, hb⟩
      have HX5 := Lib.hid (hXs.out.go' hb)
      have HB5 := Lib.hid (hBs.out.trans (hb.mono hBs.out.size))
      clear hb hXs hBs hK
      have c0 := HX5.out.cell 0
      have c1 := HX5.out.cell 1
      have c2 := HX5.out.cell 2
      have c3 := HX5.out.cell 3
      have c4 := HX5.out.cell 4
      simp only [List.getElem?_toArray, List.getElem?_cons_zero, List.getElem?_cons_succ] at c0 c1 c2 c3 c4
      have hl := HX5.out.lt
      have hN := Lib.hid (pnew_no ⟨1048576, 1048576, 1048576, n, 1048576⟩ hC w5)
      unfold lmA at hN
      dsimp only at hN
      go_wp2_with fail
      with_reducible refine (hN.out).mono ?_
      rintro e w6 ⟨rfl, hb⟩
      have HB6 := Lib.hid (HB5.out.trans (hb.mono HB5.out.size))
      clear hb HX5 HB5 hN c0 c1 c2 c3 c4 hl
      go_wp2_with fail
      with_reducible refine (hAw.out _).mono ?_
      rintro e w7 ⟨rfl, hb⟩
      have HB7 := Lib.hid (HB6.out.trans (hb.mono HB6.out.size))
      clear hb
      go_wp2_with fail
      go_ret
      exact ⟨rfl, HB7.out⟩
  · have hC : chk ⟨1048576, 1048576, 1048576, 1048576, n⟩ = x := by rw [← hx]; show (inL 1048576 && inL 1048576 && inL 1048576 && inL 1048576 && inL n) = inL n; rw [show inL 1048576 = true from rfl]; cases inL n <;> rfl
    have hXs := Lib.hid ((hX.out.set 4 (.int .i64 n)).cong (b := #[.int .i64 1048576, .int .i64 1048576, .int .i64 1048576, .int .i64 1048576, .int .i64 n]) rfl)
    have hBs := Lib.hid (hB.out.setCell (p := ⟨y, 4, none⟩) hlo.out (.int .i64 n))
    rcases hcase with ⟨rfl, h1⟩ | ⟨rfl, h1, h2⟩ | ⟨rfl, h1, h2⟩
    · have hK := Lib.hid (fun W => pcheck_any ⟨1048576, 1048576, 1048576, 1048576, n⟩ W)
      rw [hC] at hK
      unfold lmA at hK
      dsimp only at hK
      go_wp2_with fail
      clear c0 c1 c2 c3 c4 f0 f1 f2 f3 f4 hl hX hB
      generalize w2.setCell ⟨y, 4, none⟩ (.int .i64 n) = w4 at *
      with_reducible refine (hK.out _).mono ?_
      rintro e w5 ⟨rfl, hb⟩
      have HX5 := Lib.hid (hXs.out.go' hb)
      have HB5 := Lib.hid (hBs.out.trans (hb.mono hBs.out.size))
      clear hb hXs hBs hK
      have c0 := HX5.out.cell 0
      have c1 := HX5.out.cell 1
      have c2 := HX5.out.cell 2
      have c3 := HX5.out.cell 3
      have c4 := HX5.out.cell 4
      simp only [List.getElem?_toArray, List.getElem?_cons_zero, List.getElem?_cons_succ] at c0 c1 c2 c3 c4
      have hl := HX5.out.lt
      have hN := Lib.hid (pnew_no ⟨1048576, 1048576, 1048576, 1048576, n⟩ hC w5)
      unfold lmA at hN
      dsimp only at hN
      go_wp2_with fail
      with_reducible refine (hN.out).mono ?_
      rintro e w6 ⟨rfl, hb⟩
      have HB6 := Lib.hid (HB5.out.trans (hb.mono HB5.out.size))
      clear hb HX5 HB5 hN c0 c1 c2 c3 c4 hl
      go_wp2_with fail
      with_reducible refine (hAw.out _).mono ?_
      rintro e w7 ⟨rfl, hb⟩
      have HB7 := Lib.hid (HB6.out.trans (hb.mono HB6.out.size))
      clear hb
      go_wp2_with fail
      go_ret
      exact ⟨rfl, HB7.out⟩
    · have hK := Lib.hid (fun W => pcheck_any ⟨1048576, 1048576, 1048576, 1048576, n⟩ W)
      rw [hC] at hK
      unfold lmA at hK
      dsimp only at hK
      go_wp2_with fail
      clear c0 c1 c2 c3 c4 f0 f1 f2 f3 f4 hl hX hB
      generalize w2.setCell ⟨y, 4, none⟩ (.int .i64 n) = w4 at *
      with_reducible refine (hK.out _).mono ?_
      rintro e w5 ⟨rfl, hb⟩
      have HX5 := Lib.hid (hXs.out.go' hb)
      have HB5 := Lib.hid (hBs.out.trans (hb.mono hBs.out.size))
      clear hb hXs hBs hK
      have c0 := HX5.out.cell 0
      have c1 := HX5.out.cell 1
      have c2 := HX5.out.cell 2
      have c3 := HX5.out.cell 3
      have c4 := HX5.out.cell 4
      simp only [List.getElem?_toArray, List.getElem?_cons_zero, List.getElem?_cons_succ] at c0 c1 c2 c3 c4
      have hl := HX5.out.lt
      have hN : Hid (Calls Try.prog 6 #[.agg (lmA ⟨1048576, 1048576, 1048576, 1048576, n⟩)] w5 fun e W' => ∃ g, e = .returned (.pointer (some ⟨g, 0, none⟩)) ∧ Below w5.heap.size w5 W') := Lib.hid ((pnew_yes ⟨1048576, 1048576, 1048576, 1048576, n⟩ hC w5).mono fun e W' ⟨g, h1, _, _, h4⟩ => ⟨g, h1, h4⟩)
      unfold lmA at hN
      dsimp only at hN
      go_wp2_with fail
      with_reducible refine (hN.out).mono ?_
      rintro e w6 ⟨g, rfl, hb⟩
      have HB6 := Lib.hid (HB5.out.trans (hb.mono HB5.out.size))
      clear hb HX5 HB5 hN c0 c1 c2 c3 c4 hl
      go_wp2_with fail
      with_reducible refine (hAw.out _).mono ?_
      rintro e w7 ⟨rfl, hb⟩
      have HB7 := Lib.hid (HB6.out.trans (hb.mono HB6.out.size))
      clear hb
      go_wp2_with fail
      go_ret
      exact ⟨rfl, HB7.out⟩
    · have hd : decide (n ≤ 1048576) = false := decide_eq_false (by omega)
      have hK := Lib.hid (fun W => pcheck_any ⟨1048576, 1048576, 1048576, 1048576, n⟩ W)
      rw [hC] at hK
      unfold lmA at hK
      dsimp only at hK
      go_wp2_with fail
      clear c0 c1 c2 c3 c4 f0 f1 f2 f3 f4 hl hX hB
      generalize w2.setCell ⟨y, 4, none⟩ (.int .i64 n) = w4 at *
      with_reducible refine (hK.out _).mono ?_
      rintro e w5 ⟨rfl, hb⟩
      have HX5 := Lib.hid (hXs.out.go' hb)
      have HB5 := Lib.hid (hBs.out.trans (hb.mono hBs.out.size))
      clear hb hXs hBs hK
      have c0 := HX5.out.cell 0
      have c1 := HX5.out.cell 1
      have c2 := HX5.out.cell 2
      have c3 := HX5.out.cell 3
      have c4 := HX5.out.cell 4
      simp only [List.getElem?_toArray, List.getElem?_cons_zero, List.getElem?_cons_succ] at c0 c1 c2 c3 c4
      have hl := HX5.out.lt
      have hN := Lib.hid (pnew_no ⟨1048576, 1048576, 1048576, 1048576, n⟩ hC w5)
      unfold lmA at hN
      dsimp only at hN
      go_wp2_with fail
      with_reducible refine (hN.out).mono ?_
      rintro e w6 ⟨rfl, hb⟩
      have HB6 := Lib.hid (HB5.out.trans (hb.mono HB5.out.size))
      clear hb HX5 HB5 hN c0 c1 c2 c3 c4 hl
      go_wp2_with fail
      with_reducible refine (hAw.out _).mono ?_
      rintro e w7 ⟨rfl, hb⟩
      have HB7 := Lib.hid (HB6.out.trans (hb.mono HB6.out.size))
      clear hb
      go_wp2_with fail
      go_ret
      exact ⟨rfl, HB7.out⟩
end Go.Proofs.Ythiakokjijfgoaa
