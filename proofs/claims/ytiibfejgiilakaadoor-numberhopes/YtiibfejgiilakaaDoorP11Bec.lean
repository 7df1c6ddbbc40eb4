/- Printed by gen_p11bec.py. The program's mayBecome by its contract. -/
import Derived.Test.YtiibfejgiilakaaDoorP11May
namespace Go.Proofs.YtiibfejgiilakaaDoor
set_option maxRecDepth 100000
open Go.ChangeShapes Go.WideShapes Go.ChangeAt Go.RowKit
set_option linter.unusedVariables false
set_option linter.unusedSimpArgs false

set_option maxHeartbeats 4000000 in
theorem may_any (r : Rg) (w : World) (hd : allD r.d) (hs : r.d.length ≤ 1000000) (hz : r.z ≤ 1000000) (hb : r.b ≤ 1000000) (hw : r.w ≤ 1000000000) : Calls Tryd.prog 20 #[rgV r] w fun e w' => e = .returned (.bool (mayR r)) ∧ Below w.heap.size w w' := by
  have HR : Hid (mayR r = _) := Lib.hid (mayR.eq_1 r)
  have HRM := Lib.hid (fun W => room_any r.d W hd hs)
  have hrl := room_le r.d
  generalize mayR r = res at *
  obtain ⟨p, n, d, z, b, m, k⟩ := r
  unfold loF hiF at HR
  unfold rgV
  dsimp only at *
  generalize roomF d = q at *
  have hq1 : q ≤ 16 := hrl.1
  have hq0 : -1000000 ≤ q := by have := hrl.2; omega
  clear hrl hd
  have HNIL := nil_s (bs d)
  rw [L8_bs] at HNIL
  have HX0 : Hid (RgBlk (w.alloc (.cells #[.int .i64 (p : Int), .bool n, .string (bs d), .int .i64 (z : Int), .int .i64 (b : Int), .bool m, .int .i64 (k : Int)] 44)) w.heap.size p n (bs d) z b m k) := Lib.hid (Blk.new w _ _)
  have HB0 : Hid (Below w.heap.size w (w.alloc (.cells #[.int .i64 (p : Int), .bool n, .string (bs d), .int .i64 (z : Int), .int .i64 (b : Int), .bool m, .int .i64 (k : Int)] 44))) := Lib.hid ((Below.refl _ _).alloc (Nat.le_refl _) _)
  have hsz : (bs d).size ≤ 1000000 := by rw [bs_size]; exact hs
  generalize bs d = s at *
  rcases HNIL with ⟨h0, h1, h2⟩ | ⟨h0, h1, h2⟩
  · have hrr : res = true := by rw [HR.out, if_pos h0]
    subst hrr
    clear HR h0
    go_enter Tryd.func20, Tryd.ntmps20
    go_wp2
    go_ret
    exact ⟨rfl, HB0.out⟩
  rw [if_neg h0] at HR
  clear h0
  go_enter Tryd.func20, Tryd.ntmps20
  go_wp2_with fail
  with_reducible refine (HRM.out _).mono ?_
  rintro e1 w1 ⟨rfl, hbb⟩
  have HX1 := Lib.hid (HX0.out.below hbb HX0.out.lt)
  have HB1 := Lib.hid (HB0.out.trans (hbb.mono HB0.out.size))
  clear hbb HX0 HB0 HRM
  have c0 : w1.cell? ⟨w.heap.size, 0, none⟩ = some (.int .i64 (p : Int)) := HX1.out.cell 0
  have c3 : w1.cell? ⟨w.heap.size, 3, none⟩ = some (.int .i64 (z : Int)) := HX1.out.cell 3
  have c4 : w1.cell? ⟨w.heap.size, 4, none⟩ = some (.int .i64 (b : Int)) := HX1.out.cell 4
  have c5 : w1.cell? ⟨w.heap.size, 5, none⟩ = some (.bool m) := HX1.out.cell 5
  have c6 : w1.cell? ⟨w.heap.size, 6, none⟩ = some (.int .i64 (k : Int)) := HX1.out.cell 6
  have hne : w.heap.size < w1.heap.size := HX1.out.lt
  by_cases hq : q < 0
  · have hrr : res = false := by rw [HR.out, if_pos hq]
    subst hrr
    clear HR
    go_wp2
    go_ret
    exact ⟨rfl, HB1.out⟩
  rw [if_neg hq] at HR
  have u1 : IntKind.i64.wrap ((b : Int) - z) = (b : Int) - z := IntWalk.i64_in _ (by omega)
  have u2 : IntKind.i64.wrap ((b : Int) - z + q) = (b : Int) - z + q := IntWalk.i64_in _ (by omega)
  have u3 : IntKind.i64.wrap (-((b : Int) - z)) = -((b : Int) - z) := IntWalk.i64_in _ (by omega)
  have u4 : IntKind.i64.wrap (-((b : Int) - z + q)) = -((b : Int) - z + q) := IntWalk.i64_in _ (by omega)
  obtain ⟨l, hl⟩ : ∃ l : Int, (b : Int) - z = l := ⟨_, rfl⟩
  rw [hl] at HR u1 u2 u3 u4
  obtain ⟨l2, hl2⟩ : ∃ l2 : Int, l + q = l2 := ⟨_, rfl⟩
  rw [hl2] at HR u2 u4
  have ql0 : -1000000 ≤ l := by omega
  have ql1 : l ≤ 1000000 := by omega
  have qm0 : -3000000 ≤ l2 := by omega
  have qm1 : l2 ≤ 3000000 := by omega
  obtain ⟨l3, hl3⟩ : ∃ l3 : Int, -l = l3 := ⟨_, rfl⟩
  obtain ⟨l4, hl4⟩ : ∃ l4 : Int, -l2 = l4 := ⟨_, rfl⟩
  rw [hl3] at HR u3
  rw [hl4] at HR u4
  have qn0 : -3000000 ≤ l4 ∧ l4 ≤ 3000000 ∧ -3000000 ≤ l3 ∧ l3 ≤ 3000000 := by omega
  cases m with
  | true =>
    rw [if_pos rfl, if_pos rfl] at HR
    by_cases h7 : p = 7
    · subst h7
      rw [if_pos rfl] at HR
      have HM := Lib.hid (fun W => meets_any l4 l3 0 1000000000 W)
      rw [← HR.out] at HM
      clear HR
      go_wp2_with fail
      with_reducible refine (HM.out _).mono ?_
      rintro e1 w2 ⟨rfl, hb2⟩
      go_wp2
      go_ret
      exact ⟨rfl, (HB1.out.alloc HB1.out.size _).trans (hb2.mono (by rw [World.size_alloc]; omega))⟩
    · rw [if_neg h7] at HR
      have h7b : ((p : Int) == 7) = false := by rw [beq_eq_false_iff_ne]; omega
      by_cases h8 : p = 8
      · subst h8
        rw [if_pos rfl] at HR
        have HM := Lib.hid (fun W => reached_any k l4 l3 W hw (by omega) (by omega) (by omega) (by omega))
        rw [← HR.out] at HM
        clear HR
        go_wp2_with fail
        with_reducible refine (HM.out _).mono ?_
        rintro e1 w2 ⟨rfl, hb2⟩
        go_wp2
        go_ret
        exact ⟨rfl, (HB1.out.alloc HB1.out.size _).trans (hb2.mono (by rw [World.size_alloc]; omega))⟩
      · rw [if_neg h8] at HR
        have h8b : ((p : Int) == 8) = false := by rw [beq_eq_false_iff_ne]; omega
        have HM := Lib.hid (fun W => meets_any l4 l3 (-1000000000) 1000000000 W)
        rw [← HR.out] at HM
        clear HR
        go_wp2_with fail
        with_reducible refine (HM.out _).mono ?_
        rintro e1 w2 ⟨rfl, hb2⟩
        go_wp2
        go_ret
        exact ⟨rfl, (HB1.out.alloc HB1.out.size _).trans (hb2.mono (by rw [World.size_alloc]; omega))⟩
  | false =>
    rw [if_neg Bool.false_ne_true, if_neg Bool.false_ne_true] at HR
    by_cases h7 : p = 7
    · subst h7
      rw [if_pos rfl] at HR
      have HM := Lib.hid (fun W => meets_any l l2 0 1000000000 W)
      rw [← HR.out] at HM
      clear HR
      go_wp2_with fail
      with_reducible refine (HM.out _).mono ?_
      rintro e1 w2 ⟨rfl, hb2⟩
      go_wp2
      go_ret
      exact ⟨rfl, (HB1.out.alloc HB1.out.size _).trans (hb2.mono (by rw [World.size_alloc]; omega))⟩
    · rw [if_neg h7] at HR
      have h7b : ((p : Int) == 7) = false := by rw [beq_eq_false_iff_ne]; omega
      by_cases h8 : p = 8
      · subst h8
        rw [if_pos rfl] at HR
        have HM := Lib.hid (fun W => reached_any k l l2 W hw (by omega) (by omega) (by omega) (by omega))
        rw [← HR.out] at HM
        clear HR
        go_wp2_with fail
        with_reducible refine (HM.out _).mono ?_
        rintro e1 w2 ⟨rfl, hb2⟩
        go_wp2
        go_ret
        exact ⟨rfl, (HB1.out.alloc HB1.out.size _).trans (hb2.mono (by rw [World.size_alloc]; omega))⟩
      · rw [if_neg h8] at HR
        have h8b : ((p : Int) == 8) = false := by rw [beq_eq_false_iff_ne]; omega
        have HM := Lib.hid (fun W => meets_any l l2 (-1000000000) 1000000000 W)
        rw [← HR.out] at HM
        clear HR
        go_wp2_with fail
        with_reducible refine (HM.out _).mono ?_
        rintro e1 w2 ⟨rfl, hb2⟩
        go_wp2
        go_ret
        exact ⟨rfl, (HB1.out.alloc HB1.out.size _).trans (hb2.mono (by rw [World.size_alloc]; omega))⟩
end Go.Proofs.YtiibfejgiilakaaDoor
