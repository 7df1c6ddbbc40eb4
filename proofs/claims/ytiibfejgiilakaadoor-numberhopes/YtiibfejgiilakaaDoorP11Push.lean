/- Printed by gen_p11push.py. The program's Push by its contract, in the terms of its mirror. -/
import Derived.Test.YtiibfejgiilakaaDoorP11Bec
import Derived.Test.YtiibfejgiilakaaDoorP11Next
import Derived.Test.YtiibfejgiilakaaDoorApp
import Derived.Test.YtiibfejgiilakaaDoorAnyH
namespace Go.Proofs.YtiibfejgiilakaaDoor
set_option maxRecDepth 100000
open Go.ChangeShapes Go.WideShapes Go.ChangeAt Go.RowKit
set_option linter.unusedVariables false
set_option linter.unusedSimpArgs false

/-- a number as it lies in a block of its own: its text's row, its reading -/
abbrev NumBlk (w : World) (g : Nat) (v : Value) (r : Rg) : Prop := Blk w g 46 #[v, .int .i64 (r.p : Int), .bool r.n, .string (bs r.d), .int .i64 (r.z : Int), .int .i64 (r.b : Int), .bool r.m, .int .i64 (r.w : Int)]
abbrev U8s (w : World) (base : Nat) (v : Value) (xs : List Int) : Prop := Own w base 5 .u8 v xs
/-- but for block g, and the row's own block, all that was there is as it was -/
structure NFr (g : Nat) (v : Value) (w w' : World) : Prop where
  os : w'.os = w.os
  tape : w'.tape = w.tape
  output : w'.output = w.output
  size : w.heap.size ≤ w'.heap.size
  block : ∀ k, k < w.heap.size → k ≠ g → v.ownBlock ≠ some k → w'.heap[k]? = w.heap[k]?
theorem NFr.of_below {g : Nat} {v : Value} {w w' : World} (h : Below w.heap.size w w') : NFr g v w w' := ⟨h.os, h.tape, h.output, h.size, fun k hk _ _ => h.block k hk⟩
structure RgOk (r : Rg) : Prop where
  p : r.p ≤ 8
  d : allD r.d
  s : r.d.length ≤ 100000
  z : r.z ≤ 100000
  b : r.b ≤ 100000
  w : r.w ≤ 1000000000
theorem next_le {p q : Nat} {c : UInt8} (h : nextF p c = some q) : 1 ≤ q ∧ q ≤ 8 ∧ (q = 3 ∨ q = 5 ∨ q = 8 → isD c = true) ∧ (q = 2 → c = 48) := by
  unfold nextF at h
  split at h <;> (repeat' split at h) <;> first | (obtain rfl := Option.some.inj h; refine ⟨by omega, by omega, fun _ => ?_, fun _ => ?_⟩ <;> first | assumption | (exfalso; omega)) | cases h
/-- what with makes is within -/
theorem with_ok {r : Rg} {c : UInt8} {q : Nat} (h : RgOk r) (hq : nextF r.p c = some q) (h1 : r.d.length + 100 ≤ 100000) (h2 : r.z + 100 ≤ 100000) (h3 : r.b + 100 ≤ 100000) : RgOk (withR r c q) ∧ (withR r c q).d.length ≤ r.d.length + 17 ∧ (withR r c q).z ≤ r.z + 1 ∧ (withR r c q).b ≤ r.b + 1 := by
  obtain ⟨hq1, hq2, hqd, _⟩ := next_le hq
  have htake : ∀ t : Rg, t.d = r.d → t.z = r.z → isD c = true → allD (takeR t c).d ∧ (takeR t c).d.length ≤ r.d.length + 17 ∧ (takeR t c).z ≤ r.z + 1 ∧ (takeR t c).b = t.b ∧ (takeR t c).p = t.p ∧ (takeR t c).w = t.w := by
    intro t e1 e2 hd
    unfold takeR
    by_cases hc : c = 48
    · rw [if_pos hc]
      by_cases h0 : t.d = []
      · rw [if_pos h0, e2]; refine ⟨by rw [e1]; exact h.d, by rw [e1]; omega, by omega, rfl, rfl, rfl⟩
      · rw [if_neg h0]; dsimp only; rw [e1, e2]; exact ⟨h.d, by omega, by omega, rfl, rfl, rfl⟩
    · rw [if_neg hc]
      dsimp only
      rw [e1]
      refine ⟨fun x hx => ?_, by simp; omega, by omega, rfl, rfl, rfl⟩
      rcases List.mem_append.1 hx with hx | hx
      · exact h.d x hx
      · rcases List.mem_append.1 hx with hx | hx
        · rw [List.eq_of_mem_replicate hx]; rfl
        · rw [List.mem_singleton.1 hx]; exact hd
  have hcs : q = 1 ∨ q = 2 ∨ q = 3 ∨ q = 4 ∨ q = 5 ∨ q = 6 ∨ q = 7 ∨ q = 8 := by omega
  have ho := h
  obtain ⟨o1, o2, o3, o4, o5, o6⟩ := ho
  rcases hcs with rfl | rfl | rfl | rfl | rfl | rfl | rfl | rfl
  · exact ⟨⟨by show 1 ≤ 8; omega, o2, o3, o4, o5, o6⟩, by show r.d.length ≤ _; omega, by show r.z ≤ _; omega, by show r.b ≤ _; omega⟩
  · exact ⟨⟨by show 2 ≤ 8; omega, o2, o3, o4, o5, o6⟩, by show r.d.length ≤ _; omega, by show r.z ≤ _; omega, by show r.b ≤ _; omega⟩
  · obtain ⟨a1, a2, a3, a4, a5, a6⟩ := htake { r with p := 3 } rfl rfl (hqd (.inl rfl))
    have e : withR r c 3 = takeR { r with p := 3 } c := rfl
    rw [e]
    exact ⟨⟨by rw [a5]; show 3 ≤ 8; omega, a1, by omega, by omega, by rw [a4]; exact o5, by rw [a6]; exact o6⟩, a2, a3, by rw [a4]; show r.b ≤ _; omega⟩
  · exact ⟨⟨by show 4 ≤ 8; omega, o2, o3, o4, o5, o6⟩, by show r.d.length ≤ _; omega, by show r.z ≤ _; omega, by show r.b ≤ _; omega⟩
  · obtain ⟨a1, a2, a3, a4, a5, a6⟩ := htake { r with p := 5, b := r.b + 1 } rfl rfl (hqd (.inr (.inl rfl)))
    have e : withR r c 5 = takeR { r with p := 5, b := r.b + 1 } c := rfl
    rw [e]
    exact ⟨⟨by rw [a5]; show 5 ≤ 8; omega, a1, by omega, by omega, by rw [a4]; show r.b + 1 ≤ _; omega, by rw [a6]; exact o6⟩, a2, a3, by rw [a4]; show r.b + 1 ≤ _; omega⟩
  · exact ⟨⟨by show 6 ≤ 8; omega, o2, o3, o4, o5, o6⟩, by show r.d.length ≤ _; omega, by show r.z ≤ _; omega, by show r.b ≤ _; omega⟩
  · exact ⟨⟨by show 7 ≤ 8; omega, o2, o3, o4, o5, o6⟩, by show r.d.length ≤ _; omega, by show r.z ≤ _; omega, by show r.b ≤ _; omega⟩
  · exact ⟨⟨by show 8 ≤ 8; omega, o2, o3, o4, o5, by show min _ _ ≤ _; omega⟩, by show r.d.length ≤ _; omega, by show r.z ≤ _; omega, by show r.b ≤ _; omega⟩
set_option maxHeartbeats 4000000 in
theorem push_text (g : Nat) (v : Value) (r : Rg) (c : UInt8) (w : World) (hg : NumBlk w g v r) (hr : RgOk r) (hq : nextF r.p c = none) :
    Calls Tryd.prog 8 #[.pointer (some ⟨g, 0, none⟩), .int .u8 (c.toNat : Int)] w fun e w' => e = .returned (.int .i64 2) ∧ Below w.heap.size w w' := by
  have HN := Lib.hid (fun W => next_any r.p hr.p c W)
  rw [hq] at HN
  unfold nextV at HN
  clear hr hq
  have HG := Lib.hid hg
  obtain ⟨p, n, d, z, b, m, k⟩ := r
  dsimp only [NumBlk] at *
  generalize bs d = s at *
  have c1 : w.cell? ⟨g, 1, none⟩ = some (.int .i64 (p : Int)) := HG.out.cell 1
  have hlt := HG.out.lt
  clear hg
  go_enter Tryd.func8, Tryd.ntmps8
  go_wp2_with fail
  with_reducible refine (HN.out _).mono ?_
  rintro e1 w1 ⟨rfl, rfl⟩
  go_wp2
  go_ret
  exact ⟨rfl, Below.refl _ _⟩
set_option maxHeartbeats 4000000 in
theorem push_no_true (g : Nat) (v : Value) (r : Rg) (c : UInt8) (q : Nat) (w : World) (hg : NumBlk w g v r) (hr : RgOk r) (h1 : r.d.length + 100 ≤ 100000) (h2 : r.z + 100 ≤ 100000) (h3 : r.b + 100 ≤ 100000) (hq : nextF r.p c = some q) (hm : mayR (withR r c q) = false) (hw : wholeF (asR (withR r c q)) = true) :
    Calls Tryd.prog 8 #[.pointer (some ⟨g, 0, none⟩), .int .u8 (c.toNat : Int)] w fun e w' => e = .returned (.int .i64 8) ∧ Below w.heap.size w w' := by
  obtain ⟨hq1, hq2, hqd, _⟩ := next_le hq
  have HW := Lib.hid (fun W => with_any r c q W hq1 hq2 hqd (by have := hr.s; omega) (by have := hr.z; omega) (by have := hr.b; omega) hr.w)
  have hr2 := (with_ok hr hq h1 h2 h3).1
  have HM := Lib.hid (fun W => may_any (withR r c q) W hr2.d (by have := hr2.s; omega) (by have := hr2.z; omega) (by have := hr2.b; omega) hr2.w)
  have HN := Lib.hid (fun W => next_any r.p hr.p c W)
  rw [hq] at HN
  unfold nextV at HN
  rw [hm] at HM
  have HA := Lib.hid (fun W => as_any (withR r c q) W (by have := hr2.z; omega) (by have := hr2.b; omega) hr2.w)
  have HO := Lib.hid (fun W => whole_any (asR (withR r c q)) W (by show (withR r c q).d.length ≤ _; have := hr2.s; omega) (by show _ ≤ ((withR r c q).z : Int) - (withR r c q).b + (if (withR r c q).m then -((withR r c q).w : Int) else (withR r c q).w); have := hr2.z; have := hr2.b; have := hr2.w; split <;> omega) (by show ((withR r c q).z : Int) - (withR r c q).b + (if (withR r c q).m then -((withR r c q).w : Int) else (withR r c q).w) ≤ _; have := hr2.z; have := hr2.b; have := hr2.w; split <;> omega))
  rw [hw] at HO
  generalize asR (withR r c q) = ad at *
  generalize withR r c q = r2 at *
  clear hr2 hm h1 h2 h3 hr hq hqd hw
  unfold rgV at HW HM HA
  have HG := Lib.hid hg
  obtain ⟨p, n, d, z, b, m, k⟩ := r
  dsimp only [NumBlk] at *
  generalize bs d = s at *
  obtain ⟨p2, n2, d2, z2, b2, m2, k2⟩ := r2
  dsimp only at *
  generalize bs d2 = s2 at *
  have c0 : w.cell? ⟨g, 0, none⟩ = some (v) := HG.out.cell 0
  have c1 : w.cell? ⟨g, 1, none⟩ = some (.int .i64 (p : Int)) := HG.out.cell 1
  have c2 : w.cell? ⟨g, 2, none⟩ = some (.bool n) := HG.out.cell 2
  have c3 : w.cell? ⟨g, 3, none⟩ = some (.string s) := HG.out.cell 3
  have c4 : w.cell? ⟨g, 4, none⟩ = some (.int .i64 (z : Int)) := HG.out.cell 4
  have c5 : w.cell? ⟨g, 5, none⟩ = some (.int .i64 (b : Int)) := HG.out.cell 5
  have c6 : w.cell? ⟨g, 6, none⟩ = some (.bool m) := HG.out.cell 6
  have c7 : w.cell? ⟨g, 7, none⟩ = some (.int .i64 (k : Int)) := HG.out.cell 7
  have hlt := HG.out.lt
  clear hg
  go_enter Tryd.func8, Tryd.ntmps8
  go_wp2_with fail
  with_reducible refine (HN.out _).mono ?_
  rintro e1 w1 ⟨rfl, rfl⟩
  go_wp2_with fail
  with_reducible refine (HW.out _).mono ?_
  rintro e1 w1 ⟨rfl, hb1⟩
  have HB1 := Lib.hid hb1
  have HG1 := Lib.hid (HG.out.below hb1 HG.out.lt)
  clear hb1 c0 c1 c2 c3 c4 c5 c6 c7
  go_wp2_with fail
  with_reducible refine (HM.out _).mono ?_
  rintro e1 w2 ⟨rfl, hb2⟩
  have HB2 : Hid (Below w.heap.size w w2) := Lib.hid ((HB1.out.alloc HB1.out.size _).trans (hb2.mono (by rw [World.size_alloc]; have := HB1.out.size; omega)))
  have HX2 : Hid (Blk w2 w1.heap.size 44 #[.int .i64 (p2 : Int), .bool n2, .string s2, .int .i64 (z2 : Int), .int .i64 (b2 : Int), .bool m2, .int .i64 (k2 : Int)]) := Lib.hid ((Blk.new w1 _ _).below hb2 (by rw [World.size_alloc]; omega))
  have HG2 := Lib.hid ((HG1.out.alloc _).below hb2 (Nat.lt_of_lt_of_le (HG1.out.alloc (.cells #[] 0)).lt (by rw [World.size_alloc, World.size_alloc]; exact Nat.le_refl _)))
  have hgs : g < w1.heap.size := HG1.out.lt
  clear hb2 HB1 HG1
  have x0 : w2.cell? ⟨w1.heap.size, 0, none⟩ = some (.int .i64 (p2 : Int)) := HX2.out.cell 0
  have x1 : w2.cell? ⟨w1.heap.size, 1, none⟩ = some (.bool n2) := HX2.out.cell 1
  have x2 : w2.cell? ⟨w1.heap.size, 2, none⟩ = some (.string s2) := HX2.out.cell 2
  have x3 : w2.cell? ⟨w1.heap.size, 3, none⟩ = some (.int .i64 (z2 : Int)) := HX2.out.cell 3
  have x4 : w2.cell? ⟨w1.heap.size, 4, none⟩ = some (.int .i64 (b2 : Int)) := HX2.out.cell 4
  have x5 : w2.cell? ⟨w1.heap.size, 5, none⟩ = some (.bool m2) := HX2.out.cell 5
  have x6 : w2.cell? ⟨w1.heap.size, 6, none⟩ = some (.int .i64 (k2 : Int)) := HX2.out.cell 6
  go_wp2_with fail
  with_reducible refine (HA.out _).mono ?_
  rintro e1 w3 ⟨rfl, hb3⟩
  have HB3 := Lib.hid (HB2.out.trans (hb3.mono HB2.out.size))
  clear hb3 HB2 HX2 HG2 x0 x1 x2 x3 x4 x5 x6
  go_wp2_with fail
  with_reducible refine (HO.out _).mono ?_
  rintro e1 w4 ⟨rfl, hb4⟩
  have HB4 := Lib.hid (HB3.out.trans (hb4.mono HB3.out.size))
  clear hb4 HB3
  go_wp2
  go_ret
  exact ⟨rfl, HB4.out⟩
set_option maxHeartbeats 4000000 in
theorem push_no_false (g : Nat) (v : Value) (r : Rg) (c : UInt8) (q : Nat) (w : World) (hg : NumBlk w g v r) (hr : RgOk r) (h1 : r.d.length + 100 ≤ 100000) (h2 : r.z + 100 ≤ 100000) (h3 : r.b + 100 ≤ 100000) (hq : nextF r.p c = some q) (hm : mayR (withR r c q) = false) (hw : wholeF (asR (withR r c q)) = false) :
    Calls Tryd.prog 8 #[.pointer (some ⟨g, 0, none⟩), .int .u8 (c.toNat : Int)] w fun e w' => e = .returned (.int .i64 7) ∧ Below w.heap.size w w' := by
  obtain ⟨hq1, hq2, hqd, _⟩ := next_le hq
  have HW := Lib.hid (fun W => with_any r c q W hq1 hq2 hqd (by have := hr.s; omega) (by have := hr.z; omega) (by have := hr.b; omega) hr.w)
  have hr2 := (with_ok hr hq h1 h2 h3).1
  have HM := Lib.hid (fun W => may_any (withR r c q) W hr2.d (by have := hr2.s; omega) (by have := hr2.z; omega) (by have := hr2.b; omega) hr2.w)
  have HN := Lib.hid (fun W => next_any r.p hr.p c W)
  rw [hq] at HN
  unfold nextV at HN
  rw [hm] at HM
  have HA := Lib.hid (fun W => as_any (withR r c q) W (by have := hr2.z; omega) (by have := hr2.b; omega) hr2.w)
  have HO := Lib.hid (fun W => whole_any (asR (withR r c q)) W (by show (withR r c q).d.length ≤ _; have := hr2.s; omega) (by show _ ≤ ((withR r c q).z : Int) - (withR r c q).b + (if (withR r c q).m then -((withR r c q).w : Int) else (withR r c q).w); have := hr2.z; have := hr2.b; have := hr2.w; split <;> omega) (by show ((withR r c q).z : Int) - (withR r c q).b + (if (withR r c q).m then -((withR r c q).w : Int) else (withR r c q).w) ≤ _; have := hr2.z; have := hr2.b; have := hr2.w; split <;> omega))
  rw [hw] at HO
  generalize asR (withR r c q) = ad at *
  generalize withR r c q = r2 at *
  clear hr2 hm h1 h2 h3 hr hq hqd hw
  unfold rgV at HW HM HA
  have HG := Lib.hid hg
  obtain ⟨p, n, d, z, b, m, k⟩ := r
  dsimp only [NumBlk] at *
  generalize bs d = s at *
  obtain ⟨p2, n2, d2, z2, b2, m2, k2⟩ := r2
  dsimp only at *
  generalize bs d2 = s2 at *
  have c0 : w.cell? ⟨g, 0, none⟩ = some (v) := HG.out.cell 0
  have c1 : w.cell? ⟨g, 1, none⟩ = some (.int .i64 (p : Int)) := HG.out.cell 1
  have c2 : w.cell? ⟨g, 2, none⟩ = some (.bool n) := HG.out.cell 2
  have c3 : w.cell? ⟨g, 3, none⟩ = some (.string s) := HG.out.cell 3
  have c4 : w.cell? ⟨g, 4, none⟩ = some (.int .i64 (z : Int)) := HG.out.cell 4
  have c5 : w.cell? ⟨g, 5, none⟩ = some (.int .i64 (b : Int)) := HG.out.cell 5
  have c6 : w.cell? ⟨g, 6, none⟩ = some (.bool m) := HG.out.cell 6
  have c7 : w.cell? ⟨g, 7, none⟩ = some (.int .i64 (k : Int)) := HG.out.cell 7
  have hlt := HG.out.lt
  clear hg
  go_enter Tryd.func8, Tryd.ntmps8
  go_wp2_with fail
  with_reducible refine (HN.out _).mono ?_
  rintro e1 w1 ⟨rfl, rfl⟩
  go_wp2_with fail
  with_reducible refine (HW.out _).mono ?_
  rintro e1 w1 ⟨rfl, hb1⟩
  have HB1 := Lib.hid hb1
  have HG1 := Lib.hid (HG.out.below hb1 HG.out.lt)
  clear hb1 c0 c1 c2 c3 c4 c5 c6 c7
  go_wp2_with fail
  with_reducible refine (HM.out _).mono ?_
  rintro e1 w2 ⟨rfl, hb2⟩
  have HB2 : Hid (Below w.heap.size w w2) := Lib.hid ((HB1.out.alloc HB1.out.size _).trans (hb2.mono (by rw [World.size_alloc]; have := HB1.out.size; omega)))
  have HX2 : Hid (Blk w2 w1.heap.size 44 #[.int .i64 (p2 : Int), .bool n2, .string s2, .int .i64 (z2 : Int), .int .i64 (b2 : Int), .bool m2, .int .i64 (k2 : Int)]) := Lib.hid ((Blk.new w1 _ _).below hb2 (by rw [World.size_alloc]; omega))
  have HG2 := Lib.hid ((HG1.out.alloc _).below hb2 (Nat.lt_of_lt_of_le (HG1.out.alloc (.cells #[] 0)).lt (by rw [World.size_alloc, World.size_alloc]; exact Nat.le_refl _)))
  have hgs : g < w1.heap.size := HG1.out.lt
  clear hb2 HB1 HG1
  have x0 : w2.cell? ⟨w1.heap.size, 0, none⟩ = some (.int .i64 (p2 : Int)) := HX2.out.cell 0
  have x1 : w2.cell? ⟨w1.heap.size, 1, none⟩ = some (.bool n2) := HX2.out.cell 1
  have x2 : w2.cell? ⟨w1.heap.size, 2, none⟩ = some (.string s2) := HX2.out.cell 2
  have x3 : w2.cell? ⟨w1.heap.size, 3, none⟩ = some (.int .i64 (z2 : Int)) := HX2.out.cell 3
  have x4 : w2.cell? ⟨w1.heap.size, 4, none⟩ = some (.int .i64 (b2 : Int)) := HX2.out.cell 4
  have x5 : w2.cell? ⟨w1.heap.size, 5, none⟩ = some (.bool m2) := HX2.out.cell 5
  have x6 : w2.cell? ⟨w1.heap.size, 6, none⟩ = some (.int .i64 (k2 : Int)) := HX2.out.cell 6
  go_wp2_with fail
  with_reducible refine (HA.out _).mono ?_
  rintro e1 w3 ⟨rfl, hb3⟩
  have HB3 := Lib.hid (HB2.out.trans (hb3.mono HB2.out.size))
  clear hb3 HB2 HX2 HG2 x0 x1 x2 x3 x4 x5 x6
  go_wp2_with fail
  with_reducible refine (HO.out _).mono ?_
  rintro e1 w4 ⟨rfl, hb4⟩
  have HB4 := Lib.hid (HB3.out.trans (hb4.mono HB3.out.size))
  clear hb4 HB3
  go_wp2
  go_ret
  exact ⟨rfl, HB4.out⟩
theorem info_u8 : (Tryd.prog.info? 5).map (fun i => (i.zero, i.size, i.bytes)) = some (some (.int .u8 0), 1, 1) := by kernel_rfl
theorem own_ne {w : World} {base g : Nat} {v : Value} {xs : List Int} {cs : Array Value} (ho : U8s w base v xs) (hg : Blk w g 46 cs) : v.ownBlock ≠ some g := by
  rcases ho.2 with ⟨e1, e2⟩ | ⟨g2, cap, cur, hv, hb, hh, hnc, hm, hcs, ht⟩
  · rw [e1]; simp [Value.ownBlock]
  · rw [hv]
    intro e
    have e2 : g2 = g := by simpa [Value.ownBlock] using e
    subst e2
    unfold Blk at hg
    rw [hh] at hg
    injection hg with hg
    injection hg with _ h2
    exact absurd h2 (by decide)
theorem own_ne_t {w : World} {base g : Nat} {v : Value} {xs : List Int} {t : TypeId} {cs : Array Value} (ho : U8s w base v xs) (hg : Blk w g t cs) (ht : t ≠ 5) : v.ownBlock ≠ some g := by
  rcases ho.2 with ⟨e1, e2⟩ | ⟨g2, cap, cur, hv, hb, hh, hnc, hm, hcs, _⟩
  · rw [e1]; simp [Value.ownBlock]
  · rw [hv]
    intro e
    have e2 : g2 = g := by simpa [Value.ownBlock] using e
    subst e2
    unfold Blk at hg
    rw [hh] at hg
    injection hg with hg
    injection hg with _ h2
    exact ht h2.symm
theorem own_snoc {w : World} {base : Nat} {v : Value} {xs : List Int} {x : Int} (h : w.ownsRow base 5 1 v (xs.length + 1) (xs.map (Value.int .u8) ++ [.int .u8 x])) : U8s w base v (xs ++ [x]) := by
  have e : (xs ++ [x]).length = xs.length + 1 := by simp
  unfold U8s Own
  rw [e, List.map_append]
  exact h
theorem own_set {w : World} {base g : Nat} {v : Value} {xs : List Int} {t : TypeId} {cs : Array Value} (ho : U8s w base v xs) (hg : Blk w g t cs) (ht : t ≠ 5) (i : Nat) (u : Value) : U8s (w.setCell ⟨g, i, none⟩ u) base v xs :=
  ho.kept (row := some g) ((But.refl g w).set i u) (by
    cases hv : v.ownBlock with
    | none => exact .inl rfl
    | some k => exact .inr (fun e => own_ne_t ho hg ht (by rw [hv]; exact e)))
theorem NFr.grown {g : Nat} {v : Value} {w w1 w2 : World} (h : Below w.heap.size w w1) (k : w1.grownBy w2 v.ownBlock) : NFr g v w w2 :=
  ⟨k.os.trans h.os, k.tape.trans h.tape, k.output.trans h.output, Nat.le_trans h.size k.size, fun i hi _ hv => (k.block i (Nat.lt_of_lt_of_le hi h.size) hv.symm).trans (h.block i hi)⟩
theorem NFr.set {g : Nat} {v : Value} {w w1 : World} (h : NFr g v w w1) (i : Nat) (u : Value) : NFr g v w (w1.setCell ⟨g, i, none⟩ u) :=
  ⟨h.os, h.tape, h.output, by have := h.size; simpa [World.setCell] using this, fun k hk hn hv => (Below.heap_setCell w1 ⟨g, i, none⟩ u k hn).trans (h.block k hk hn hv)⟩
/-- a reading stored into a number -/
theorem num_set7 {w w0 : World} {base g h : Nat} {v v0 d1 d2 d3 d4 d5 d6 d7 e1 e2 e3 e4 e5 e6 e7 : Value} {xs : List Int} {t : TypeId} {cs : Array Value} (hb : Blk w g 46 #[v, d1, d2, d3, d4, d5, d6, d7]) (ho : U8s w base v xs) (hf : NFr g v0 w0 w) (hx : Blk w h t cs) (hne : h ≠ g) :
    Blk (((((((w.setCell ⟨g, 1, none⟩ e1).setCell ⟨g, 2, none⟩ e2).setCell ⟨g, 3, none⟩ e3).setCell ⟨g, 4, none⟩ e4).setCell ⟨g, 5, none⟩ e5).setCell ⟨g, 6, none⟩ e6).setCell ⟨g, 7, none⟩ e7) g 46 #[v, e1, e2, e3, e4, e5, e6, e7]
    ∧ U8s (((((((w.setCell ⟨g, 1, none⟩ e1).setCell ⟨g, 2, none⟩ e2).setCell ⟨g, 3, none⟩ e3).setCell ⟨g, 4, none⟩ e4).setCell ⟨g, 5, none⟩ e5).setCell ⟨g, 6, none⟩ e6).setCell ⟨g, 7, none⟩ e7) base v xs
    ∧ NFr g v0 w0 (((((((w.setCell ⟨g, 1, none⟩ e1).setCell ⟨g, 2, none⟩ e2).setCell ⟨g, 3, none⟩ e3).setCell ⟨g, 4, none⟩ e4).setCell ⟨g, 5, none⟩ e5).setCell ⟨g, 6, none⟩ e6).setCell ⟨g, 7, none⟩ e7)
    ∧ Blk (((((((w.setCell ⟨g, 1, none⟩ e1).setCell ⟨g, 2, none⟩ e2).setCell ⟨g, 3, none⟩ e3).setCell ⟨g, 4, none⟩ e4).setCell ⟨g, 5, none⟩ e5).setCell ⟨g, 6, none⟩ e6).setCell ⟨g, 7, none⟩ e7) h t cs := by
  have one : ∀ (W : World) (cs2 ds2 : Array Value) (i : Nat) (u : Value), cs2.setIfInBounds i u = ds2 → Blk W g 46 cs2 → U8s W base v xs → NFr g v0 w0 W → Blk W h t cs → Blk (W.setCell ⟨g, i, none⟩ u) g 46 ds2 ∧ U8s (W.setCell ⟨g, i, none⟩ u) base v xs ∧ NFr g v0 w0 (W.setCell ⟨g, i, none⟩ u) ∧ Blk (W.setCell ⟨g, i, none⟩ u) h t cs :=
    fun W cs2 ds2 i u hd a1 a2 a3 a4 => ⟨a1.set' i u hd, own_set a2 a1 (by decide) i u, a3.set i u, a4.far (p := ⟨g, i, none⟩) hne u⟩
  obtain ⟨a1, a2, a3, a4⟩ := one _ #[v, d1, d2, d3, d4, d5, d6, d7] #[v, e1, d2, d3, d4, d5, d6, d7] 1 e1 rfl hb ho hf hx
  obtain ⟨b1, b2, b3, b4⟩ := one _ #[v, e1, d2, d3, d4, d5, d6, d7] #[v, e1, e2, d3, d4, d5, d6, d7] 2 e2 rfl a1 a2 a3 a4
  obtain ⟨c1, c2, c3, c4⟩ := one _ #[v, e1, e2, d3, d4, d5, d6, d7] #[v, e1, e2, e3, d4, d5, d6, d7] 3 e3 rfl b1 b2 b3 b4
  obtain ⟨f1, f2, f3, f4⟩ := one _ #[v, e1, e2, e3, d4, d5, d6, d7] #[v, e1, e2, e3, e4, d5, d6, d7] 4 e4 rfl c1 c2 c3 c4
  obtain ⟨gg1, gg2, gg3, gg4⟩ := one _ #[v, e1, e2, e3, e4, d5, d6, d7] #[v, e1, e2, e3, e4, e5, d6, d7] 5 e5 rfl f1 f2 f3 f4
  obtain ⟨i1, i2, i3, i4⟩ := one _ #[v, e1, e2, e3, e4, e5, d6, d7] #[v, e1, e2, e3, e4, e5, e6, d7] 6 e6 rfl gg1 gg2 gg3 gg4
  obtain ⟨j1, j2, j3, j4⟩ := one _ #[v, e1, e2, e3, e4, e5, e6, d7] #[v, e1, e2, e3, e4, e5, e6, e7] 7 e7 rfl i1 i2 i3 i4
  exact ⟨j1, j2, j3, j4⟩
set_option maxHeartbeats 4000000 in
theorem push_ok (base g : Nat) (v : Value) (xs : List Int) (r : Rg) (c : UInt8) (q : Nat) (w : World) (hg : NumBlk w g v r) (ho : U8s w base v xs) (hxs : xs.length ≤ 1000000) (hbase : base ≤ w.heap.size) (hr : RgOk r) (h1 : r.d.length + 100 ≤ 100000) (h2 : r.z + 100 ≤ 100000) (h3 : r.b + 100 ≤ 100000) (hq : nextF r.p c = some q) (hm : mayR (withR r c q) = true) :
    Calls Tryd.prog 8 #[.pointer (some ⟨g, 0, none⟩), .int .u8 (c.toNat : Int)] w fun e w' => e = .returned (.int .i64 0) ∧ ∃ v', NumBlk w' g v' (withR r c q) ∧ U8s w' base v' (xs ++ [(c.toNat : Int)]) ∧ NFr g v w w' ∧ (v'.ownBlock = v.ownBlock ∨ ∀ k, v'.ownBlock = some k → w.heap.size ≤ k) := by
  obtain ⟨hq1, hq2, hqd, _⟩ := next_le hq
  have HW := Lib.hid (fun W => with_any r c q W hq1 hq2 hqd (by have := hr.s; omega) (by have := hr.z; omega) (by have := hr.b; omega) hr.w)
  have hr2 := (with_ok hr hq h1 h2 h3).1
  have HM := Lib.hid (fun W => may_any (withR r c q) W hr2.d (by have := hr2.s; omega) (by have := hr2.z; omega) (by have := hr2.b; omega) hr2.w)
  have HN := Lib.hid (fun W => next_any r.p hr.p c W)
  rw [hq] at HN
  unfold nextV at HN
  rw [hm] at HM
  have HO := Lib.hid ho
  have HNE := Lib.hid (own_ne ho hg)
  clear ho
  obtain ⟨A0, c0, hv0, _⟩ := own_form HO.out
  generalize hx : (c.toNat : Int) = x at *
  generalize withR r c q = r2 at *
  clear hr2 hm h1 h2 h3 hr hq hqd
  unfold rgV at HW HM
  have HG := Lib.hid hg
  obtain ⟨p, n, d, z, b, m, k⟩ := r
  dsimp only [NumBlk] at *
  generalize bs d = s at *
  obtain ⟨p2, n2, d2, z2, b2, m2, k2⟩ := r2
  dsimp only at *
  generalize bs d2 = s2 at *
  subst hv0
  have c0' : w.cell? ⟨g, 0, none⟩ = some (.slice A0 xs.length c0) := HG.out.cell 0
  have c1 : w.cell? ⟨g, 1, none⟩ = some (.int .i64 (p : Int)) := HG.out.cell 1
  have c2 : w.cell? ⟨g, 2, none⟩ = some (.bool n) := HG.out.cell 2
  have c3 : w.cell? ⟨g, 3, none⟩ = some (.string s) := HG.out.cell 3
  have c4 : w.cell? ⟨g, 4, none⟩ = some (.int .i64 (z : Int)) := HG.out.cell 4
  have c5 : w.cell? ⟨g, 5, none⟩ = some (.int .i64 (b : Int)) := HG.out.cell 5
  have c6 : w.cell? ⟨g, 6, none⟩ = some (.bool m) := HG.out.cell 6
  have c7 : w.cell? ⟨g, 7, none⟩ = some (.int .i64 (k : Int)) := HG.out.cell 7
  have hlt := HG.out.lt
  clear hg
  go_enter Tryd.func8, Tryd.ntmps8
  go_wp2_with fail
  with_reducible refine (HN.out _).mono ?_
  rintro e1 w1 ⟨rfl, rfl⟩
  go_wp2_with fail
  with_reducible refine (HW.out _).mono ?_
  rintro e1 w1 ⟨rfl, hb1⟩
  have HB1 := Lib.hid hb1
  have HG1 := Lib.hid (HG.out.below hb1 HG.out.lt)
  clear hb1 c0' c1 c2 c3 c4 c5 c6 c7
  go_wp2_with fail
  with_reducible refine (HM.out _).mono ?_
  rintro e1 w2 ⟨rfl, hb2⟩
  have HB2 : Hid (Below w.heap.size w w2) := Lib.hid ((HB1.out.alloc HB1.out.size _).trans (hb2.mono (by rw [World.size_alloc]; have := HB1.out.size; omega)))
  have HX2 : Hid (Blk w2 w1.heap.size 44 #[.int .i64 (p2 : Int), .bool n2, .string s2, .int .i64 (z2 : Int), .int .i64 (b2 : Int), .bool m2, .int .i64 (k2 : Int)]) := Lib.hid ((Blk.new w1 _ _).below hb2 (by rw [World.size_alloc]; omega))
  have HG2 := Lib.hid ((HG1.out.alloc _).below hb2 (Nat.lt_of_lt_of_le (HG1.out.alloc (.cells #[] 0)).lt (by rw [World.size_alloc, World.size_alloc]; exact Nat.le_refl _)))
  have hgs : g < w1.heap.size := HG1.out.lt
  clear hb2 HB1 HG1
  have x0 : w2.cell? ⟨w1.heap.size, 0, none⟩ = some (.int .i64 (p2 : Int)) := HX2.out.cell 0
  have x1 : w2.cell? ⟨w1.heap.size, 1, none⟩ = some (.bool n2) := HX2.out.cell 1
  have x2 : w2.cell? ⟨w1.heap.size, 2, none⟩ = some (.string s2) := HX2.out.cell 2
  have x3 : w2.cell? ⟨w1.heap.size, 3, none⟩ = some (.int .i64 (z2 : Int)) := HX2.out.cell 3
  have x4 : w2.cell? ⟨w1.heap.size, 4, none⟩ = some (.int .i64 (b2 : Int)) := HX2.out.cell 4
  have x5 : w2.cell? ⟨w1.heap.size, 5, none⟩ = some (.bool m2) := HX2.out.cell 5
  have x6 : w2.cell? ⟨w1.heap.size, 6, none⟩ = some (.int .i64 (k2 : Int)) := HX2.out.cell 6
  go_wp2_with fail
  refine wp_region_H (fun W => Blk W w1.heap.size 44 #[.int .i64 (p2 : Int), .bool n2, .string s2, .int .i64 (z2 : Int), .int .i64 (b2 : Int), .bool m2, .int .i64 (k2 : Int)]) (by kernel_rfl) ?_
  generalize hW3 : w2.drew = w3
  have HX3 : Hid (Blk w3 w1.heap.size 44 #[.int .i64 (p2 : Int), .bool n2, .string s2, .int .i64 (z2 : Int), .int .i64 (b2 : Int), .bool m2, .int .i64 (k2 : Int)]) := Lib.hid (by rw [← hW3]; exact HX2.out.drew)
  have HG3 := Lib.hid HG2.out.drew
  have HB3 := Lib.hid HB2.out.drew
  rw [hW3] at HG3 HB3
  have HO3 : Hid (U8s w3 base (.slice A0 xs.length c0) xs) := Lib.hid (own_below HO.out HB3.out (Nat.le_refl _))
  clear hW3 HX2 HG2 HB2 x0 x1 x2 x3 x4 x5 x6
  have HS3 : Hid (w.heap.size ≤ w3.heap.size) := Lib.hid HB3.out.size
  have g0 : w3.cell? ⟨g, 0, none⟩ = some (.slice A0 xs.length c0) := HG3.out.cell 0
  have hlt3 : g < w3.heap.size := HG3.out.lt
  have hls3 : w1.heap.size < w3.heap.size := HX3.out.lt
  refine wpH_take 0 30 (v := ?v0) rfl rfl (by kernel_rfl) (by kernel_rfl) (by kernel_rfl) (fun _ _ _ h => h) HX3.out (Or.inl ⟨by rfl, ?y0⟩) ?r0
  case y0 => (intro W hS; go_simp; try with_reducible rfl)
  simp only [Act.put, List.setIfInBounds_toArray, List.set_cons_zero, List.set_cons_succ]
  refine wpH_take 1 31 (v := ?v1) rfl rfl (by kernel_rfl) (by kernel_rfl) (by kernel_rfl) (fun _ _ _ h => h) HX3.out (Or.inl ⟨by rfl, ?y1⟩) ?r1
  case y1 => (intro W hS; go_simp; try with_reducible rfl)
  simp only [Act.put, List.setIfInBounds_toArray, List.set_cons_zero, List.set_cons_succ]
  refine wpH_take 2 32 (v := ?v2) rfl rfl (by kernel_rfl) (by kernel_rfl) (by kernel_rfl) (fun _ _ _ h => h) HX3.out (Or.inl ⟨by rfl, ?y2⟩) ?r2
  case y2 => (intro W hS; go_simp; try with_reducible rfl)
  simp only [Act.put, List.setIfInBounds_toArray, List.set_cons_zero, List.set_cons_succ]
  refine wpH_take 3 33 (v := ?v3) rfl rfl (by kernel_rfl) (by kernel_rfl) (by kernel_rfl) (fun _ _ _ h => h) HX3.out (Or.inl ⟨by rfl, ?y3⟩) ?r3
  case y3 => (intro W hS; go_simp; try with_reducible rfl)
  simp only [Act.put, List.setIfInBounds_toArray, List.set_cons_zero, List.set_cons_succ]
  refine wpH_take 4 34 (v := ?v4) rfl rfl (by kernel_rfl) (by kernel_rfl) (by kernel_rfl) (fun _ _ _ h => h) HX3.out (Or.inl ⟨by rfl, ?y4⟩) ?r4
  case y4 => (intro W hS; go_simp; try with_reducible rfl)
  simp only [Act.put, List.setIfInBounds_toArray, List.set_cons_zero, List.set_cons_succ]
  refine wpH_take 6 36 (v := ?v6) rfl rfl (by kernel_rfl) (by kernel_rfl) (by kernel_rfl) (fun _ _ _ h => h) HX3.out (Or.inl ⟨by rfl, ?y6⟩) ?r6
  case y6 => (intro W hS; go_simp; try with_reducible rfl)
  simp only [Act.put, List.setIfInBounds_toArray, List.set_cons_zero, List.set_cons_succ]
  refine wpH_take 9 39 (v := .agg #[.int .i64 (p2 : Int), .bool n2, .string s2, .int .i64 (z2 : Int), .int .i64 (b2 : Int), .bool m2, .int .i64 (k2 : Int)]) rfl rfl (by kernel_rfl) (by kernel_rfl) (by kernel_rfl) (fun _ _ _ h => h) HX3.out (Or.inl ⟨by rfl, ?y9⟩) ?r9
  case y9 =>
    intro W hS
    have HS := Lib.hid hS
    clear hS
    have x0 : W.cell? ⟨w1.heap.size, 0, none⟩ = some (.int .i64 (p2 : Int)) := HS.out.cell 0
    have x1 : W.cell? ⟨w1.heap.size, 1, none⟩ = some (.bool n2) := HS.out.cell 1
    have x2 : W.cell? ⟨w1.heap.size, 2, none⟩ = some (.string s2) := HS.out.cell 2
    have x3 : W.cell? ⟨w1.heap.size, 3, none⟩ = some (.int .i64 (z2 : Int)) := HS.out.cell 3
    have x4 : W.cell? ⟨w1.heap.size, 4, none⟩ = some (.int .i64 (b2 : Int)) := HS.out.cell 4
    have x5 : W.cell? ⟨w1.heap.size, 5, none⟩ = some (.bool m2) := HS.out.cell 5
    have x6 : W.cell? ⟨w1.heap.size, 6, none⟩ = some (.int .i64 (k2 : Int)) := HS.out.cell 6
    go_simp
  case r9 =>
  simp only [Act.put, List.setIfInBounds_toArray, List.set_cons_zero, List.set_cons_succ]
  refine wpH_two 5 7 (by kernel_rfl) rfl rfl (fun K hK => ?_) (fun K hK => ?_)
  · go_simp
    refine hK.out _ _ HX3.out ?_
    clear hK K
    try simp only [Act.put, List.getElem_toArray, List.getElem_cons_succ, List.getElem_cons_zero, List.setIfInBounds_toArray, List.set_cons_zero, List.set_cons_succ]
    refine wpH_one 7 (by kernel_rfl) rfl (fun K hK => ?_)
    refine wpA_if (by rfl) ?_
    refine wpO_lit 22 5 1 _ rfl (.int .u8 0) 1 1 Tryd.underlying22 info_u8 (by decide) (by decide) (by decide) [.int .u8 x] (by simp [Act.eval]) (by simp [Value.cells]) rfl #[.int .u8 x] (by simp [Value.cells]) ?_
    refine hK.out _ _ (HX3.out.alloc _) ?_
    clear hK K
    try simp only [Act.put, List.getElem_toArray, List.getElem_cons_succ, List.getElem_cons_zero, List.setIfInBounds_toArray, List.set_cons_zero, List.set_cons_succ]
    refine wpH_one 8 (by kernel_rfl) rfl (fun K hK => ?_)
    refine wpA_if (by rfl) ?_
    refine wpO_append (.tmp 35) (.tmp 37) 22 rfl base 5 (.int .u8 0) 1 1 Tryd.underlying22 info_u8 rfl (by omega) (.slice A0 xs.length c0) xs.length (xs.map (Value.int .u8)) rfl (own_below HO3.out ((Below.refl w3.heap.size w3).alloc (Nat.le_refl _) _) (Nat.le_refl _)) ⟨w3.heap.size, 0, none⟩ 1 1 [.int .u8 x] rfl rfl (fun j u hu => by cases j with | zero => (simp at hu; subst hu; exact (Blk.new w3 5 #[.int .u8 x]).cell 0) | succ j => simp at hu) (by simp [Value.oneCell']) (by simp only [maxLen]; omega) (by omega) (by rw [World.size_alloc]; have := HB3.out.size; omega) ?_
    intro v5 w5 hO5 hG5 hv5
    obtain ⟨A5, k5, rfl, _⟩ := own_form hO5
    have HO5 : Hid (U8s w5 base (.slice A5 (xs.length + 1) k5) (xs ++ [x])) := Lib.hid (own_snoc hO5)
    have HV5 := Lib.hid hv5
    have HX5 : Hid (Blk w5 w1.heap.size 44 #[.int .i64 (p2 : Int), .bool n2, .string s2, .int .i64 (z2 : Int), .int .i64 (b2 : Int), .bool m2, .int .i64 (k2 : Int)]) := Lib.hid ((hG5.block _ (by rw [World.size_alloc]; omega) (fun e => own_ne_t HO3.out HX3.out (by decide) e.symm)).trans (HX3.out.alloc _))
    have HG5 := Lib.hid (show Blk w5 g 46 _ from (hG5.block _ (by rw [World.size_alloc]; omega) (fun e => HNE.out e.symm)).trans (HG3.out.alloc _))
    have HF5 : Hid (NFr g (.slice A0 xs.length c0) w w5) := Lib.hid (NFr.grown ((HB3.out.alloc HB3.out.size _)) hG5)
    clear hO5 hG5 hv5 HX3 HG3 HB3 HO3 g0 hlt3 hls3
    refine hK.out _ _ HX5.out ?_
    clear hK K
    try simp only [Act.put, List.getElem_toArray, List.getElem_cons_succ, List.getElem_cons_zero, List.setIfInBounds_toArray, List.set_cons_zero, List.set_cons_succ]
    refine wpH_take 10 40 (v := ?v10a) rfl rfl (by kernel_rfl) (by kernel_rfl) (by kernel_rfl) (fun _ _ _ h => h) HX5.out (Or.inl ⟨by rfl, ?y10a⟩) ?r10a
    case y10a => (intro W hS; go_simp; try with_reducible rfl)
    simp only [Act.put, List.setIfInBounds_toArray, List.set_cons_zero, List.set_cons_succ]
    refine wpH_take 11 41 (v := ?v11a) rfl rfl (by kernel_rfl) (by kernel_rfl) (by kernel_rfl) (fun _ _ _ h => h) HX5.out (Or.inl ⟨by rfl, ?y11a⟩) ?r11a
    case y11a => (intro W hS; go_simp; try with_reducible rfl)
    simp only [Act.put, List.setIfInBounds_toArray, List.set_cons_zero, List.set_cons_succ]
    have q0 : w5.cell? ⟨g, 0, none⟩ = some (.slice A0 xs.length c0) := HG5.out.cell 0
    have qf0 : w5.frozen? ⟨g, 0, none⟩ = false := HG5.out.frozen 0
    have qlt : g < w5.heap.size := HG5.out.lt
    refine wpH_one 12 (by kernel_rfl) rfl (fun K hK => ?_)
    go_simp
    refine hK.out _ _ (HX5.out.far (p := ⟨g, 0, none⟩) (by simp; omega) (.slice A5 (xs.length + 1) k5)) ?_
    clear hK K
    try simp only [Act.put, List.getElem_toArray, List.getElem_cons_succ, List.getElem_cons_zero, List.setIfInBounds_toArray, List.set_cons_zero, List.set_cons_succ]
    have HX6 := Lib.hid (HX5.out.far (p := ⟨g, 0, none⟩) (by simp; omega) (.slice A5 (xs.length + 1) k5))
    have HG6 := Lib.hid (HG5.out.set' 0 (.slice A5 (xs.length + 1) k5) rfl)
    have HF6 : Hid (NFr g (.slice A0 xs.length c0) w (w5.setCell ⟨g, 0, none⟩ (.slice A5 (xs.length + 1) k5))) := Lib.hid (HF5.out.set 0 _)
    have HO6 : Hid (U8s (w5.setCell ⟨g, 0, none⟩ (.slice A5 (xs.length + 1) k5)) base (.slice A5 (xs.length + 1) k5) (xs ++ [x])) := Lib.hid (own_set HO5.out HG5.out (by decide) _ _)
    clear HX5 HG5 HF5 HO5 q0 qf0 qlt
    generalize w5.setCell ⟨g, 0, none⟩ (.slice A5 (xs.length + 1) k5) = w6 at *
    refine wpH_take 13 42 (v := ?v13a) rfl rfl (by kernel_rfl) (by kernel_rfl) (by kernel_rfl) (fun _ _ _ h => h) HX6.out (Or.inl ⟨by rfl, ?y13a⟩) ?r13a
    case y13a => (intro W hS; go_simp; try with_reducible rfl)
    simp only [Act.put, List.setIfInBounds_toArray, List.set_cons_zero, List.set_cons_succ]
    refine wpH_take 14 43 (v := ?v14a) rfl rfl (by kernel_rfl) (by kernel_rfl) (by kernel_rfl) (fun _ _ _ h => h) HX6.out (Or.inl ⟨by rfl, ?y14a⟩) ?r14a
    case y14a => (intro W hS; go_simp; try with_reducible rfl)
    simp only [Act.put, List.setIfInBounds_toArray, List.set_cons_zero, List.set_cons_succ]
    have q0 : w6.cell? ⟨g, 0, none⟩ = some (.slice A5 (xs.length + 1) k5) := HG6.out.cell 0
    have qf0 : w6.frozen? ⟨g, 0, none⟩ = false := HG6.out.frozen 0
    have q1 : w6.cell? ⟨g, 1, none⟩ = some (.int .i64 (p : Int)) := HG6.out.cell 1
    have qf1 : w6.frozen? ⟨g, 1, none⟩ = false := HG6.out.frozen 1
    have q2 : w6.cell? ⟨g, 2, none⟩ = some (.bool n) := HG6.out.cell 2
    have qf2 : w6.frozen? ⟨g, 2, none⟩ = false := HG6.out.frozen 2
    have q3 : w6.cell? ⟨g, 3, none⟩ = some (.string s) := HG6.out.cell 3
    have qf3 : w6.frozen? ⟨g, 3, none⟩ = false := HG6.out.frozen 3
    have q4 : w6.cell? ⟨g, 4, none⟩ = some (.int .i64 (z : Int)) := HG6.out.cell 4
    have qf4 : w6.frozen? ⟨g, 4, none⟩ = false := HG6.out.frozen 4
    have q5 : w6.cell? ⟨g, 5, none⟩ = some (.int .i64 (b : Int)) := HG6.out.cell 5
    have qf5 : w6.frozen? ⟨g, 5, none⟩ = false := HG6.out.frozen 5
    have q6 : w6.cell? ⟨g, 6, none⟩ = some (.bool m) := HG6.out.cell 6
    have qf6 : w6.frozen? ⟨g, 6, none⟩ = false := HG6.out.frozen 6
    have q7 : w6.cell? ⟨g, 7, none⟩ = some (.int .i64 (k : Int)) := HG6.out.cell 7
    have qf7 : w6.frozen? ⟨g, 7, none⟩ = false := HG6.out.frozen 7
    have qlt : g < w6.heap.size := HG6.out.lt
    have HALL := Lib.hid (num_set7 (e1 := .int .i64 (p2 : Int)) (e2 := .bool n2) (e3 := .string s2) (e4 := .int .i64 (z2 : Int)) (e5 := .int .i64 (b2 : Int)) (e6 := .bool m2) (e7 := .int .i64 (k2 : Int)) HG6.out HO6.out HF6.out HX6.out (by omega))
    refine wpH_one 15 (by kernel_rfl) rfl (fun K hK => ?_)
    go_simp
    refine hK.out _ _ HALL.out.2.2.2 ?_
    clear hK K
    try simp only [Act.put, List.getElem_toArray, List.getElem_cons_succ, List.getElem_cons_zero, List.setIfInBounds_toArray, List.set_cons_zero, List.set_cons_succ]
    refine wpH_done (by kernel_rfl) ?_ _
    go_wp2
    go_ret
    refine ⟨rfl, (.slice A5 (xs.length + 1) k5), HALL.out.1, HALL.out.2.1, HALL.out.2.2.1, ?_⟩
    · rcases HV5.out with e | e
      · exact .inl e
      · refine .inr fun k hk => ?_
        rw [hk] at e
        injection e with e
        rw [e, World.size_alloc]
        have := HS3.out
        omega
  · refine wpA_if (by rfl) ?_
    refine wpO_lit 22 5 1 _ rfl (.int .u8 0) 1 1 Tryd.underlying22 info_u8 (by decide) (by decide) (by decide) [.int .u8 x] (by simp [Act.eval]) (by simp [Value.cells]) rfl #[.int .u8 x] (by simp [Value.cells]) ?_
    refine hK.out _ _ (HX3.out.alloc _) ?_
    clear hK K
    try simp only [Act.put, List.getElem_toArray, List.getElem_cons_succ, List.getElem_cons_zero, List.setIfInBounds_toArray, List.set_cons_zero, List.set_cons_succ]
    have g0' : (w3.alloc (.cells #[.int .u8 x] 5)).cell? ⟨g, 0, none⟩ = some (.slice A0 xs.length c0) := (HG3.out.alloc _).cell 0
    refine wpH_one 5 (by kernel_rfl) rfl (fun K hK => ?_)
    go_simp
    refine hK.out _ _ (HX3.out.alloc _) ?_
    clear hK K g0'
    try simp only [Act.put, List.getElem_toArray, List.getElem_cons_succ, List.getElem_cons_zero, List.setIfInBounds_toArray, List.set_cons_zero, List.set_cons_succ]
    refine wpH_one 8 (by kernel_rfl) rfl (fun K hK => ?_)
    refine wpA_if (by rfl) ?_
    refine wpO_append (.tmp 35) (.tmp 37) 22 rfl base 5 (.int .u8 0) 1 1 Tryd.underlying22 info_u8 rfl (by omega) (.slice A0 xs.length c0) xs.length (xs.map (Value.int .u8)) rfl (own_below HO3.out ((Below.refl w3.heap.size w3).alloc (Nat.le_refl _) _) (Nat.le_refl _)) ⟨w3.heap.size, 0, none⟩ 1 1 [.int .u8 x] rfl rfl (fun j u hu => by cases j with | zero => (simp at hu; subst hu; exact (Blk.new w3 5 #[.int .u8 x]).cell 0) | succ j => simp at hu) (by simp [Value.oneCell']) (by simp only [maxLen]; omega) (by omega) (by rw [World.size_alloc]; have := HB3.out.size; omega) ?_
    intro v5 w5 hO5 hG5 hv5
    obtain ⟨A5, k5, rfl, _⟩ := own_form hO5
    have HO5 : Hid (U8s w5 base (.slice A5 (xs.length + 1) k5) (xs ++ [x])) := Lib.hid (own_snoc hO5)
    have HV5 := Lib.hid hv5
    have HX5 : Hid (Blk w5 w1.heap.size 44 #[.int .i64 (p2 : Int), .bool n2, .string s2, .int .i64 (z2 : Int), .int .i64 (b2 : Int), .bool m2, .int .i64 (k2 : Int)]) := Lib.hid ((hG5.block _ (by rw [World.size_alloc]; omega) (fun e => own_ne_t HO3.out HX3.out (by decide) e.symm)).trans (HX3.out.alloc _))
    have HG5 := Lib.hid (show Blk w5 g 46 _ from (hG5.block _ (by rw [World.size_alloc]; omega) (fun e => HNE.out e.symm)).trans (HG3.out.alloc _))
    have HF5 : Hid (NFr g (.slice A0 xs.length c0) w w5) := Lib.hid (NFr.grown ((HB3.out.alloc HB3.out.size _)) hG5)
    clear hO5 hG5 hv5 HX3 HG3 HB3 HO3 g0 hlt3 hls3
    refine hK.out _ _ HX5.out ?_
    clear hK K
    try simp only [Act.put, List.getElem_toArray, List.getElem_cons_succ, List.getElem_cons_zero, List.setIfInBounds_toArray, List.set_cons_zero, List.set_cons_succ]
    refine wpH_take 10 40 (v := ?v10b) rfl rfl (by kernel_rfl) (by kernel_rfl) (by kernel_rfl) (fun _ _ _ h => h) HX5.out (Or.inl ⟨by rfl, ?y10b⟩) ?r10b
    case y10b => (intro W hS; go_simp; try with_reducible rfl)
    simp only [Act.put, List.setIfInBounds_toArray, List.set_cons_zero, List.set_cons_succ]
    refine wpH_take 11 41 (v := ?v11b) rfl rfl (by kernel_rfl) (by kernel_rfl) (by kernel_rfl) (fun _ _ _ h => h) HX5.out (Or.inl ⟨by rfl, ?y11b⟩) ?r11b
    case y11b => (intro W hS; go_simp; try with_reducible rfl)
    simp only [Act.put, List.setIfInBounds_toArray, List.set_cons_zero, List.set_cons_succ]
    have q0 : w5.cell? ⟨g, 0, none⟩ = some (.slice A0 xs.length c0) := HG5.out.cell 0
    have qf0 : w5.frozen? ⟨g, 0, none⟩ = false := HG5.out.frozen 0
    have qlt : g < w5.heap.size := HG5.out.lt
    refine wpH_one 12 (by kernel_rfl) rfl (fun K hK => ?_)
    go_simp
    refine hK.out _ _ (HX5.out.far (p := ⟨g, 0, none⟩) (by simp; omega) (.slice A5 (xs.length + 1) k5)) ?_
    clear hK K
    try simp only [Act.put, List.getElem_toArray, List.getElem_cons_succ, List.getElem_cons_zero, List.setIfInBounds_toArray, List.set_cons_zero, List.set_cons_succ]
    have HX6 := Lib.hid (HX5.out.far (p := ⟨g, 0, none⟩) (by simp; omega) (.slice A5 (xs.length + 1) k5))
    have HG6 := Lib.hid (HG5.out.set' 0 (.slice A5 (xs.length + 1) k5) rfl)
    have HF6 : Hid (NFr g (.slice A0 xs.length c0) w (w5.setCell ⟨g, 0, none⟩ (.slice A5 (xs.length + 1) k5))) := Lib.hid (HF5.out.set 0 _)
    have HO6 : Hid (U8s (w5.setCell ⟨g, 0, none⟩ (.slice A5 (xs.length + 1) k5)) base (.slice A5 (xs.length + 1) k5) (xs ++ [x])) := Lib.hid (own_set HO5.out HG5.out (by decide) _ _)
    clear HX5 HG5 HF5 HO5 q0 qf0 qlt
    generalize w5.setCell ⟨g, 0, none⟩ (.slice A5 (xs.length + 1) k5) = w6 at *
    refine wpH_take 13 42 (v := ?v13b) rfl rfl (by kernel_rfl) (by kernel_rfl) (by kernel_rfl) (fun _ _ _ h => h) HX6.out (Or.inl ⟨by rfl, ?y13b⟩) ?r13b
    case y13b => (intro W hS; go_simp; try with_reducible rfl)
    simp only [Act.put, List.setIfInBounds_toArray, List.set_cons_zero, List.set_cons_succ]
    refine wpH_take 14 43 (v := ?v14b) rfl rfl (by kernel_rfl) (by kernel_rfl) (by kernel_rfl) (fun _ _ _ h => h) HX6.out (Or.inl ⟨by rfl, ?y14b⟩) ?r14b
    case y14b => (intro W hS; go_simp; try with_reducible rfl)
    simp only [Act.put, List.setIfInBounds_toArray, List.set_cons_zero, List.set_cons_succ]
    have q0 : w6.cell? ⟨g, 0, none⟩ = some (.slice A5 (xs.length + 1) k5) := HG6.out.cell 0
    have qf0 : w6.frozen? ⟨g, 0, none⟩ = false := HG6.out.frozen 0
    have q1 : w6.cell? ⟨g, 1, none⟩ = some (.int .i64 (p : Int)) := HG6.out.cell 1
    have qf1 : w6.frozen? ⟨g, 1, none⟩ = false := HG6.out.frozen 1
    have q2 : w6.cell? ⟨g, 2, none⟩ = some (.bool n) := HG6.out.cell 2
    have qf2 : w6.frozen? ⟨g, 2, none⟩ = false := HG6.out.frozen 2
    have q3 : w6.cell? ⟨g, 3, none⟩ = some (.string s) := HG6.out.cell 3
    have qf3 : w6.frozen? ⟨g, 3, none⟩ = false := HG6.out.frozen 3
    have q4 : w6.cell? ⟨g, 4, none⟩ = some (.int .i64 (z : Int)) := HG6.out.cell 4
    have qf4 : w6.frozen? ⟨g, 4, none⟩ = false := HG6.out.frozen 4
    have q5 : w6.cell? ⟨g, 5, none⟩ = some (.int .i64 (b : Int)) := HG6.out.cell 5
    have qf5 : w6.frozen? ⟨g, 5, none⟩ = false := HG6.out.frozen 5
    have q6 : w6.cell? ⟨g, 6, none⟩ = some (.bool m) := HG6.out.cell 6
    have qf6 : w6.frozen? ⟨g, 6, none⟩ = false := HG6.out.frozen 6
    have q7 : w6.cell? ⟨g, 7, none⟩ = some (.int .i64 (k : Int)) := HG6.out.cell 7
    have qf7 : w6.frozen? ⟨g, 7, none⟩ = false := HG6.out.frozen 7
    have qlt : g < w6.heap.size := HG6.out.lt
    have HALL := Lib.hid (num_set7 (e1 := .int .i64 (p2 : Int)) (e2 := .bool n2) (e3 := .string s2) (e4 := .int .i64 (z2 : Int)) (e5 := .int .i64 (b2 : Int)) (e6 := .bool m2) (e7 := .int .i64 (k2 : Int)) HG6.out HO6.out HF6.out HX6.out (by omega))
    refine wpH_one 15 (by kernel_rfl) rfl (fun K hK => ?_)
    go_simp
    refine hK.out _ _ HALL.out.2.2.2 ?_
    clear hK K
    try simp only [Act.put, List.getElem_toArray, List.getElem_cons_succ, List.getElem_cons_zero, List.setIfInBounds_toArray, List.set_cons_zero, List.set_cons_succ]
    refine wpH_done (by kernel_rfl) ?_ _
    go_wp2
    go_ret
    refine ⟨rfl, (.slice A5 (xs.length + 1) k5), HALL.out.1, HALL.out.2.1, HALL.out.2.2.1, ?_⟩
    · rcases HV5.out with e | e
      · exact .inl e
      · refine .inr fun k hk => ?_
        rw [hk] at e
        injection e with e
        rw [e, World.size_alloc]
        have := HS3.out
        omega
end Go.Proofs.YtiibfejgiilakaaDoor
