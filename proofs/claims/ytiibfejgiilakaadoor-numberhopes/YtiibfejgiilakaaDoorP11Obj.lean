/- Printed by gen_p11obj.py. The program's New, Text, End, Clone, Copy by their contracts. -/
import Derived.Test.YtiibfejgiilakaaDoorP11Push
import Derived.Test.YtiibfejgiilakaaDoorU8Str
import Derived.Test.YtiibfejgiilakaaDoorAppG
import Derived.Lib.SliceRun
namespace Go.Proofs.YtiibfejgiilakaaDoor
set_option maxRecDepth 100000
open Go.ChangeShapes Go.WideShapes Go.ChangeAt Go.RowKit
set_option linter.unusedVariables false
set_option linter.unusedSimpArgs false

def r0 : Rg := ⟨0, false, [], 0, 0, false, 0⟩
def nums (s : List UInt8) : List Int := s.map fun c => (c.toNat : Int)
theorem own_none (w : World) (base : Nat) : U8s w base (.slice none 0 0) [] := ⟨rfl, .inl ⟨rfl, rfl⟩⟩
set_option maxHeartbeats 1000000 in
theorem new_any (w : World) : Calls Tryd.prog 6 #[] w fun e w' => e = .returned (.pointer (some ⟨w.heap.size, 0, none⟩)) ∧ NumBlk w' w.heap.size (.slice none 0 0) r0 ∧ Below w.heap.size w w' := by
  go_enter Tryd.func6, Tryd.ntmps6
  go_wp2
  go_ret
  exact ⟨rfl, Blk.new w _ _, (Below.refl _ _).alloc (Nat.le_refl _) _⟩
set_option maxHeartbeats 1000000 in
theorem text_any (base g : Nat) (v : Value) (t : List UInt8) (r : Rg) (w : World) (hg : NumBlk w g v r) (ho : U8s w base v (nums t)) : Calls Tryd.prog 10 #[.pointer (some ⟨g, 0, none⟩)] w fun e w' => e = .returned (.string (bs t)) ∧ w = w' := by
  obtain ⟨A0, c0, hv0, _⟩ := own_form ho
  subst hv0
  have hcv := conv_str w w.heap.size A0 (nums t).length c0 (nums t) rfl (Ints.own ho)
  have e : strOfNums (nums t) = bs t := nums_bs t
  rw [e] at hcv
  have c1 : w.cell? ⟨g, 0, none⟩ = some (.slice A0 (nums t).length c0) := hg.cell 0
  have hlt := hg.lt
  clear hg ho e
  generalize (nums t).length = m at *
  generalize bs t = s at *
  go_enter Tryd.func10, Tryd.ntmps10
  go_wp2
  go_ret
  exact ⟨rfl, rfl⟩
set_option maxHeartbeats 2000000 in
theorem end_no (g : Nat) (v : Value) (r : Rg) (w : World) (hg : NumBlk w g v r) (hr : RgOk r) (he : endsF r.p = false) : Calls Tryd.prog 11 #[.pointer (some ⟨g, 0, none⟩)] w fun e w' => e = .returned (.tuple #[.int .i64 0, .int .i64 3]) ∧ Below w.heap.size w w' := by
  have HE := Lib.hid (fun W => ends_any r.p hr.p W)
  rw [he] at HE
  have HG := Lib.hid hg
  have c1 : w.cell? ⟨g, 1, none⟩ = some (.int .i64 (r.p : Int)) := hg.cell 1
  have hlt := hg.lt
  clear hg hr he
  go_enter Tryd.func11, Tryd.ntmps11
  go_wp2_with fail
  with_reducible refine (HE.out _).mono ?_
  rintro e1 w1 ⟨rfl, rfl⟩
  go_wp2
  go_ret2
  exact ⟨rfl, Below.refl _ _⟩
set_option maxHeartbeats 2000000 in
theorem end_yes (g : Nat) (v : Value) (r : Rg) (w : World) (hg : NumBlk w g v r) (hr : RgOk r) (he : endsF r.p = true) : Calls Tryd.prog 11 #[.pointer (some ⟨g, 0, none⟩)] w fun e w' => e = .returned (.tuple #[.int .i64 (intF (asR r)).1, .int .i64 (intF (asR r)).2]) ∧ Below w.heap.size w w' := by
  have HE := Lib.hid (fun W => ends_any r.p hr.p W)
  rw [he] at HE
  have HA := Lib.hid (fun W => as_any r W (by have := hr.z; omega) (by have := hr.b; omega) hr.w)
  have HI := Lib.hid (fun W => int_any (asR r) W hr.d (by show r.d.length ≤ _; have := hr.s; omega) (by show _ ≤ (r.z : Int) - r.b + (if r.m then -(r.w : Int) else r.w); have := hr.z; have := hr.b; have := hr.w; split <;> omega) (by show (r.z : Int) - r.b + (if r.m then -(r.w : Int) else r.w) ≤ _; have := hr.z; have := hr.b; have := hr.w; split <;> omega))
  generalize intF (asR r) = res at *
  obtain ⟨res1, res2⟩ := res
  generalize asR r = ad at *
  clear hr he
  unfold rgV at HA
  have HG := Lib.hid hg
  obtain ⟨p, n, d, z, b, m, k⟩ := r
  dsimp only [NumBlk] at *
  generalize bs d = s at *
  have c0 : w.cell? ⟨g, 0, none⟩ = some (v) := HG.out.cell 0
  have c1 : w.cell? ⟨g, 1, none⟩ = some (.int .i64 (p : Int)) := HG.out.cell 1
  have c2 : w.cell? ⟨g, 2, none⟩ = some (.bool n) := HG.out.cell 2
  have c3 : w.cell? ⟨g, 3, none⟩ = some (.string s) := HG.out.cell 3
  have c4 : w.cell? ⟨g, 4, none⟩ = some (.int .i64 (z : Int)) := HG.out.cell 4
  have c5 : w.cell? ⟨g, 5, none⟩ = some (.int .i64 (b : Int)) := HG.out.cell 5
  have c6 : w.cell? ⟨g, 6, none⟩ = some (.bool m) := HG.out.cell 6
  have c7 : w.cell? ⟨g, 7, none⟩ = some (.int .i64 (k : Int)) := HG.out.cell 7
  have hlt := HG.out.lt
  clear hg
  go_enter Tryd.func11, Tryd.ntmps11
  go_wp2_with fail
  with_reducible refine (HE.out _).mono ?_
  rintro e1 w1 ⟨rfl, rfl⟩
  go_wp2_with fail
  with_reducible refine (HA.out _).mono ?_
  rintro e1 w2 ⟨rfl, hb2⟩
  have HB2 := Lib.hid hb2
  clear hb2 c0 c1 c2 c3 c4 c5 c6 c7
  go_wp2_with fail
  with_reducible refine (HI.out _).mono ?_
  rintro e1 w3 ⟨rfl, hb3⟩
  have HB3 := Lib.hid (HB2.out.trans (hb3.mono HB2.out.size))
  clear hb3
  go_wp2
  go_ret2
  exact ⟨rfl, HB3.out⟩
theorem own_lower {w : World} {base lo : Nat} {v : Value} {xs : List Int} (h : U8s w base v xs) (hl : lo ≤ base) : U8s w lo v xs := by
  refine ⟨h.1, ?_⟩
  rcases h.2 with h2 | ⟨g2, cap, cur, hv, hb, h3⟩
  · exact .inl h2
  · exact .inr ⟨g2, cap, cur, hv, Nat.le_trans hl hb, h3⟩
set_option maxHeartbeats 2000000 in
theorem clone_any (base : Nat) (v : Value) (xs : List Int) (w : World) (ho : U8s w base v xs) (hxs : xs.length ≤ 1000000) : Calls Tryd.prog 31 #[v] w fun e w' => ∃ v', e = .returned v' ∧ U8s w' w.heap.size v' xs ∧ Below w.heap.size w w' := by
  obtain ⟨A0, c0, hv0, _⟩ := own_form ho
  have HI := Lib.hid (Ints.own (by rw [hv0] at ho; exact ho))
  subst hv0
  cases A0 with
  | none =>
    have hx : xs = [] := by
      rcases HI.out with h | ⟨b, o, e, _⟩
      · exact h
      · cases e
    subst hx
    have hc : c0 = 0 := by
      rcases ho.2 with ⟨e1, e2⟩ | ⟨g2, cap, cur, hv, _⟩
      · injection e1
      · injection hv with h1; cases h1
    subst hc
    clear HI
    rw [List.length_nil]
    have qT : ∀ (w : World) (a : Option Addr) (n c : Nat), (binOp .eql 22 (.slice a n c) (.slice none 0 0)).run Tryd.prog w = .ok (.bool a.isNone) w := fun w a n c => Lib.run_eql_slice_nil w _ _ a n c 0 0 Tryd.underlying22
    go_enter Tryd.func31, Tryd.ntmps31
    go_wp2
    go_ret
    exact ⟨_, rfl, own_none w _, Below.refl _ _⟩
  | some ad =>
    clear ho
    have qT : ∀ (w : World) (a : Option Addr) (n c : Nat), (binOp .eql 22 (.slice a n c) (.slice none 0 0)).run Tryd.prog w = .ok (.bool a.isNone) w := fun w a n c => Lib.run_eql_slice_nil w _ _ a n c 0 0 Tryd.underlying22
    go_enter Tryd.func31, Tryd.ntmps31
    have HE := Lib.hid (own_empty w w.heap.size 5 .u8 (Nat.le_refl _))
    go_wp2_with (at_builtin; refine wpList_app rfl (.tmp 5) (.tmp 6) 22 rfl w.heap.size 5 .u8 1 Tryd.underlying22 info_u8 (by omega) (.slice (some ⟨w.heap.size, 0, none⟩) 0 0) [] rfl HE.out w.heap.size (some ad) c0 xs rfl (fun h => by cases h) (HI.out.below ((Below.refl w.heap.size w).alloc (Nat.le_refl _) _) (Nat.le_refl _)) (by simp; omega) (by rw [World.size_alloc]; omega) ?_; intro v' w' hO hG; have HB : Hid (Below w.heap.size w w') := Lib.hid (((Below.refl w.heap.size w).alloc (Nat.le_refl _) _).trans (own_grown_below HE.out hG (by rw [World.size_alloc]; omega))); have HO := Lib.hid hO; clear hO hG)
    go_ret
    exact ⟨_, rfl, HO.out, HB.out⟩
set_option maxHeartbeats 4000000 in
theorem copy_any (base g : Nat) (v : Value) (xs : List Int) (r : Rg) (w : World) (hg : NumBlk w g v r) (ho : U8s w base v xs) (hxs : xs.length ≤ 1000000) : Calls Tryd.prog 13 #[.pointer (some ⟨g, 0, none⟩)] w fun e w' => ∃ g' v', e = .returned (.pointer (some ⟨g', 0, none⟩)) ∧ w.heap.size ≤ g' ∧ NumBlk w' g' v' r ∧ U8s w' w.heap.size v' xs ∧ Below w.heap.size w w' := by
  obtain ⟨A0, c0, hv0, _⟩ := own_form ho
  subst hv0
  have HG := Lib.hid hg
  have HO := Lib.hid ho
  obtain ⟨p, n, d, z, b, m, k⟩ := r
  dsimp only [NumBlk] at *
  generalize bs d = s at *
  have hlt0 := hg.lt
  clear hg ho
  go_enter Tryd.func13, Tryd.ntmps13
  go_wp2_with fail
  refine wp_region_H (fun W => Blk W g 46 #[.slice A0 xs.length c0, .int .i64 (p : Int), .bool n, .string s, .int .i64 (z : Int), .int .i64 (b : Int), .bool m, .int .i64 (k : Int)]) (by kernel_rfl) ?_
  generalize hW1 : w.drew = w1
  have HS1 : Hid (Blk w1 g 46 #[.slice A0 xs.length c0, .int .i64 (p : Int), .bool n, .string s, .int .i64 (z : Int), .int .i64 (b : Int), .bool m, .int .i64 (k : Int)]) := Lib.hid (by rw [← hW1]; exact HG.out.drew)
  have HB1 : Hid (Below w.heap.size w w1) := Lib.hid (by rw [← hW1]; exact (Below.refl _ _).drew)
  have HO1 : Hid (U8s w1 base (.slice A0 xs.length c0) xs) := Lib.hid (own_below HO.out HB1.out (Nat.le_refl _))
  clear hW1 HG HO
  refine wpH_take 0 3 (v := ?v0) rfl rfl (by kernel_rfl) (by kernel_rfl) (by kernel_rfl) (fun _ _ _ h => h) HS1.out (Or.inl ⟨by rfl, ?y0⟩) ?r0
  case y0 => (intro W hS; go_simp; try with_reducible rfl)
  simp only [Act.put, List.setIfInBounds_toArray, List.set_cons_zero, List.set_cons_succ]
  refine wpH_take 1 4 (v := ?v1) rfl rfl (by kernel_rfl) (by kernel_rfl) (by kernel_rfl) (fun _ _ _ h => h) HS1.out (Or.inl ⟨by rfl, ?y1⟩) ?r1
  case y1 => (intro W hS; go_simp; try with_reducible rfl)
  simp only [Act.put, List.setIfInBounds_toArray, List.set_cons_zero, List.set_cons_succ]
  refine wpH_take 2 5 (v := ?v2) rfl rfl (by kernel_rfl) (by kernel_rfl) (by kernel_rfl) (fun _ _ _ h => h) HS1.out (Or.inl ⟨by rfl, ?y2⟩) ?r2
  case y2 => (intro W hS; go_simp; try with_reducible rfl)
  simp only [Act.put, List.setIfInBounds_toArray, List.set_cons_zero, List.set_cons_succ]
  refine wpH_take 3 6 (v := .slice A0 xs.length c0) rfl rfl (by kernel_rfl) (by kernel_rfl) (by kernel_rfl) (fun _ _ _ h => h) HS1.out (Or.inl ⟨by rfl, ?y3⟩) ?r3
  case y3 =>
    intro W hS
    have c0' : W.cell? ⟨g, 0, none⟩ = some (.slice A0 xs.length c0) := hS.cell 0
    clear hS
    go_simp
  case r3 =>
  simp only [Act.put, List.setIfInBounds_toArray, List.set_cons_zero, List.set_cons_succ]
  refine wpH_take 5 8 (v := ?v5) rfl rfl (by kernel_rfl) (by kernel_rfl) (by kernel_rfl) (fun _ _ _ h => h) HS1.out (Or.inl ⟨by rfl, ?y5⟩) ?r5
  case y5 => (intro W hS; go_simp; try with_reducible rfl)
  simp only [Act.put, List.setIfInBounds_toArray, List.set_cons_zero, List.set_cons_succ]
  refine wpH_take 6 9 (v := ?v6) rfl rfl (by kernel_rfl) (by kernel_rfl) (by kernel_rfl) (fun _ _ _ h => h) HS1.out (Or.inl ⟨by rfl, ?y6⟩) ?r6
  case y6 => (intro W hS; go_simp; try with_reducible rfl)
  simp only [Act.put, List.setIfInBounds_toArray, List.set_cons_zero, List.set_cons_succ]
  refine wpH_take 7 10 (v := ?v7) rfl rfl (by kernel_rfl) (by kernel_rfl) (by kernel_rfl) (fun _ _ _ h => h) HS1.out (Or.inl ⟨by rfl, ?y7⟩) ?r7
  case y7 => (intro W hS; go_simp; try with_reducible rfl)
  simp only [Act.put, List.setIfInBounds_toArray, List.set_cons_zero, List.set_cons_succ]
  refine wpH_take 8 11 (v := .agg #[.int .i64 (p : Int), .bool n, .string s, .int .i64 (z : Int), .int .i64 (b : Int), .bool m, .int .i64 (k : Int)]) rfl rfl (by kernel_rfl) (by kernel_rfl) (by kernel_rfl) (fun _ _ _ h => h) HS1.out (Or.inl ⟨by rfl, ?y8⟩) ?r8
  case y8 =>
    intro W hS
    have HS := Lib.hid hS
    clear hS
    have x0 : W.cell? ⟨g, 0, none⟩ = some (.slice A0 xs.length c0) := HS.out.cell 0
    have x1 : W.cell? ⟨g, 1, none⟩ = some (.int .i64 (p : Int)) := HS.out.cell 1
    have x2 : W.cell? ⟨g, 2, none⟩ = some (.bool n) := HS.out.cell 2
    have x3 : W.cell? ⟨g, 3, none⟩ = some (.string s) := HS.out.cell 3
    have x4 : W.cell? ⟨g, 4, none⟩ = some (.int .i64 (z : Int)) := HS.out.cell 4
    have x5 : W.cell? ⟨g, 5, none⟩ = some (.int .i64 (b : Int)) := HS.out.cell 5
    have x6 : W.cell? ⟨g, 6, none⟩ = some (.bool m) := HS.out.cell 6
    have x7 : W.cell? ⟨g, 7, none⟩ = some (.int .i64 (k : Int)) := HS.out.cell 7
    go_simp
  case r8 =>
  simp only [Act.put, List.setIfInBounds_toArray, List.set_cons_zero, List.set_cons_succ]
  refine wpH_one 4 (by kernel_rfl) rfl (fun K hK => ?_)
  go_simp
  refine Calls.mono (clone_any base _ xs w1 HO1.out hxs) ?_
  rintro e1 w2 ⟨v2, rfl, ho2, hb2⟩
  have HS2 : Hid (Blk w2 g 46 #[.slice A0 xs.length c0, .int .i64 (p : Int), .bool n, .string s, .int .i64 (z : Int), .int .i64 (b : Int), .bool m, .int .i64 (k : Int)]) := Lib.hid (HS1.out.below hb2 HS1.out.lt)
  have HB2 : Hid (Below w.heap.size w w2) := Lib.hid (HB1.out.trans (hb2.mono HB1.out.size))
  have HO2 : Hid (U8s w2 w.heap.size v2 xs) := Lib.hid (own_lower ho2 HB1.out.size)
  obtain ⟨A2, c2, hv2, _⟩ := own_form ho2
  subst hv2
  clear ho2 hb2 HS1 HO1 HB1
  refine hK.out _ _ HS2.out ?_
  clear hK K
  try simp only [Act.put, List.getElem_toArray, List.getElem_cons_succ, List.getElem_cons_zero, List.setIfInBounds_toArray, List.set_cons_zero, List.set_cons_succ]
  refine wpH_take 9 12 (v := ?v9) rfl rfl (by kernel_rfl) (by kernel_rfl) (by kernel_rfl) (fun _ _ _ h => h) HS2.out (Or.inl ⟨by rfl, ?y9⟩) ?r9
  case y9 => (intro W hS; go_simp; try with_reducible rfl)
  simp only [Act.put, List.setIfInBounds_toArray, List.set_cons_zero, List.set_cons_succ]
  refine wpH_one 10 (by kernel_rfl) rfl (fun K hK => ?_)
  go_simp
  refine hK.out _ _ (HS2.out.alloc _) ?_
  clear hK K
  try simp only [Act.put, List.getElem_toArray, List.getElem_cons_succ, List.getElem_cons_zero, List.setIfInBounds_toArray, List.set_cons_zero, List.set_cons_succ]
  refine wpH_one 11 (by kernel_rfl) rfl (fun K hK => ?_)
  go_simp
  refine hK.out _ _ (HS2.out.alloc _) ?_
  clear hK K
  try simp only [Act.put, List.getElem_toArray, List.getElem_cons_succ, List.getElem_cons_zero, List.setIfInBounds_toArray, List.set_cons_zero, List.set_cons_succ]
  refine wpH_done (by kernel_rfl) ?_ _
  go_wp2
  go_ret
  exact ⟨_, _, rfl, HB2.out.size, Blk.new w2 _ _, own_below HO2.out ((Below.refl w2.heap.size w2).alloc (Nat.le_refl _) _) (Nat.le_refl _), HB2.out.alloc HB2.out.size _⟩
end Go.Proofs.YtiibfejgiilakaaDoor
