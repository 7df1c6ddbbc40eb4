/- What the tables are asked: Class, Pair, Single, Joined, Second, Counts by contracts. -/
import Derived.Test.YtmphfdnpnhlpjaaU5Tbl
import Derived.Test.YtmphfdnpnhlpjaaU5Look
namespace Go.Proofs.Ytmphfdnpnhlpjaa
open Go.ChangeShapes Go.WideShapes Go.ChangeAt Go.RowKit
set_option linter.unusedVariables false
set_option linter.unusedSimpArgs false

/-- numbers that are small, places that are places -/
structure Fine (C : List (Nat × Nat)) (P : List Pr5) (S : List (Nat × Nat)) : Prop where
  c : ∀ e ∈ C, e.1 ≤ 1114111 ∧ e.2 ≤ 100000000
  p : ∀ e ∈ P, e.c ≤ 1114111 ∧ e.x ≤ 1114111 ∧ e.y ≤ 1114111
  s : ∀ e ∈ S, e.1 ≤ 1114111 ∧ e.2 ≤ 1114111
  len : P.length ≤ 100000000
theorem tab_castE_bd {l : List (Nat × Nat)} {m : Nat} (h : ∀ e ∈ l, e.2 ≤ m) (c : Int) : 0 ≤ tab (castE l) c ∧ tab (castE l) c ≤ m := by
  refine tab_fits (p := fun x => 0 ≤ x ∧ x ≤ (m : Int)) ⟨by omega, by omega⟩ (castE l) (fun e he => ?_) c
  unfold castE at he
  obtain ⟨x, hx, rfl⟩ := List.mem_map.1 he
  have := h x hx
  dsimp only
  omega
theorem tkv5 : Kv Try.prog 69 (arrV .i32) DD := arr_kv laidOut4 (of_decide_eq_true (by kernel_rfl)) ts4 Try.underlying69 Try.underlying21 (by kernel_rfl) (by kernel_rfl) (by kernel_rfl)
theorem zero_i32 (w : World) : (zeroValue 21).run Try.prog w = .ok (.int .i32 0) w := by kernel_rfl
section
variable {w : World} {B g : Nat} {C : List (Nat × Nat)} {P : List Pr5} {S : List (Nat × Nat)}

theorem classQ (hT : TblAt w B g C P S) (c : Int) : Calls Try.prog 12 #[.pointer (some ⟨g, 0, none⟩), .int .i32 c] w fun e w' => e = .returned (.int .i64 (tab (castE C) c)) ∧ Still w w' := by
  obtain ⟨g0, g1, g2, g3, mb, A4, cap4, k0, k1, k2, k3, h⟩ := hT
  have c0 : w.cell? ⟨g, 0, none⟩ = some (.pointer (some ⟨g0, 0, none⟩)) := h.blk.cell 0
  have HG := Lib.hid (get_any c _ g0 B k0 w (fun c hc => tab_out _ c (.inl hc)) h.t0)
  clear h
  go_enter Try.func12, Try.ntmps12
  go_wp2_with fail
  with_reducible refine HG.out.mono ?_
  rintro e w' ⟨rfl, hs⟩
  go_wp2
  go_ret
  exact ⟨rfl, hs⟩

theorem secondQ (hT : TblAt w B g C P S) (c : Int) : Calls Try.prog 13 #[.pointer (some ⟨g, 0, none⟩), .int .i32 c] w fun e w' => e = .returned (.bool (tab (castE (scL P)) c != 0)) ∧ Still w w' := by
  obtain ⟨g0, g1, g2, g3, mb, A4, cap4, k0, k1, k2, k3, h⟩ := hT
  have c0 : w.cell? ⟨g, 3, none⟩ = some (.pointer (some ⟨g3, 0, none⟩)) := h.blk.cell 3
  have HG := Lib.hid (get_any c _ g3 B k3 w (fun c hc => tab_out _ c (.inl hc)) h.t3)
  clear h
  generalize tab (castE (scL P)) c = v at *
  go_enter Try.func13, Try.ntmps13
  go_wp2_with fail
  with_reducible refine HG.out.mono ?_
  rintro e w' ⟨rfl, hs⟩
  go_wp2
  go_ret
  exact ⟨rfl, hs⟩

theorem singleQ (hT : TblAt w B g C P S) (hf : Fine C P S) (c : Int) : Calls Try.prog 11 #[.pointer (some ⟨g, 0, none⟩), .int .i32 c] w fun e w' => e = .returned (.tuple #[.int .i32 (tab (castE S) c), .bool (tab (castE S) c != 0)]) ∧ Still w w' := by
  obtain ⟨g0, g1, g2, g3, mb, A4, cap4, k0, k1, k2, k3, h⟩ := hT
  have c0 : w.cell? ⟨g, 2, none⟩ = some (.pointer (some ⟨g2, 0, none⟩)) := h.blk.cell 2
  have HG := Lib.hid (get_any c _ g2 B k2 w (fun c hc => tab_out _ c (.inl hc)) h.t2)
  obtain ⟨v0, v1⟩ := tab_castE_bd (m := 1114111) (fun e he => (hf.s e he).2) c
  have v1 : tab (castE S) c ≤ 1114111 := by omega
  clear h hf
  generalize tab (castE S) c = v at *
  go_enter Try.func11, Try.ntmps11
  go_wp2_with fail
  with_reducible refine HG.out.mono ?_
  rintro e w' ⟨rfl, hs⟩
  go_wp2
  go_ret2
  exact ⟨rfl, hs⟩

theorem countsQ (hT : TblAt w B g C P S) : Calls Try.prog 25 #[.pointer (some ⟨g, 0, none⟩)] w fun e w' => e = .returned (.agg #[.int .i64 C.length, .int .i64 P.length, .int .i64 S.length, .int .i64 (outs P)]) ∧ Below w.heap.size w w' := by
  obtain ⟨g0, g1, g2, g3, mb, A4, cap4, k0, k1, k2, k3, h⟩ := hT
  have c6 : w.cell? ⟨g, 6, none⟩ = some (.int .i64 C.length) := h.blk.cell 6
  have c7 : w.cell? ⟨g, 7, none⟩ = some (.int .i64 P.length) := h.blk.cell 7
  have c8 : w.cell? ⟨g, 8, none⟩ = some (.int .i64 S.length) := h.blk.cell 8
  have c9 : w.cell? ⟨g, 9, none⟩ = some (.int .i64 (outs P)) := h.blk.cell 9
  have hl := h.blk.lt
  clear h
  generalize C.length = n0 at *
  generalize P.length = n1 at *
  generalize S.length = n2 at *
  generalize outs P = n3 at *
  go_enter Try.func25, Try.ntmps25
  go_wp2
  refine bodyPost_ret (v := .agg #[.int .i64 n0, .int .i64 n1, .int .i64 n2, .int .i64 n3]) (by simp [results, Try.results25, go_sem]) rfl ⟨rfl, ?_⟩
  exact (Below.refl _ _).alloc (Nat.le_refl _) _

theorem joinedQ (hT : TblAt w B g C P S) (a b : Int) (ha : (Lit.int .i32 a).wf = true) (hb : (Lit.int .i32 b).wf = true) : Calls Try.prog 15 #[.pointer (some ⟨g, 0, none⟩), .int .i32 a, .int .i32 b] w fun e w' => e = .returned (.tuple #[.int .i32 (if [a, b] ∈ (jst P).1 then (jst P).2 [a, b] else 0), .bool (decide ([a, b] ∈ (jst P).1))]) ∧ w = w' := by
  obtain ⟨g0, g1, g2, g3, mb, A4, cap4, k0, k1, k2, k3, h⟩ := hT
  have c0 : w.cell? ⟨g, 5, none⟩ = some (.map (some mb)) := h.blk.cell 5
  have HM := Lib.hid h.map
  have HD : Hid (DD [a, b]) := Lib.hid ⟨rfl, fun x hx => by
    simp only [List.mem_cons, List.not_mem_nil, or_false] at hx
    rcases hx with rfl | rfl
    · exact ha
    · exact hb⟩
  clear h ha hb
  generalize hr : (if [a, b] ∈ (jst P).1 then (jst P).2 [a, b] else 0) = r
  generalize hk : decide ([a, b] ∈ (jst P).1) = k
  have HR := Lib.hid hr
  have HK := Lib.hid hk
  clear hr hk
  go_enter Try.func15, Try.ntmps15
  go_wp2_with (at_lookup; refine wpList_mlook rfl _ _ 49 true rfl 69 21 tkv5 Try.underlying49 (zero_i32 _) mb rfl HM.out [a, b] rfl HD.out (.tuple #[.int .i32 r, .bool k]) (by rw [← HR.out, ← HK.out]; by_cases hm : [a, b] ∈ (jst P).1 <;> simp [hm]) ?_)
  go_ret2
  exact ⟨rfl, rfl⟩

theorem pairQ (hT : TblAt w B g C P S) (hf : Fine C P S) (c : Int) : Calls Try.prog 10 #[.pointer (some ⟨g, 0, none⟩), .int .i32 c] w fun e w' => e = .returned (.tuple #[.int .i32 (pxF P c), .int .i32 (pyF P c), .bool (pkF P c)]) ∧ Below w.heap.size w w' := by
  obtain ⟨g0, g1, g2, g3, mb, A4, cap4, k0, k1, k2, k3, h⟩ := hT
  have c0 : w.cell? ⟨g, 1, none⟩ = some (.pointer (some ⟨g1, 0, none⟩)) := h.blk.cell 1
  have HG := Lib.hid (get_any c _ g1 B k1 w (fun c hc => tab_out _ c (.inl hc)) h.t1)
  rcases pair_tab P (fun p hp => (hf.p p hp).1) c with ⟨h1, h2⟩ | ⟨i, p, h1, h2, h3⟩
  · have e1 : pxF P c = 0 := by unfold pxF; rw [h1]; rfl
    have e2 : pyF P c = 0 := by unfold pyF; rw [h1]; rfl
    have e3 : pkF P c = false := by unfold pkF; rw [h1]; rfl
    rw [e1, e2, e3]
    rw [h2] at HG
    clear h hf e1 e2 e3 h1 h2
    go_enter Try.func10, Try.ntmps10
    go_wp2_with fail
    with_reducible refine HG.out.mono ?_
    rintro e w' ⟨rfl, hs⟩
    go_wp2
    refine bodyPost_ret (v := .tuple #[.int .i32 0, .int .i32 0, .bool false]) (by simp [results, Try.results10, go_sem]) rfl ⟨rfl, hs.below⟩
  · have e1 : pxF P c = p.x := by unfold pxF; rw [h1]; rfl
    have e2 : pyF P c = p.y := by unfold pyF; rw [h1]; rfl
    have e3 : pkF P c = true := by unfold pkF; rw [h1]; rfl
    rw [e1, e2, e3]
    rw [h3] at HG
    have hi : i < P.length := (List.getElem?_eq_some_iff.1 h2).1
    have hlen := hf.len
    have hcap := h.cap
    have c4 : w.cell? ⟨g, 4, none⟩ = some (.slice A4 P.length cap4) := h.blk.cell 4
    obtain ⟨b, rfl, hbl, hcc⟩ : ∃ b, A4 = some ⟨b, 0, none⟩ ∧ b < B ∧ ∀ j p, P[j]? = some p → w.cell? ⟨b, j * 2, none⟩ = some (.int .i32 p.x) ∧ w.cell? ⟨b, j * 2 + 1, none⟩ = some (.int .i32 p.y) := by
      rcases h.tw with h | h
      · rw [h] at hi; cases hi
      · exact h
    obtain ⟨cx, cy⟩ := hcc i p h2
    clear h hf e1 e2 e3 h1 h2 hcc h3
    generalize P.length = n at *
    have t1 : (0 : Int) ≤ i := by omega
    have t2 : (i : Int) + 1 ≤ 100000000 := by omega
    have t3 : (((i : Int) + 1) == 0) = false := by simp; omega
    have t4 : (i : Int) < n := by omega
    go_enter Try.func10, Try.ntmps10
    go_wp2_with fail
    with_reducible refine HG.out.mono ?_
    rintro e w' ⟨rfl, hs⟩
    have c4' : w'.cell? ⟨g, 4, none⟩ = _ := (hs.cell _).trans c4
    have cx' : w'.cell? ⟨b, i * 2, none⟩ = _ := (hs.cell _).trans cx
    have cy' : w'.cell? ⟨b, i * 2 + 1, none⟩ = _ := (hs.cell _).trans cy
    go_wp2
    go_quiet (fail)
    go_wp2
    refine bodyPost_ret (v := .tuple #[.int .i32 p.x, .int .i32 p.y, .bool true]) (by simp [results, Try.results10, go_sem]) rfl ⟨rfl, ?_⟩
    exact below_drewN' ((hs.below).alloc (by obtain ⟨m, rfl⟩ := hs; exact Nat.le_refl _) _) _
end
end Go.Proofs.Ytmphfdnpnhlpjaa
