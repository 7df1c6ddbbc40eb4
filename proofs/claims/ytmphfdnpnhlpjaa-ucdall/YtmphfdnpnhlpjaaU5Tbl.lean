/- Printed by gen_u5t.py. What has been gathered, as tables. -/
import Derived.Test.YtmphfdnpnhlpjaaU5GAt
import Derived.Test.YtmphfdnpnhlpjaaReg
namespace Go.Proofs.Ytmphfdnpnhlpjaa
open Go.ChangeShapes Go.WideShapes Go.ChangeAt Go.RowKit
set_option linter.unusedVariables false
set_option linter.unusedSimpArgs false

/-- the twos, one behind the other, below block B -/
def Twos (W : World) (B : Nat) (A : Option Addr) (P : List Pr5) : Prop :=
  P = [] ∨ ∃ b, A = some ⟨b, 0, none⟩ ∧ b < B ∧ ∀ j p, P[j]? = some p → W.cell? ⟨b, j * 2, none⟩ = some (.int .i32 p.x) ∧ W.cell? ⟨b, j * 2 + 1, none⟩ = some (.int .i32 p.y)
theorem Twos.below {W W' : World} {B B' : Nat} {A : Option Addr} {P : List Pr5} (h : Twos W B A P) (hb : Below B' W W') (hB : B ≤ B') : Twos W' B A P := by
  rcases h with h | ⟨b, e, hl, hc⟩
  · exact .inl h
  · exact .inr ⟨b, e, hl, fun j p hj => ⟨(hb.cell (p := ⟨b, j * 2, none⟩) (show b < B' by omega)).trans (hc j p hj).1, (hb.cell (p := ⟨b, j * 2 + 1, none⟩) (show b < B' by omega)).trans (hc j p hj).2⟩⟩
theorem Twos.more {W : World} {B B' : Nat} {A : Option Addr} {P : List Pr5} (h : Twos W B A P) (hB : B ≤ B') : Twos W B' A P := by
  rcases h with h | ⟨b, e, hl, hc⟩
  · exact .inl h
  · exact .inr ⟨b, e, by omega, hc⟩
theorem twV_at : ∀ (P : List Pr5) (j : Nat) (p : Pr5), P[j]? = some p → (twV P)[j * 2]? = some (.int .i32 p.x) ∧ (twV P)[j * 2 + 1]? = some (.int .i32 p.y)
  | [], j, _, h => by simp at h
  | q :: r, 0, p, h => by
    simp only [List.getElem?_cons_zero, Option.some.injEq] at h
    subst h
    exact ⟨rfl, rfl⟩
  | q :: r, j + 1, p, h => by
    simp only [List.getElem?_cons_succ] at h
    obtain ⟨h1, h2⟩ := twV_at r j p h
    have e : twV (q :: r) = .int .i32 q.x :: .int .i32 q.y :: twV r := rfl
    rw [e]
    have e1 : (j + 1) * 2 = j * 2 + 1 + 1 := by omega
    have e2 : (j + 1) * 2 + 1 = j * 2 + 1 + 1 + 1 := by omega
    rw [e2, e1]
    exact ⟨by simpa using h1, by simpa using h2⟩
theorem Twos.own {W : World} {base : Nat} {A : Option Addr} {n c : Nat} {P : List Pr5} (h : W.ownsRow base 69 2 (.slice A n c) n (twV P)) : Twos W W.heap.size A P := by
  rcases h.2 with ⟨e1, e2⟩ | ⟨g, cap, cur, hv, hb, hh, hnc, hm, hcs, ht⟩
  · have hl := h.1
    cases P with
    | nil => exact .inl rfl
    | cons p r => rw [e2] at hl; simp [twV] at hl
  · have hA : A = some ⟨g, 0, none⟩ := by injection hv
    refine .inr ⟨g, hA, (h.lt g (by rw [hA]; rfl)).2, fun j p hj => ?_⟩
    obtain ⟨h1, h2⟩ := twV_at P j p hj
    have hadd : ∀ k, (⟨g, 0, none⟩ : Addr).add k = ⟨g, k, none⟩ := fun k => by unfold Addr.add; split <;> simp_all
    have c1 := h.cells (g := g) (by rw [hA]; rfl) (j * 2) _ h1
    have c2 := h.cells (g := g) (by rw [hA]; rfl) (j * 2 + 1) _ h2
    rw [hadd] at c1 c2
    exact ⟨c1, c2⟩

/-- block g holds the tables -/
structure TblIs (W : World) (B g : Nat) (C : List (Nat × Nat)) (P : List Pr5) (S : List (Nat × Nat)) (g0 g1 g2 g3 mb : Nat) (A4 : Option Addr) (cap4 k0 k1 k2 k3 : Nat) : Prop where
  low : g < B
  mlow : mb < B
  blk : Blk W g 68 #[.pointer (some ⟨g0, 0, none⟩), .pointer (some ⟨g1, 0, none⟩), .pointer (some ⟨g2, 0, none⟩), .pointer (some ⟨g3, 0, none⟩), .slice A4 P.length cap4, .map (some mb), .int .i64 C.length, .int .i64 P.length, .int .i64 S.length, .int .i64 (outs P)]
  cap : P.length ≤ cap4
  t0 : TabAt W B g0 (tab (castE C)) k0
  t1 : TabAt W B g1 (tab (castE (prI 0 P))) k1
  t2 : TabAt W B g2 (tab (castE S)) k2
  t3 : TabAt W B g3 (tab (castE (scL P))) k3
  tw : Twos W B A4 P
  map : MapIs W mb (arrV .i32) (Value.int .i32) DD (jst P).1 (jst P).2
def TblAt (W : World) (B g : Nat) (C : List (Nat × Nat)) (P : List Pr5) (S : List (Nat × Nat)) : Prop := ∃ g0 g1 g2 g3 mb A4 cap4 k0 k1 k2 k3, TblIs W B g C P S g0 g1 g2 g3 mb A4 cap4 k0 k1 k2 k3
theorem TblAt.below {W W' : World} {B B' g : Nat} {C : List (Nat × Nat)} {P : List Pr5} {S : List (Nat × Nat)} (h : TblAt W B g C P S) (hb : Below B' W W') (hB : B ≤ B') : TblAt W' B g C P S := by
  obtain ⟨g0, g1, g2, g3, mb, A4, cap4, k0, k1, k2, k3, h⟩ := h
  have h1 := h.low
  have h2 := h.mlow
  exact ⟨g0, g1, g2, g3, mb, A4, cap4, k0, k1, k2, k3, h.low, h.mlow, h.blk.below hb (by omega), h.cap, h.t0.below hb hB, h.t1.below hb hB, h.t2.below hb hB, h.t3.below hb hB, h.tw.below hb hB, h.map.below hb (by omega)⟩
theorem TblAt.more {W : World} {B B' g : Nat} {C : List (Nat × Nat)} {P : List Pr5} {S : List (Nat × Nat)} (h : TblAt W B g C P S) (hB : B ≤ B') : TblAt W B' g C P S := by
  obtain ⟨g0, g1, g2, g3, mb, A4, cap4, k0, k1, k2, k3, h⟩ := h
  have h1 := h.low
  have h2 := h.mlow
  exact ⟨g0, g1, g2, g3, mb, A4, cap4, k0, k1, k2, k3, by omega, by omega, h.blk, h.cap, h.t0.more hB, h.t1.more hB, h.t2.more hB, h.t3.more hB, h.tw.more hB, h.map⟩
def TPost (w : World) (C : List (Nat × Nat)) (P : List Pr5) (S : List (Nat × Nat)) (e : Ending) (w' : World) : Prop :=
  ∃ g, e = .returned (.pointer (some ⟨g, 0, none⟩)) ∧ TblAt w' w'.heap.size g C P S ∧ Below w.heap.size w w'

set_option maxRecDepth 100000 in
set_option maxHeartbeats 4000000 in
theorem tables_any (w : World) (gb mb base lo up : Nat) (C : List (Nat × Nat)) (P : List Pr5) (S : List (Nat × Nat)) (hG : GAt w gb mb base lo up C P S) (hC : C.length ≤ 100000000) (hP : P.length ≤ 100000000) (hS : S.length ≤ 100000000)
    (f0 : FitE (castE C)) (f1 : FitE (castE (prI 0 P))) (f2 : FitE (castE S)) (f3 : FitE (castE (scL P))) :
    Calls Try.prog 23 #[.pointer (some ⟨gb, 0, none⟩)] w (TPost w C P S) := by
  have hgb2 : Hid (gb < w.drew.heap.size) := Lib.hid hG.lt
  have hsl := scL_len P
  obtain ⟨v0, v1, v2, v3, v4, hM, hmap, hmb2, hne⟩ := hG
  have o0 : w.ownsRow base 78 2 v0 C.length (entsV (castE C)) := hM.own 0 _ rfl
  have o1 : w.ownsRow base 78 2 v1 P.length (entsV (castE (prI 0 P))) := hM.own 1 _ rfl
  have o2 : w.ownsRow base 78 2 v2 S.length (entsV (castE S)) := hM.own 2 _ rfl
  have o3 : w.ownsRow base 78 2 v3 (scL P).length (entsV (castE (scL P))) := hM.own 3 _ rfl
  have o4 : w.ownsRow base 69 2 v4 P.length (twV P) := hM.own 4 _ rfl
  obtain ⟨A0, cap0, rfl, x1, x2⟩ := own_form' o0
  obtain ⟨A1, cap1, rfl, x3, x4⟩ := own_form' o1
  obtain ⟨A2, cap2, rfl, x5, x6⟩ := own_form' o2
  obtain ⟨A3, cap3, rfl, x7, x8⟩ := own_form' o3
  obtain ⟨A4, cap4, rfl, x9, x10⟩ := own_form' o4
  have HE00 : Hid (Ents w.drew w.drew.heap.size A0 (castE C)) := Lib.hid ((Ents.own o0).below (Below.refl _ _).drew (Nat.le_refl _))
  have HE10 : Hid (Ents w.drew w.drew.heap.size A1 (castE (prI 0 P))) := Lib.hid ((Ents.own o1).below (Below.refl _ _).drew (Nat.le_refl _))
  have HE20 : Hid (Ents w.drew w.drew.heap.size A2 (castE S)) := Lib.hid ((Ents.own o2).below (Below.refl _ _).drew (Nat.le_refl _))
  have HE30 : Hid (Ents w.drew w.drew.heap.size A3 (castE (scL P))) := Lib.hid ((Ents.own o3).below (Below.refl _ _).drew (Nat.le_refl _))
  have HTW : Hid (Twos w.drew w.drew.heap.size A4 P) := Lib.hid ((Twos.own o4).below (Below.refl _ _).drew (Nat.le_refl _))
  have HMAP := Lib.hid hmap.drew
  have HLOW : Hid (Below w.heap.size w w.drew) := Lib.hid (Below.refl _ _).drew
  have HSZ : Hid (w.heap.size = w.drew.heap.size) := Lib.hid rfl
  have HFit0 := Lib.hid f0
  have HFit1 := Lib.hid f1
  have HFit2 := Lib.hid f2
  have HFit3 := Lib.hid f3
  have HL0 : Hid ((castE C).length = C.length) := Lib.hid (castE_len _)
  have HL1 : Hid ((castE (prI 0 P)).length = P.length) := Lib.hid (by rw [castE_len, prI_len])
  have HL2 : Hid ((castE S).length = S.length) := Lib.hid (castE_len _)
  have HL3 : Hid ((castE (scL P)).length = (scL P).length) := Lib.hid (castE_len _)
  have hB := hM.blk.drew
  have c0 : Hid (w.drew.cell? ⟨gb, 0, none⟩ = some (.slice A0 C.length cap0)) := Lib.hid (hB.cell 0)
  have c1 : Hid (w.drew.cell? ⟨gb, 1, none⟩ = some (.slice A1 P.length cap1)) := Lib.hid (hB.cell 1)
  have c2 : Hid (w.drew.cell? ⟨gb, 2, none⟩ = some (.slice A2 S.length cap2)) := Lib.hid (hB.cell 2)
  have c3 : Hid (w.drew.cell? ⟨gb, 3, none⟩ = some (.slice A3 (scL P).length cap3)) := Lib.hid (hB.cell 3)
  have c4 : Hid (w.drew.cell? ⟨gb, 4, none⟩ = some (.slice A4 P.length cap4)) := Lib.hid (hB.cell 4)
  have c5 : Hid (w.drew.cell? ⟨gb, 5, none⟩ = some (.map (some mb))) := Lib.hid (hB.cell 5)
  have c6 : Hid (w.drew.cell? ⟨gb, 6, none⟩ = some (.int .i64 (outs P))) := Lib.hid (hB.cell 6)
  clear hB hM hmap o0 o1 o2 o3 o4 f0 f1 f2 f3
  generalize hN0 : C.length = N0 at *
  generalize hN1 : P.length = N1 at *
  generalize hN2 : S.length = N2 at *
  generalize hN3 : (scL P).length = N3 at *
  have HN0 := Lib.hid hN0
  have HN1 := Lib.hid hN1
  have HN2 := Lib.hid hN2
  clear hN0 hN1 hN2 hN3
  go_enter Try.func23, Try.ntmps23
  go_wp2
  refine wp_region_G (by kernel_rfl) ?_
  generalize w.drew = w2 at *
  refine wpG_take 0 3 (v := ?v0) rfl rfl (by kernel_rfl) (by kernel_rfl) (by kernel_rfl) (fun _ _ _ h => h) (Or.inl ⟨by rfl, ?y0⟩) ?r0
  case y0 => (intro W hW; (go_simp; try with_reducible rfl))
  simp only [Act.put, List.setIfInBounds_toArray, List.set_cons_zero, List.set_cons_succ]
  refine wpG_take 1 4 (v := ?v1) rfl rfl (by kernel_rfl) (by kernel_rfl) (by kernel_rfl) (fun _ _ _ h => h) (Or.inl ⟨by rfl, ?y1⟩) ?r1
  case y1 => (intro W hW; (go_simp; try with_reducible rfl))
  simp only [Act.put, List.setIfInBounds_toArray, List.set_cons_zero, List.set_cons_succ]
  refine wpG_take 2 5 (v := ?v2) rfl rfl (by kernel_rfl) (by kernel_rfl) (by kernel_rfl) (fun _ _ _ h => h) (Or.inl ⟨by rfl, ?y2⟩) ?r2
  case y2 => (intro W hW; (go_simp; try with_reducible rfl))
  simp only [Act.put, List.setIfInBounds_toArray, List.set_cons_zero, List.set_cons_succ]
  refine wpG_take 3 6 (v := ?v3) rfl rfl (by kernel_rfl) (by kernel_rfl) (by kernel_rfl) (fun _ _ _ h => h) (Or.inl ⟨by rfl, ?y3⟩) ?r3
  case y3 => (intro W hW; have f0 := (hW.below.cell (p := ⟨gb, 0, none⟩) hgb2.out).trans c0.out; (go_simp; try with_reducible rfl))
  simp only [Act.put, List.setIfInBounds_toArray, List.set_cons_zero, List.set_cons_succ]
  refine wpG_take 5 8 (v := ?v5) rfl rfl (by kernel_rfl) (by kernel_rfl) (by kernel_rfl) (fun _ _ _ h => h) (Or.inl ⟨by rfl, ?y5⟩) ?r5
  case y5 => (intro W hW; (go_simp; try with_reducible rfl))
  simp only [Act.put, List.setIfInBounds_toArray, List.set_cons_zero, List.set_cons_succ]
  refine wpG_take 6 9 (v := ?v6) rfl rfl (by kernel_rfl) (by kernel_rfl) (by kernel_rfl) (fun _ _ _ h => h) (Or.inl ⟨by rfl, ?y6⟩) ?r6
  case y6 => (intro W hW; (go_simp; try with_reducible rfl))
  simp only [Act.put, List.setIfInBounds_toArray, List.set_cons_zero, List.set_cons_succ]
  refine wpG_take 7 10 (v := ?v7) rfl rfl (by kernel_rfl) (by kernel_rfl) (by kernel_rfl) (fun _ _ _ h => h) (Or.inl ⟨by rfl, ?y7⟩) ?r7
  case y7 => (intro W hW; (go_simp; try with_reducible rfl))
  simp only [Act.put, List.setIfInBounds_toArray, List.set_cons_zero, List.set_cons_succ]
  refine wpG_take 8 11 (v := ?v8) rfl rfl (by kernel_rfl) (by kernel_rfl) (by kernel_rfl) (fun _ _ _ h => h) (Or.inl ⟨by rfl, ?y8⟩) ?r8
  case y8 => (intro W hW; have f0 := (hW.below.cell (p := ⟨gb, 1, none⟩) hgb2.out).trans c1.out; (go_simp; try with_reducible rfl))
  simp only [Act.put, List.setIfInBounds_toArray, List.set_cons_zero, List.set_cons_succ]
  refine wpG_take 10 13 (v := ?v10) rfl rfl (by kernel_rfl) (by kernel_rfl) (by kernel_rfl) (fun _ _ _ h => h) (Or.inl ⟨by rfl, ?y10⟩) ?r10
  case y10 => (intro W hW; (go_simp; try with_reducible rfl))
  simp only [Act.put, List.setIfInBounds_toArray, List.set_cons_zero, List.set_cons_succ]
  refine wpG_take 11 14 (v := ?v11) rfl rfl (by kernel_rfl) (by kernel_rfl) (by kernel_rfl) (fun _ _ _ h => h) (Or.inl ⟨by rfl, ?y11⟩) ?r11
  case y11 => (intro W hW; (go_simp; try with_reducible rfl))
  simp only [Act.put, List.setIfInBounds_toArray, List.set_cons_zero, List.set_cons_succ]
  refine wpG_take 12 15 (v := ?v12) rfl rfl (by kernel_rfl) (by kernel_rfl) (by kernel_rfl) (fun _ _ _ h => h) (Or.inl ⟨by rfl, ?y12⟩) ?r12
  case y12 => (intro W hW; (go_simp; try with_reducible rfl))
  simp only [Act.put, List.setIfInBounds_toArray, List.set_cons_zero, List.set_cons_succ]
  refine wpG_take 13 16 (v := ?v13) rfl rfl (by kernel_rfl) (by kernel_rfl) (by kernel_rfl) (fun _ _ _ h => h) (Or.inl ⟨by rfl, ?y13⟩) ?r13
  case y13 => (intro W hW; have f0 := (hW.below.cell (p := ⟨gb, 2, none⟩) hgb2.out).trans c2.out; (go_simp; try with_reducible rfl))
  simp only [Act.put, List.setIfInBounds_toArray, List.set_cons_zero, List.set_cons_succ]
  refine wpG_take 15 18 (v := ?v15) rfl rfl (by kernel_rfl) (by kernel_rfl) (by kernel_rfl) (fun _ _ _ h => h) (Or.inl ⟨by rfl, ?y15⟩) ?r15
  case y15 => (intro W hW; (go_simp; try with_reducible rfl))
  simp only [Act.put, List.setIfInBounds_toArray, List.set_cons_zero, List.set_cons_succ]
  refine wpG_take 16 19 (v := ?v16) rfl rfl (by kernel_rfl) (by kernel_rfl) (by kernel_rfl) (fun _ _ _ h => h) (Or.inl ⟨by rfl, ?y16⟩) ?r16
  case y16 => (intro W hW; (go_simp; try with_reducible rfl))
  simp only [Act.put, List.setIfInBounds_toArray, List.set_cons_zero, List.set_cons_succ]
  refine wpG_take 17 20 (v := ?v17) rfl rfl (by kernel_rfl) (by kernel_rfl) (by kernel_rfl) (fun _ _ _ h => h) (Or.inl ⟨by rfl, ?y17⟩) ?r17
  case y17 => (intro W hW; (go_simp; try with_reducible rfl))
  simp only [Act.put, List.setIfInBounds_toArray, List.set_cons_zero, List.set_cons_succ]
  refine wpG_take 18 21 (v := ?v18) rfl rfl (by kernel_rfl) (by kernel_rfl) (by kernel_rfl) (fun _ _ _ h => h) (Or.inl ⟨by rfl, ?y18⟩) ?r18
  case y18 => (intro W hW; have f0 := (hW.below.cell (p := ⟨gb, 3, none⟩) hgb2.out).trans c3.out; (go_simp; try with_reducible rfl))
  simp only [Act.put, List.setIfInBounds_toArray, List.set_cons_zero, List.set_cons_succ]
  refine wpG_take 20 23 (v := ?v20) rfl rfl (by kernel_rfl) (by kernel_rfl) (by kernel_rfl) (fun _ _ _ h => h) (Or.inl ⟨by rfl, ?y20⟩) ?r20
  case y20 => (intro W hW; (go_simp; try with_reducible rfl))
  simp only [Act.put, List.setIfInBounds_toArray, List.set_cons_zero, List.set_cons_succ]
  refine wpG_take 21 24 (v := ?v21) rfl rfl (by kernel_rfl) (by kernel_rfl) (by kernel_rfl) (fun _ _ _ h => h) (Or.inl ⟨by rfl, ?y21⟩) ?r21
  case y21 => (intro W hW; (go_simp; try with_reducible rfl))
  simp only [Act.put, List.setIfInBounds_toArray, List.set_cons_zero, List.set_cons_succ]
  refine wpG_take 22 25 (v := ?v22) rfl rfl (by kernel_rfl) (by kernel_rfl) (by kernel_rfl) (fun _ _ _ h => h) (Or.inl ⟨by rfl, ?y22⟩) ?r22
  case y22 => (intro W hW; (go_simp; try with_reducible rfl))
  simp only [Act.put, List.setIfInBounds_toArray, List.set_cons_zero, List.set_cons_succ]
  refine wpG_take 23 26 (v := ?v23) rfl rfl (by kernel_rfl) (by kernel_rfl) (by kernel_rfl) (fun _ _ _ h => h) (Or.inl ⟨by rfl, ?y23⟩) ?r23
  case y23 => (intro W hW; have f0 := (hW.below.cell (p := ⟨gb, 4, none⟩) hgb2.out).trans c4.out; (go_simp; try with_reducible rfl))
  simp only [Act.put, List.setIfInBounds_toArray, List.set_cons_zero, List.set_cons_succ]
  refine wpG_take 24 27 (v := ?v24) rfl rfl (by kernel_rfl) (by kernel_rfl) (by kernel_rfl) (fun _ _ _ h => h) (Or.inl ⟨by rfl, ?y24⟩) ?r24
  case y24 => (intro W hW; (go_simp; try with_reducible rfl))
  simp only [Act.put, List.setIfInBounds_toArray, List.set_cons_zero, List.set_cons_succ]
  refine wpG_take 25 28 (v := ?v25) rfl rfl (by kernel_rfl) (by kernel_rfl) (by kernel_rfl) (fun _ _ _ h => h) (Or.inl ⟨by rfl, ?y25⟩) ?r25
  case y25 => (intro W hW; (go_simp; try with_reducible rfl))
  simp only [Act.put, List.setIfInBounds_toArray, List.set_cons_zero, List.set_cons_succ]
  refine wpG_take 26 29 (v := ?v26) rfl rfl (by kernel_rfl) (by kernel_rfl) (by kernel_rfl) (fun _ _ _ h => h) (Or.inl ⟨by rfl, ?y26⟩) ?r26
  case y26 => (intro W hW; (go_simp; try with_reducible rfl))
  simp only [Act.put, List.setIfInBounds_toArray, List.set_cons_zero, List.set_cons_succ]
  refine wpG_take 27 30 (v := ?v27) rfl rfl (by kernel_rfl) (by kernel_rfl) (by kernel_rfl) (fun _ _ _ h => h) (Or.inl ⟨by rfl, ?y27⟩) ?r27
  case y27 => (intro W hW; have f0 := (hW.below.cell (p := ⟨gb, 5, none⟩) hgb2.out).trans c5.out; (go_simp; try with_reducible rfl))
  simp only [Act.put, List.setIfInBounds_toArray, List.set_cons_zero, List.set_cons_succ]
  refine wpG_take 28 31 (v := ?v28) rfl rfl (by kernel_rfl) (by kernel_rfl) (by kernel_rfl) (fun _ _ _ h => h) (Or.inl ⟨by rfl, ?y28⟩) ?r28
  case y28 => (intro W hW; (go_simp; try with_reducible rfl))
  simp only [Act.put, List.setIfInBounds_toArray, List.set_cons_zero, List.set_cons_succ]
  refine wpG_take 29 32 (v := ?v29) rfl rfl (by kernel_rfl) (by kernel_rfl) (by kernel_rfl) (fun _ _ _ h => h) (Or.inl ⟨by rfl, ?y29⟩) ?r29
  case y29 => (intro W hW; (go_simp; try with_reducible rfl))
  simp only [Act.put, List.setIfInBounds_toArray, List.set_cons_zero, List.set_cons_succ]
  refine wpG_take 30 33 (v := ?v30) rfl rfl (by kernel_rfl) (by kernel_rfl) (by kernel_rfl) (fun _ _ _ h => h) (Or.inl ⟨by rfl, ?y30⟩) ?r30
  case y30 => (intro W hW; (go_simp; try with_reducible rfl))
  simp only [Act.put, List.setIfInBounds_toArray, List.set_cons_zero, List.set_cons_succ]
  refine wpG_take 31 34 (v := ?v31) rfl rfl (by kernel_rfl) (by kernel_rfl) (by kernel_rfl) (fun _ _ _ h => h) (Or.inl ⟨by rfl, ?y31⟩) ?r31
  case y31 => (intro W hW; have f0 := (hW.below.cell (p := ⟨gb, 0, none⟩) hgb2.out).trans c0.out; (go_simp; try with_reducible rfl))
  simp only [Act.put, List.setIfInBounds_toArray, List.set_cons_zero, List.set_cons_succ]
  refine wpG_take 32 35 (v := ?v32) rfl rfl (by kernel_rfl) (by kernel_rfl) (by kernel_rfl) (fun _ _ _ h => h) (Or.inl ⟨by rfl, ?y32⟩) ?r32
  case y32 => (intro W hW; (go_simp; try with_reducible rfl))
  simp only [Act.put, List.setIfInBounds_toArray, List.set_cons_zero, List.set_cons_succ]
  refine wpG_take 33 36 (v := ?v33) rfl rfl (by kernel_rfl) (by kernel_rfl) (by kernel_rfl) (fun _ _ _ h => h) (Or.inl ⟨by rfl, ?y33⟩) ?r33
  case y33 => (intro W hW; (go_simp; try with_reducible rfl))
  simp only [Act.put, List.setIfInBounds_toArray, List.set_cons_zero, List.set_cons_succ]
  refine wpG_take 34 37 (v := ?v34) rfl rfl (by kernel_rfl) (by kernel_rfl) (by kernel_rfl) (fun _ _ _ h => h) (Or.inl ⟨by rfl, ?y34⟩) ?r34
  case y34 => (intro W hW; (go_simp; try with_reducible rfl))
  simp only [Act.put, List.setIfInBounds_toArray, List.set_cons_zero, List.set_cons_succ]
  refine wpG_take 35 38 (v := ?v35) rfl rfl (by kernel_rfl) (by kernel_rfl) (by kernel_rfl) (fun _ _ _ h => h) (Or.inl ⟨by rfl, ?y35⟩) ?r35
  case y35 => (intro W hW; (go_simp; try with_reducible rfl))
  simp only [Act.put, List.setIfInBounds_toArray, List.set_cons_zero, List.set_cons_succ]
  refine wpG_take 36 39 (v := ?v36) rfl rfl (by kernel_rfl) (by kernel_rfl) (by kernel_rfl) (fun _ _ _ h => h) (Or.inl ⟨by rfl, ?y36⟩) ?r36
  case y36 => (intro W hW; have f0 := (hW.below.cell (p := ⟨gb, 1, none⟩) hgb2.out).trans c1.out; (go_simp; try with_reducible rfl))
  simp only [Act.put, List.setIfInBounds_toArray, List.set_cons_zero, List.set_cons_succ]
  refine wpG_take 37 40 (v := ?v37) rfl rfl (by kernel_rfl) (by kernel_rfl) (by kernel_rfl) (fun _ _ _ h => h) (Or.inl ⟨by rfl, ?y37⟩) ?r37
  case y37 => (intro W hW; (go_simp; try with_reducible rfl))
  simp only [Act.put, List.setIfInBounds_toArray, List.set_cons_zero, List.set_cons_succ]
  refine wpG_take 38 41 (v := ?v38) rfl rfl (by kernel_rfl) (by kernel_rfl) (by kernel_rfl) (fun _ _ _ h => h) (Or.inl ⟨by rfl, ?y38⟩) ?r38
  case y38 => (intro W hW; (go_simp; try with_reducible rfl))
  simp only [Act.put, List.setIfInBounds_toArray, List.set_cons_zero, List.set_cons_succ]
  refine wpG_take 39 42 (v := ?v39) rfl rfl (by kernel_rfl) (by kernel_rfl) (by kernel_rfl) (fun _ _ _ h => h) (Or.inl ⟨by rfl, ?y39⟩) ?r39
  case y39 => (intro W hW; (go_simp; try with_reducible rfl))
  simp only [Act.put, List.setIfInBounds_toArray, List.set_cons_zero, List.set_cons_succ]
  refine wpG_take 40 43 (v := ?v40) rfl rfl (by kernel_rfl) (by kernel_rfl) (by kernel_rfl) (fun _ _ _ h => h) (Or.inl ⟨by rfl, ?y40⟩) ?r40
  case y40 => (intro W hW; (go_simp; try with_reducible rfl))
  simp only [Act.put, List.setIfInBounds_toArray, List.set_cons_zero, List.set_cons_succ]
  refine wpG_take 41 44 (v := ?v41) rfl rfl (by kernel_rfl) (by kernel_rfl) (by kernel_rfl) (fun _ _ _ h => h) (Or.inl ⟨by rfl, ?y41⟩) ?r41
  case y41 => (intro W hW; have f0 := (hW.below.cell (p := ⟨gb, 2, none⟩) hgb2.out).trans c2.out; (go_simp; try with_reducible rfl))
  simp only [Act.put, List.setIfInBounds_toArray, List.set_cons_zero, List.set_cons_succ]
  refine wpG_take 42 45 (v := ?v42) rfl rfl (by kernel_rfl) (by kernel_rfl) (by kernel_rfl) (fun _ _ _ h => h) (Or.inl ⟨by rfl, ?y42⟩) ?r42
  case y42 => (intro W hW; (go_simp; try with_reducible rfl))
  simp only [Act.put, List.setIfInBounds_toArray, List.set_cons_zero, List.set_cons_succ]
  refine wpG_take 43 46 (v := ?v43) rfl rfl (by kernel_rfl) (by kernel_rfl) (by kernel_rfl) (fun _ _ _ h => h) (Or.inl ⟨by rfl, ?y43⟩) ?r43
  case y43 => (intro W hW; (go_simp; try with_reducible rfl))
  simp only [Act.put, List.setIfInBounds_toArray, List.set_cons_zero, List.set_cons_succ]
  refine wpG_take 44 47 (v := ?v44) rfl rfl (by kernel_rfl) (by kernel_rfl) (by kernel_rfl) (fun _ _ _ h => h) (Or.inl ⟨by rfl, ?y44⟩) ?r44
  case y44 => (intro W hW; (go_simp; try with_reducible rfl))
  simp only [Act.put, List.setIfInBounds_toArray, List.set_cons_zero, List.set_cons_succ]
  refine wpG_take 45 48 (v := ?v45) rfl rfl (by kernel_rfl) (by kernel_rfl) (by kernel_rfl) (fun _ _ _ h => h) (Or.inl ⟨by rfl, ?y45⟩) ?r45
  case y45 => (intro W hW; (go_simp; try with_reducible rfl))
  simp only [Act.put, List.setIfInBounds_toArray, List.set_cons_zero, List.set_cons_succ]
  refine wpG_take 46 49 (v := ?v46) rfl rfl (by kernel_rfl) (by kernel_rfl) (by kernel_rfl) (fun _ _ _ h => h) (Or.inl ⟨by rfl, ?y46⟩) ?r46
  case y46 => (intro W hW; have f0 := (hW.below.cell (p := ⟨gb, 6, none⟩) hgb2.out).trans c6.out; (go_simp; try with_reducible rfl))
  simp only [Act.put, List.setIfInBounds_toArray, List.set_cons_zero, List.set_cons_succ]
  refine wpG_take 47 50 (v := ?v47) rfl rfl (by kernel_rfl) (by kernel_rfl) (by kernel_rfl) (fun _ _ _ h => h) (Or.inl ⟨by rfl, ?y47⟩) ?r47
  case y47 => (intro W hW; (go_simp; try with_reducible rfl))
  simp only [Act.put, List.setIfInBounds_toArray, List.set_cons_zero, List.set_cons_succ]
  refine wpG_call 4 (by kernel_rfl) rfl (fun K hK => ?_)
  go_simp
  refine (build_any w2 A0 N0 cap0 (castE C) HL0.out (by omega) HE00.out HFit0.out).mono ?_
  rintro e wa ⟨g0, U0, rfl, hd0, ht0, hb0⟩
  refine hK.out _ _ ?_ ?_
  · exact hb0
  clear hK K
  have HB0 := Lib.hid hb0
  have HT00 := Lib.hid ht0
  have HE11 := Lib.hid ((HE10.out.below hb0 (Nat.le_refl _)).more hb0.size)
  clear HE10
  have HE21 := Lib.hid ((HE20.out.below hb0 (Nat.le_refl _)).more hb0.size)
  clear HE20
  have HE31 := Lib.hid ((HE30.out.below hb0 (Nat.le_refl _)).more hb0.size)
  clear HE30
  clear hd0 ht0 hb0
  refine wpG_call 9 (by kernel_rfl) rfl (fun K hK => ?_)
  go_simp
  refine (build_any wa A1 N1 cap1 (castE (prI 0 P)) HL1.out (by omega) HE11.out HFit1.out).mono ?_
  rintro e wb ⟨g1, U1, rfl, hd1, ht1, hb1⟩
  refine hK.out _ _ ?_ ?_
  · exact hb1
  clear hK K
  have HB1 := Lib.hid hb1
  have HT01 := Lib.hid ((HT00.out.below hb1 (Nat.le_refl _)).more hb1.size)
  clear HT00
  have HT11 := Lib.hid ht1
  have HE22 := Lib.hid ((HE21.out.below hb1 (Nat.le_refl _)).more hb1.size)
  clear HE21
  have HE32 := Lib.hid ((HE31.out.below hb1 (Nat.le_refl _)).more hb1.size)
  clear HE31
  clear hd1 ht1 hb1
  refine wpG_call 14 (by kernel_rfl) rfl (fun K hK => ?_)
  go_simp
  refine (build_any wb A2 N2 cap2 (castE S) HL2.out (by omega) HE22.out HFit2.out).mono ?_
  rintro e wc ⟨g2, U2, rfl, hd2, ht2, hb2⟩
  refine hK.out _ _ ?_ ?_
  · exact hb2
  clear hK K
  have HB2 := Lib.hid hb2
  have HT02 := Lib.hid ((HT01.out.below hb2 (Nat.le_refl _)).more hb2.size)
  clear HT01
  have HT12 := Lib.hid ((HT11.out.below hb2 (Nat.le_refl _)).more hb2.size)
  clear HT11
  have HT22 := Lib.hid ht2
  have HE33 := Lib.hid ((HE32.out.below hb2 (Nat.le_refl _)).more hb2.size)
  clear HE32
  clear hd2 ht2 hb2
  refine wpG_call 19 (by kernel_rfl) rfl (fun K hK => ?_)
  go_simp
  refine (build_any wc A3 N3 cap3 (castE (scL P)) HL3.out (by omega) HE33.out HFit3.out).mono ?_
  rintro e wd ⟨g3, U3, rfl, hd3, ht3, hb3⟩
  refine hK.out _ _ ?_ ?_
  · exact hb3
  clear hK K
  have HB3 := Lib.hid hb3
  have HT03 := Lib.hid ((HT02.out.below hb3 (Nat.le_refl _)).more hb3.size)
  clear HT02
  have HT13 := Lib.hid ((HT12.out.below hb3 (Nat.le_refl _)).more hb3.size)
  clear HT12
  have HT23 := Lib.hid ((HT22.out.below hb3 (Nat.le_refl _)).more hb3.size)
  clear HT22
  have HT33 := Lib.hid ht3
  clear hd3 ht3 hb3
  refine wpG_take 48 51 (v := ?v48) rfl rfl (by kernel_rfl) (by kernel_rfl) (by kernel_rfl) (fun _ _ _ h => h) (Or.inl ⟨by rfl, ?y48⟩) ?r48
  case y48 => (intro W hW; (go_simp; try with_reducible rfl))
  simp only [Act.put, List.setIfInBounds_toArray, List.set_cons_zero, List.set_cons_succ]
  refine wpG_call 49 (by kernel_rfl) rfl (fun K hK => ?_)
  go_simp
  refine hK.out _ _ ?_ ?_
  · exact (Below.refl _ _).alloc (Nat.le_refl _) _
  clear hK K
  refine wpG_take 50 2 (v := ?v50) rfl rfl (by kernel_rfl) (by kernel_rfl) (by kernel_rfl) (fun _ _ _ h => h) (Or.inl ⟨by rfl, ?y50⟩) ?r50
  case y50 => (intro W hW; (go_simp; try with_reducible rfl))
  simp only [Act.put, List.setIfInBounds_toArray, List.set_cons_zero, List.set_cons_succ]
  refine wpG_done (by kernel_rfl) ?_ _

  go_wp2
  go_ret
  have hb01 := Grow.trans HB0.out HB1.out
  have hb02 := hb01.trans HB2.out
  have hb03 := hb02.trans HB3.out
  have hb04 : Below wd.heap.size wd (wd.alloc (.cells #[.pointer (some ⟨g0, 0, none⟩), .pointer (some ⟨g1, 0, none⟩), .pointer (some ⟨g2, 0, none⟩), .pointer (some ⟨g3, 0, none⟩), .slice A4 N1 cap4, .map (some mb), .int .i64 N0, .int .i64 N1, .int .i64 N2, .int .i64 (outs P)] 68)) := (Below.refl _ _).alloc (Nat.le_refl _) _
  have hb05 := hb03.trans hb04
  have hml := HMAP.out.lt
  have hms := hb05.below.size
  refine ⟨wd.heap.size, rfl, ⟨g0, g1, g2, g3, mb, A4, cap4, _, _, _, _, by simp, by omega, ?_, by rw [HN1.out]; exact x9, (HT03.out.below hb04 (Nat.le_refl _)).more hb04.size, (HT13.out.below hb04 (Nat.le_refl _)).more hb04.size, (HT23.out.below hb04 (Nat.le_refl _)).more hb04.size, (HT33.out.below hb04 (Nat.le_refl _)).more hb04.size, (HTW.out.below hb05 (Nat.le_refl _)).more hms, HMAP.out.below hb05 hml⟩, HLOW.out.trans (by rw [HSZ.out]; exact hb05)⟩
  rw [HN0.out, HN1.out, HN2.out]
  exact Blk.new _ _ _
end Go.Proofs.Ytmphfdnpnhlpjaa
