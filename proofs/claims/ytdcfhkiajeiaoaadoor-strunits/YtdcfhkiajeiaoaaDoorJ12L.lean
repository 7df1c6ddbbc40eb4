/- Joined of: N12PlM, N12Pls. -/
import Derived.Test.YtdcfhkiajeiaoaaDoorJ12G
import Derived.Test.YtdcfhkiajeiaoaaDoorJ12J
import Derived.Test.YtdcfhkiajeiaoaaDoorJ12K
import Derived.Test.YtdcfhkiajeiaoaaDoorJ12C
/- The program's string and the document's side by side: what stays while one of them is pushed to. -/
namespace Go.Proofs.YtdcfhkiajeiaoaaDoor
set_option maxRecDepth 100000
open Go.ChangeShapes Go.WideShapes Go.ChangeAt Go.RowKit
set_option linter.unusedVariables false
set_option linter.unusedSimpArgs false

theorem blk_ne {w : World} {a b : Nat} {t u : TypeId} {cs ds : Array Value} (h : Blk w a t cs) (k : Blk w b u ds) (ht : t ≠ u) : a ≠ b := fun e => by
  subst e
  unfold Blk at h k
  rw [h] at k
  injection k with k
  injection k with _ k
  exact ht k
/-- the program's string in block g and the document's in block a, both of what s is -/
structure PQ (w W : World) (g bb a : Nat) (sv ov bv hv : Value) (s t : Ss) : Prop where
  p : StrIs W w.heap.size g bb sv s
  r : RStr W w.heap.size a ov bv hv t
  nb : bv.ownBlock ≠ some bb
  ns : ∀ q, bv.ownBlock = some q → sv.ownBlock ≠ some q
  b : Below w.heap.size w W
theorem PQ.go {w W W' : World} {g bb a : Nat} {sv ov bv hv : Value} {s t : Ss} (h : PQ w W g bb a sv ov bv hv s t) (hb : Below W.heap.size W W') : PQ w W' g bb a sv ov bv hv s t :=
  ⟨h.p.go hb, h.r.go hb, h.nb, h.ns, h.b.trans (hb.mono h.b.size)⟩
theorem PQ.pushP {w W W' : World} {g bb a : Nat} {sv ov bv hv sv' : Value} {s t s2 : Ss} (h : PQ w W g bb a sv ov bv hv s t) (hp : StrIs W' w.heap.size g bb sv' s2) (hf : SFr g bb sv W W') (hr : RowTo W sv sv') : PQ w W' g bb a sv' ov bv hv s2 t := by
  obtain ⟨d, z, hm, _⟩ := h.p.m
  have r := h.r
  have e1 : a ≠ g := blk_ne r.blk hm.blk (by decide)
  have e2 : a ≠ bb := fun e => by
    have := rown_ne hm.beg r.blk (by decide)
    exact this (by rw [e]; rfl)
  have e3 : sv.ownBlock ≠ some a := rown_ne hm.own r.blk (by decide)
  have hbbq : (slB bb s.b.length).ownBlock = some bb := rfl
  refine ⟨hp, ⟨r.ok, r.len, (hf.block a r.blk.lt e1 e2 e3).trans r.blk, ?_, ?_, ?_, r.la⟩, h.nb, fun q hq => ?_, h.b.trans (hf.low h.b.size hm.lg hm.lb.1 (rown_low hm.own))⟩
  · exact rown_frame r.o hf (fun q hq => ⟨fun e => by rw [e] at hq; exact rown_ne r.o hm.blk (by decide) hq, fun e => by rw [e] at hq; exact rown_apart r.o hm.beg (by decide) bb hq hbbq, rown_apart r.o hm.own (by decide) q hq⟩)
  · exact rown_frame r.b hf (fun q hq => ⟨fun e => by rw [e] at hq; exact rown_ne r.b hm.blk (by decide) hq, fun e => by rw [e] at hq; exact h.nb hq, h.ns q hq⟩)
  · exact rown_frame r.h hf (fun q hq => ⟨fun e => by rw [e] at hq; exact rown_ne r.h hm.blk (by decide) hq, fun e => by rw [e] at hq; exact rown_apart r.h hm.beg (by decide) bb hq hbbq, rown_apart r.h hm.own (by decide) q hq⟩)
  · intro hq2
    rcases hr with e | e
    · rw [e] at hq2; exact h.ns q hq hq2
    · have h1 := e q hq2
      have h2 := rown_size r.b q hq
      omega
theorem PQ.pushR {w W W' : World} {g bb a : Nat} {sv ov bv hv ov' bv' hv' : Value} {s t t2 : Ss} (h : PQ w W g bb a sv ov bv hv s t) (hp : RStr W' w.heap.size a ov' bv' hv' t2) (hf : SFr a a ov W W') (hr : RowTo W bv bv') : PQ w W' g bb a sv ov' bv' hv' s t2 := by
  obtain ⟨d, z, hm, hd⟩ := h.p.m
  have r := h.r
  have e1 : g ≠ a := blk_ne hm.blk r.blk (by decide)
  have e3 : ov.ownBlock ≠ some g := rown_ne r.o hm.blk (by decide)
  have hbbq : (slB bb s.b.length).ownBlock = some bb := rfl
  refine ⟨⟨h.p.ok, h.p.len, d, z, ⟨(hf.block g hm.blk.lt e1 e1 e3).trans hm.blk, ?_, ?_, hm.ne, hm.lg⟩, hd⟩, hp, fun hq => ?_, fun q hq => ?_, h.b.trans (hf.low h.b.size r.la r.la (rown_low r.o))⟩
  · exact rown_frame hm.own hf (fun q hq => ⟨fun e => by rw [e] at hq; exact rown_ne hm.own r.blk (by decide) hq, fun e => by rw [e] at hq; exact rown_ne hm.own r.blk (by decide) hq, rown_apart hm.own r.o (by decide) q hq⟩)
  · exact rown_frame hm.beg hf (fun q hq => ⟨fun e => by rw [e] at hq; exact rown_ne hm.beg r.blk (by decide) hq, fun e => by rw [e] at hq; exact rown_ne hm.beg r.blk (by decide) hq, rown_apart hm.beg r.o (by decide) q hq⟩)
  · rcases hr with e | e
    · rw [e] at hq; exact h.nb hq
    · have h1 := e bb hq
      have h2 := hm.lb.2
      omega
  · rcases hr with e | e
    · rw [e] at hq; exact h.ns q hq
    · have h1 := e q hq
      intro hq2
      have h2 := rown_size hm.own q hq2
      omega
theorem rstr_new {w : World} {base : Nat} (hb : base ≤ w.heap.size) : RStr (w.alloc (.cells #[.slice none 0 0, .slice none 0 0, .int .i64 0, .slice none 0 0, .int .u16 0, .bool false] 30)) base w.heap.size (.slice none 0 0) (.slice none 0 0) (.slice none 0 0) ss0 :=
  ⟨sok_0, by decide, Blk.new w _ _, World.ownsRow_nil _ _ _ _, World.ownsRow_nil _ _ _ _, World.ownsRow_nil _ _ _ _, hb⟩
theorem PQ.new {w W : World} {g bb : Nat} (hn : StrIs W w.heap.size g bb (.slice none 0 0) ss0) (hb : Below w.heap.size w W) : PQ w (W.alloc (.cells #[.slice none 0 0, .slice none 0 0, .int .i64 0, .slice none 0 0, .int .u16 0, .bool false] 30)) g bb W.heap.size (.slice none 0 0) (.slice none 0 0) (.slice none 0 0) (.slice none 0 0) ss0 ss0 :=
  ⟨hn.go ((Below.refl _ _).alloc (Nat.le_refl _) _), rstr_new hb.size, by simp [Value.ownBlock], fun q hq => (by cases hq), hb.alloc hb.size _⟩
end Go.Proofs.YtdcfhkiajeiaoaaDoor

/- Printed by gen_n12pls.py. StrPlays: whatever bytes are pushed, the program's string and the document's answer alike. -/
namespace Go.Proofs.YtdcfhkiajeiaoaaDoor
set_option maxRecDepth 100000
open Go.ChangeShapes Go.WideShapes Go.ChangeAt Go.RowKit
set_option linter.unusedVariables false
set_option linter.unusedSimpArgs false

theorem u8_wf {z : List Int} (h : ∀ n ∈ z, (Lit.int .u8 n).wf = true) : ∀ x ∈ z, 0 ≤ x ∧ x ≤ 255 := fun n hn => by
  have := bounds_u8 (h n hn)
  omega
def PlL (w : World) (g bb a : Nat) (z : List Int) (i : Value) (wr : World) : Prop := ∃ (k : Nat) (s : Ss) (sv ov bv hv : Value), k ≤ z.length ∧ i = .int .i64 k ∧ s.o.length ≤ k ∧ PQ w wr g bb a sv ov bv hv s s
set_option maxHeartbeats 16000000 in
theorem plays_walk (a0 : Option Addr) (n cap : Nat) (z : List Int) (w : World) (hT : Tab w) (hn : z.length = n) (hI : Ints w w.heap.size .u8 a0 z) (hz : ∀ x ∈ z, 0 ≤ x ∧ x ≤ 255) (hm : n ≤ maxLen) :
    Calls Tryd.prog 3 #[.slice a0 n cap] w fun e w' => e = .returned (.bool true) ∧ Below w.heap.size w w' := by
  have HT := Lib.hid hT
  have HAW : Hid (∀ W, Below w.heap.size w W → Calls Tryd.prog 9 #[] W fun e w' => e = .returned (.bool true) ∧ Below W.heap.size W w') := Lib.hid (fun W hW => awake_any W (hT.below' hW))
  have HLEAD := Lib.hid hT.lt
  have HI := Lib.hid hI
  have HZ := Lib.hid hz
  have HN := Lib.hid hn
  unfold maxLen at hm
  clear hI hz hn hT
  go_enter Tryd.func3, Tryd.ntmps3
  go_wp2_with fail
  with_reducible refine (strnew_any w.heap.size w (Nat.le_refl _)).mono ?_
  rintro e1 w1 ⟨g, bb, rfl, lg, lb, hn1, hb1⟩
  have HNW := Lib.hid hn1
  have HB1 := Lib.hid hb1
  clear hn1 hb1
  by_cases hbig : 300 < n
  · have q0 : (300 : Int) < n := by omega
    have HBA : Hid (Below w.heap.size w (w1.alloc (.cells #[.slice none 0 0, .slice none 0 0, .int .i64 0, .slice none 0 0, .int .u16 0, .bool false] 30))) := Lib.hid (HB1.out.alloc HB1.out.size _)
    go_wp2_with fail
    with_reducible refine (HAW.out _ HBA.out).mono ?_
    rintro e1 w2 ⟨rfl, hb2⟩
    have HB2 := Lib.hid (HBA.out.trans (hb2.mono HBA.out.size))
    clear hb2
    go_wp2
    go_ret
    exact ⟨rfl, HB2.out⟩
  have q0 : ¬ (300 : Int) < n := by omega
  have HP0 : Hid (PQ w (w1.alloc (.cells #[.slice none 0 0, .slice none 0 0, .int .i64 0, .slice none 0 0, .int .u16 0, .bool false] 30)) g bb w1.heap.size (.slice none 0 0) (.slice none 0 0) (.slice none 0 0) (.slice none 0 0) ss0 ss0) := Lib.hid (PQ.new HNW.out HB1.out)
  clear HNW HB1
  obtain ⟨a, ha⟩ : ∃ a, w1.heap.size = a := ⟨_, rfl⟩
  rw [ha] at HP0
  go_wp2_with fail
  go_loopw [5] (fun i wr => PlL w g bb a z i wr) (fun i _ => n - (intOf i).toNat)
  case atStart => exact ⟨0, ss0, _, _, _, _, by omega, rfl, Nat.le_refl _, HP0.out⟩
  case round =>
    clear HP0
    obtain ⟨k, s, sv, ov, bv, hv, hk, rfl, hs, hpq⟩ := hrel
    have HQ := Lib.hid hpq
    have hzn := HN.out
    clear hpq
    by_cases hlt : k < n
    · have hlt' : (k : Int) < n := by omega
      obtain ⟨b, o, rfl, hbl, hcell⟩ := HI.out.at (by omega)
      have hzk := HZ.out (z.getD k 0) (by rw [List.getD_eq_getElem?_getD, List.getElem?_eq_getElem (by omega)]; exact List.getElem_mem _)
      obtain ⟨x, hx⟩ : ∃ x, z.getD k 0 = x := ⟨_, rfl⟩
      rw [hx] at hzk
      have HCELL : Hid (∀ W, Below w.heap.size w W → W.cell? ⟨b, o + k, none⟩ = some (.int .u8 x)) := Lib.hid (fun W hW => (hW.cell (p := ⟨b, o + k, none⟩) hbl).trans (by rw [← hx]; exact hcell k (by omega)))
      have kx := HCELL.out _ HQ.out.b
      have HPU := Lib.hid (strpush_any w.heap.size g bb sv s x wr HQ.out.p hzk.1 hzk.2 (HT.out.below' HQ.out.b) HLEAD.out HQ.out.b.size (by omega))
      have HRU := Lib.hid (fun W h => r_strpush_any w.heap.size a ov bv hv s x W h hzk.1 hzk.2)
      have hpl := push_len s x
      obtain ⟨ob, r, s2, hp⟩ : ∃ ob r s2, pushS s x = (ob, r, s2) := ⟨_, _, _, rfl⟩
      rw [hp] at HPU HRU hpl
      dsimp only at HPU HRU hpl
      clear hp hx hcell
      go_wp2_with fail
      with_reducible refine HPU.out.mono ?_
      rintro e w2 ⟨rfl, sv2, p1, p2, p3⟩
      have HQ2 := Lib.hid (HQ.out.pushP p1 p2 p3)
      have kx := HCELL.out _ HQ2.out.b
      clear p1 p2 p3 HQ HPU
      go_wp2_with fail
      with_reducible refine (HRU.out _ HQ2.out.r HQ2.out.b.size (by omega)).mono ?_
      rintro e w5 ⟨rfl, ov2, bv2, hv2, p1, p2, p3, p4⟩
      have HQ5 := Lib.hid (HQ2.out.pushR p1 p2 p4)
      clear p1 p2 p3 p4 HQ2 HRU kx HCELL
      obtain ⟨A0, c0, rfl, _⟩ := own_form HQ5.out.r.o
      have HLN := Lib.hid (fun W (h : PQ w W g bb a sv2 (.slice A0 s2.o.length c0) bv2 hv2 s2 s2) => strlen_any _ g bb sv2 s2 W h.p)
      have HIN := Lib.hid (fun W (h : PQ w W g bb a sv2 (.slice A0 s2.o.length c0) bv2 hv2 s2 s2) => inside_any _ g bb sv2 s2 W h.p)
      have HRI := Lib.hid (fun W (h : PQ w W g bb a sv2 (.slice A0 s2.o.length c0) bv2 hv2 s2 s2) => r_inside_any _ a _ bv2 hv2 s2 W h.r)
      have HTX := Lib.hid (fun W (h : PQ w W g bb a sv2 (.slice A0 s2.o.length c0) bv2 hv2 s2 s2) => strtext_any _ g bb sv2 s2 W h.p)
      have HRT := Lib.hid (fun W (h : PQ w W g bb a sv2 (.slice A0 s2.o.length c0) bv2 hv2 s2 s2) => r_strtext_any _ a _ bv2 hv2 s2 W h.r (by omega))
      have n1 : (ob != ob) = false := by simp
      have n2 : (r != r) = false := by simp
      have n4 : (insS s2 != insS s2) = false := by simp
      have n5 : ((strOfNums (txt s2.o)).toList == (strOfNums (txt s2.o)).toList) = true := by simp
      have hl2 : s2.o.length ≤ k + 1 := by omega
      generalize insS s2 = bi at *
      generalize strOfNums (txt s2.o) = tx at *
      go_wp2_with fail
      refine wp_region_G (by kernel_rfl) ?_
      have HQ6 := Lib.hid (HQ5.out.go ((Below.refl w5.heap.size w5).drew))
      clear HQ5
      generalize w5.drew = w6 at *
      refine wpG_take 0 49 (v := ?v0) rfl rfl (by kernel_rfl) (by kernel_rfl) (by kernel_rfl) (fun _ _ _ h => h) (Or.inl ⟨by rfl, ?y0⟩) ?r0
      case y0 => (intro W hW; (go_simp; try with_reducible rfl))
      simp only [Act.put, List.setIfInBounds_toArray, List.set_cons_zero, List.set_cons_succ]
      refine wpG_take 1 50 (v := ?v1) rfl rfl (by kernel_rfl) (by kernel_rfl) (by kernel_rfl) (fun _ _ _ h => h) (Or.inl ⟨by rfl, ?y1⟩) ?r1
      case y1 => (intro W hW; (go_simp; try with_reducible rfl))
      simp only [Act.put, List.setIfInBounds_toArray, List.set_cons_zero, List.set_cons_succ]
      refine wpG_take 2 51 (v := ?v2) rfl rfl (by kernel_rfl) (by kernel_rfl) (by kernel_rfl) (fun _ _ _ h => h) (Or.inl ⟨by rfl, ?y2⟩) ?r2
      case y2 => (intro W hW; (go_simp; try with_reducible rfl))
      simp only [Act.put, List.setIfInBounds_toArray, List.set_cons_zero, List.set_cons_succ]
      refine wpG_take 3 52 (v := ?v3) rfl rfl (by kernel_rfl) (by kernel_rfl) (by kernel_rfl) (fun _ _ _ h => h) (Or.inl ⟨by rfl, ?y3⟩) ?r3
      case y3 => (intro W hW; (go_simp; try with_reducible rfl))
      simp only [Act.put, List.setIfInBounds_toArray, List.set_cons_zero, List.set_cons_succ]
      refine wpG_take 4 53 (v := ?v4) rfl rfl (by kernel_rfl) (by kernel_rfl) (by kernel_rfl) (fun _ _ _ h => h) (Or.inl ⟨by rfl, ?y4⟩) ?r4
      case y4 => (intro W hW; (go_simp; try with_reducible rfl))
      simp only [Act.put, List.setIfInBounds_toArray, List.set_cons_zero, List.set_cons_succ]
      refine wpG_take 5 54 (v := ?v5) rfl rfl (by kernel_rfl) (by kernel_rfl) (by kernel_rfl) (fun _ _ _ h => h) (Or.inl ⟨by rfl, ?y5⟩) ?r5
      case y5 => (intro W hW; (go_simp; try with_reducible rfl))
      simp only [Act.put, List.setIfInBounds_toArray, List.set_cons_zero, List.set_cons_succ]
      refine wpG_take 6 55 (v := ?v6) rfl rfl (by kernel_rfl) (by kernel_rfl) (by kernel_rfl) (fun _ _ _ h => h) (Or.inl ⟨by rfl, ?y6⟩) ?r6
      case y6 => (intro W hW; (go_simp; try with_reducible rfl))
      simp only [Act.put, List.setIfInBounds_toArray, List.set_cons_zero, List.set_cons_succ]
      refine wpG_take 7 56 (v := ?v7) rfl rfl (by kernel_rfl) (by kernel_rfl) (by kernel_rfl) (fun _ _ _ h => h) (Or.inl ⟨by rfl, ?y7⟩) ?r7
      case y7 => (intro W hW; (go_simp; try with_reducible rfl))
      simp only [Act.put, List.setIfInBounds_toArray, List.set_cons_zero, List.set_cons_succ]
      refine wpG_take 8 57 (v := ?v8) rfl rfl (by kernel_rfl) (by kernel_rfl) (by kernel_rfl) (fun _ _ _ h => h) (Or.inl ⟨by rfl, ?y8⟩) ?r8
      case y8 => (intro W hW; (go_simp; try with_reducible rfl))
      simp only [Act.put, List.setIfInBounds_toArray, List.set_cons_zero, List.set_cons_succ]
      refine wpG_take 9 58 (v := ?v9) rfl rfl (by kernel_rfl) (by kernel_rfl) (by kernel_rfl) (fun _ _ _ h => h) (Or.inl ⟨by rfl, ?y9⟩) ?r9
      case y9 => (intro W hW; (go_simp; try with_reducible rfl))
      simp only [Act.put, List.setIfInBounds_toArray, List.set_cons_zero, List.set_cons_succ]
      refine wpG_take 11 60 (v := ?v11) rfl rfl (by kernel_rfl) (by kernel_rfl) (by kernel_rfl) (fun _ _ _ h => h) (Or.inl ⟨by rfl, ?y11⟩) ?r11
      case y11 => (intro W hW; (go_simp; try with_reducible rfl))
      simp only [Act.put, List.setIfInBounds_toArray, List.set_cons_zero, List.set_cons_succ]
      refine wpG_take 12 61 (v := ?v12) rfl rfl (by kernel_rfl) (by kernel_rfl) (by kernel_rfl) (fun _ _ _ h => h) (Or.inl ⟨by rfl, ?y12⟩) ?r12
      case y12 => (intro W hW; (go_simp; try with_reducible rfl))
      simp only [Act.put, List.setIfInBounds_toArray, List.set_cons_zero, List.set_cons_succ]
      refine wpG_take 13 62 (v := ?v13) rfl rfl (by kernel_rfl) (by kernel_rfl) (by kernel_rfl) (fun _ _ _ h => h) (Or.inl ⟨by rfl, ?y13⟩) ?r13
      case y13 => (intro W hW; (go_simp; try with_reducible rfl))
      simp only [Act.put, List.setIfInBounds_toArray, List.set_cons_zero, List.set_cons_succ]
      refine wpG_take 14 63 (v := ?v14) rfl rfl (by kernel_rfl) (by kernel_rfl) (by kernel_rfl) (fun _ _ _ h => h) (Or.inl ⟨by rfl, ?y14⟩) ?r14
      case y14 => (intro W hW; have ka : W.cell? ⟨a, 0, none⟩ = some (.slice A0 s2.o.length c0) := (HQ6.out.go hW).r.blk.cell 0; (go_simp; try with_reducible rfl))
      simp only [Act.put, List.setIfInBounds_toArray, List.set_cons_zero, List.set_cons_succ]
      refine wpG_take 15 64 (v := ?v15) rfl rfl (by kernel_rfl) (by kernel_rfl) (by kernel_rfl) (fun _ _ _ h => h) (Or.inl ⟨by rfl, ?y15⟩) ?r15
      case y15 => (intro W hW; (go_simp; try with_reducible rfl))
      simp only [Act.put, List.setIfInBounds_toArray, List.set_cons_zero, List.set_cons_succ]
      refine wpG_call 10 (by kernel_rfl) rfl (fun K hK => ?_)
      go_simp
      refine Calls.mono (HLN.out _ HQ6.out) ?_
      rintro e1 w6' ⟨rfl, rfl⟩
      refine hK.out _ _ ?_ ?_
      · exact Grow.refl _
      clear hK K
      refine wpG_take 16 65 (v := ?v16) rfl rfl (by kernel_rfl) (by kernel_rfl) (by kernel_rfl) (fun _ _ _ h => h) (Or.inl ⟨by rfl, ?y16⟩) ?r16
      case y16 => (intro W hW; (go_simp; try with_reducible rfl))
      simp only [Act.put, List.setIfInBounds_toArray, List.set_cons_zero, List.set_cons_succ]
      refine wpG_take 17 66 (v := ?v17) rfl rfl (by kernel_rfl) (by kernel_rfl) (by kernel_rfl) (fun _ _ _ h => h) (Or.inl ⟨by rfl, ?y17⟩) ?r17
      case y17 => (intro W hW; (go_simp; try with_reducible rfl))
      simp only [Act.put, List.setIfInBounds_toArray, List.set_cons_zero, List.set_cons_succ]
      refine wpG_take 18 67 (v := ?v18) rfl rfl (by kernel_rfl) (by kernel_rfl) (by kernel_rfl) (fun _ _ _ h => h) (Or.inl ⟨by rfl, ?y18⟩) ?r18
      case y18 => (intro W hW; (go_simp; try with_reducible rfl))
      simp only [Act.put, List.setIfInBounds_toArray, List.set_cons_zero, List.set_cons_succ]
      refine wpG_take 19 68 (v := ?v19) rfl rfl (by kernel_rfl) (by kernel_rfl) (by kernel_rfl) (fun _ _ _ h => h) (Or.inl ⟨by rfl, ?y19⟩) ?r19
      case y19 => (intro W hW; (go_simp; try with_reducible rfl))
      simp only [Act.put, List.setIfInBounds_toArray, List.set_cons_zero, List.set_cons_succ]
      refine wpG_take 21 70 (v := ?v21) rfl rfl (by kernel_rfl) (by kernel_rfl) (by kernel_rfl) (fun _ _ _ h => h) (Or.inl ⟨by rfl, ?y21⟩) ?r21
      case y21 => (intro W hW; (go_simp; try with_reducible rfl))
      simp only [Act.put, List.setIfInBounds_toArray, List.set_cons_zero, List.set_cons_succ]
      refine wpG_call 20 (by kernel_rfl) rfl (fun K hK => ?_)
      go_simp
      refine Calls.mono (HIN.out _ HQ6.out) ?_
      rintro e1 w6' ⟨rfl, rfl⟩
      refine hK.out _ _ ?_ ?_
      · exact Grow.refl _
      clear hK K
      refine wpG_call 22 (by kernel_rfl) rfl (fun K hK => ?_)
      go_simp
      refine Calls.mono (HRI.out _ HQ6.out) ?_
      rintro e1 w6' ⟨rfl, rfl⟩
      refine hK.out _ _ ?_ ?_
      · exact Grow.refl _
      clear hK K
      refine wpG_take 23 72 (v := ?v23) rfl rfl (by kernel_rfl) (by kernel_rfl) (by kernel_rfl) (fun _ _ _ h => h) (Or.inl ⟨by rfl, ?y23⟩) ?r23
      case y23 => (intro W hW; (go_simp; try with_reducible rfl))
      simp only [Act.put, List.setIfInBounds_toArray, List.set_cons_zero, List.set_cons_succ]
      refine wpG_take 24 73 (v := ?v24) rfl rfl (by kernel_rfl) (by kernel_rfl) (by kernel_rfl) (fun _ _ _ h => h) (Or.inl ⟨by rfl, ?y24⟩) ?r24
      case y24 => (intro W hW; (go_simp; try with_reducible rfl))
      simp only [Act.put, List.setIfInBounds_toArray, List.set_cons_zero, List.set_cons_succ]
      refine wpG_take 25 74 (v := ?v25) rfl rfl (by kernel_rfl) (by kernel_rfl) (by kernel_rfl) (fun _ _ _ h => h) (Or.inl ⟨by rfl, ?y25⟩) ?r25
      case y25 => (intro W hW; (go_simp; try with_reducible rfl))
      simp only [Act.put, List.setIfInBounds_toArray, List.set_cons_zero, List.set_cons_succ]
      refine wpG_take 26 75 (v := ?v26) rfl rfl (by kernel_rfl) (by kernel_rfl) (by kernel_rfl) (fun _ _ _ h => h) (Or.inl ⟨by rfl, ?y26⟩) ?r26
      case y26 => (intro W hW; (go_simp; try with_reducible rfl))
      simp only [Act.put, List.setIfInBounds_toArray, List.set_cons_zero, List.set_cons_succ]
      refine wpG_take 28 77 (v := ?v28) rfl rfl (by kernel_rfl) (by kernel_rfl) (by kernel_rfl) (fun _ _ _ h => h) (Or.inl ⟨by rfl, ?y28⟩) ?r28
      case y28 => (intro W hW; (go_simp; try with_reducible rfl))
      simp only [Act.put, List.setIfInBounds_toArray, List.set_cons_zero, List.set_cons_succ]
      refine wpG_call 27 (by kernel_rfl) rfl (fun K hK => ?_)
      go_simp
      refine Calls.mono (HTX.out _ HQ6.out) ?_
      rintro e1 w6' ⟨rfl, rfl⟩
      refine hK.out _ _ ?_ ?_
      · exact Grow.refl _
      clear hK K
      refine wpG_call 29 (by kernel_rfl) rfl (fun K hK => ?_)
      go_simp
      refine Calls.mono (HRT.out _ HQ6.out) ?_
      rintro e1 w7 ⟨rfl, hb7⟩
      have HQ7 := Lib.hid (HQ6.out.go hb7)
      refine hK.out _ _ ?_ ?_
      · exact hb7
      clear hK K
      refine wpG_take 30 79 (v := ?v30) rfl rfl (by kernel_rfl) (by kernel_rfl) (by kernel_rfl) (fun _ _ _ h => h) (Or.inl ⟨by rfl, ?y30⟩) ?r30
      case y30 => (intro W hW; (go_simp; try with_reducible rfl))
      simp only [Act.put, List.setIfInBounds_toArray, List.set_cons_zero, List.set_cons_succ]
      refine wpG_take 31 80 (v := ?v31) rfl rfl (by kernel_rfl) (by kernel_rfl) (by kernel_rfl) (fun _ _ _ h => h) (Or.inl ⟨by rfl, ?y31⟩) ?r31
      case y31 => (intro W hW; (go_simp; try with_reducible rfl))
      simp only [Act.put, List.setIfInBounds_toArray, List.set_cons_zero, List.set_cons_succ]
      refine wpG_done (by kernel_rfl) ?_ _
      go_wp2
      go_roundw
      case rel => exact ⟨k + 1, s2, sv2, _, bv2, hv2, by omega, by go_num, by omega, HQ7.out⟩
      case measure => simp [intOf]; omega
    · have hlt' : ¬ (k : Int) < n := by omega
      go_wp2_with fail
      with_reducible refine (HAW.out _ HQ.out.b).mono ?_
      rintro e1 w2 ⟨rfl, hb2⟩
      have HB2 := Lib.hid (HQ.out.b.trans (hb2.mono HQ.out.b.size))
      clear hb2
      go_wp2
      go_ret
      exact ⟨rfl, HB2.out⟩
end Go.Proofs.YtdcfhkiajeiaoaaDoor
