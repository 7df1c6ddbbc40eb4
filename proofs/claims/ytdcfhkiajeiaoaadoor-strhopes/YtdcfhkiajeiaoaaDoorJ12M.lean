/- Joined of: R12M, R12R, N12Hop. -/
import Derived.Test.YtdcfhkiajeiaoaaDoorJ12J
import Derived.Test.YtdcfhkiajeiaoaaDoorJ12G
import Derived.Test.YtdcfhkiajeiaoaaDoorJ12L
import Derived.Test.YtdcfhkiajeiaoaaDoorJ12K
import Derived.Test.YtdcfhkiajeiaoaaDoorJ12C
/- The document's string: what brings it to its end. -/
namespace Go.Proofs.YtdcfhkiajeiaoaaDoor
set_option maxRecDepth 100000
open Go.ChangeShapes Go.WideShapes Go.ChangeAt Go.RowKit
set_option linter.unusedVariables false
set_option linter.unusedSimpArgs false

/-- a string with these bytes -/
def TxtRes (l : List Int) (w : World) (e : Ending) (w' : World) : Prop := ∃ t, e = .returned (.string t) ∧ N8 t = l ∧ Below w.heap.size w w'
theorem N8_app (a b : ByteArray) : N8 (a ++ b) = N8 a ++ N8 b := by unfold N8; rw [L8_app, List.map_append]
theorem N8_from (s : ByteArray) (k : Nat) : N8 (s.extract k s.size) = (N8 s).drop k := by
  unfold N8
  rw [L8_cut, ← List.map_drop]
  congr 1
  exact List.take_of_length_le (by rw [List.length_drop, L8_len]; exact Nat.le_refl _)
theorem N8_nums {l : List Int} (h : Bts l) : N8 (strOfNums l) = l := by
  unfold N8
  have e : L8 (strOfNums l) = l.map fun n => UInt8.ofNat n.toNat := by unfold strOfNums L8; simp
  rw [e, List.map_map]
  conv => rhs; rw [← List.map_id l]
  apply List.map_congr_left
  intro x hx
  have := h x hx
  simp only [Function.comp]
  rw [UInt8.toNat_ofNat', Nat.mod_eq_of_lt (by omega)]
  show ((x.toNat : Nat) : Int) = x
  omega
abbrev pairT : ByteArray := ⟨#[92, 117, 100, 99, 48, 48, 34]⟩
theorem r_pair_any (base a : Nat) (ov bv hv : Value) (s : Ss) (w : World) (h : RStr w base a ov bv hv s) :
    Calls Tryd.prog 40 #[.pointer (some ⟨a, 0, none⟩)] w (TxtRes (pairL.drop (if s.e = 0 then 0 else if s.e = 1 then 1 else 2 + s.h.length)) w) := by
  have c2 : w.cell? ⟨a, 2, none⟩ = some (.int .i64 s.e) := h.blk.cell 2
  have hlt : a < w.heap.size := h.blk.lt
  have he2 := h.ok.e
  have hl3 := h.ok.h
  obtain ⟨A1, cb, hhv, _⟩ := own_form h.h
  have c3 : w.cell? ⟨a, 3, none⟩ = some (.slice A1 s.h.length cb) := by rw [← hhv]; exact h.blk.cell 3
  have hes : s.e = 0 ∨ s.e = 1 ∨ s.e = 2 := by omega
  have HFIN : Hid (∀ k, TxtRes (pairL.drop k) w (.returned (.string (pairT.extract k 7))) w) := Lib.hid (fun k => ⟨_, rfl, N8_from pairT k, Below.refl _ _⟩)
  clear h hhv
  generalize s.h.length = m at *
  rcases hes with he | he | he <;> rw [he] at c2 ⊢
  · go_enter Tryd.func40, Tryd.ntmps40
    go_wp2
    go_ret
    exact HFIN.out 0
  · go_enter Tryd.func40, Tryd.ntmps40
    go_wp2
    go_ret
    exact HFIN.out 1
  · have hm : m = 0 ∨ m = 1 ∨ m = 2 ∨ m = 3 := by omega
    rcases hm with rfl | rfl | rfl | rfl
    · go_enter Tryd.func40, Tryd.ntmps40
      go_wp2
      go_ret
      exact HFIN.out 2
    · go_enter Tryd.func40, Tryd.ntmps40
      go_wp2
      go_ret
      exact HFIN.out 3
    · go_enter Tryd.func40, Tryd.ntmps40
      go_wp2
      go_ret
      exact HFIN.out 4
    · go_enter Tryd.func40, Tryd.ntmps40
      go_wp2
      go_ret
      exact HFIN.out 5
theorem high_eq (h : List Int) : highH h = (decide (2 ≤ h.length) && ((h.getD 0 0 == 13) && decide (8 ≤ h.getD 1 0))) := by
  match h with
  | [] => rfl
  | [a] => simp [highH]
  | a :: b :: l =>
    simp [highH]
    by_cases h1 : a = 13 <;> by_cases h2 : 8 ≤ b <;> simp [h1, h2]
theorem rep_snoc (n : Nat) (x : Int) : List.replicate n x ++ [x] = List.replicate (n + 1) x := by
  rw [List.replicate_succ']
set_option maxHeartbeats 4000000 in
theorem r_four_any (base a : Nat) (ov bv hv : Value) (s : Ss) (w : World) (h : RStr w base a ov bv hv s) :
    Calls Tryd.prog 41 #[.pointer (some ⟨a, 0, none⟩)] w (TxtRes (fourS s.h) w) := by
  have hlt : a < w.heap.size := h.blk.lt
  have hl3 := h.ok.h
  obtain ⟨A1, cb, hhv, _⟩ := own_form h.h
  have c3 : w.cell? ⟨a, 3, none⟩ = some (.slice A1 s.h.length cb) := by rw [← hhv]; exact h.blk.cell 3
  have ho : w.ownsRow base 3 1 (.slice A1 s.h.length cb) s.h.length (s.h.map (Value.int .i64)) := by have := h.h; rw [hhv] at this; exact this
  obtain ⟨d0, hd0⟩ : ∃ d, s.h.getD 0 0 = d := ⟨_, rfl⟩
  obtain ⟨d1, hd1⟩ : ∃ d, s.h.getD 1 0 = d := ⟨_, rfl⟩
  have hcell : 2 ≤ s.h.length → ∃ q, A1 = some ⟨q, 0, none⟩ ∧ w.cell? ⟨q, 0, none⟩ = some (.int .i64 d0) ∧ w.cell? ⟨q, 1, none⟩ = some (.int .i64 d1) := fun h2 => by
    obtain ⟨q, hq, _, hc⟩ := own_cells ho (by omega)
    exact ⟨q, hq, by rw [← hd0]; exact hc 0 (by omega), by rw [← hd1]; exact hc 1 (by omega)⟩
  obtain ⟨hb, hhb⟩ : ∃ q, highH s.h = q := ⟨_, rfl⟩
  have hbe := high_eq s.h
  rw [hhb, hd0, hd1] at hbe
  have hfs : fourS s.h = List.replicate (4 - s.h.length) 48 ++ if hb = true then [92, 117, 100, 99, 48, 48] else [] := by unfold fourS; rw [hhb]
  obtain ⟨fr, hfr⟩ : ∃ fr, fourS s.h = fr := ⟨_, rfl⟩
  rw [hfr] at hfs ⊢
  have HFR := Lib.hid hfs
  have HC := Lib.hid hcell
  have HBE := Lib.hid hbe
  clear h hhv ho hcell hd0 hd1 hhb hbe hfs hfr
  generalize s.h.length = m at *
  go_enter Tryd.func41, Tryd.ntmps41
  go_wp2_with fail
  go_loopw [3, 4] (fun v i W => W = w ∧ ∃ (t : ByteArray) (j : Nat), v = .string t ∧ i = .int .i64 j ∧ m ≤ j ∧ j ≤ 4 ∧ t.size ≤ 4 ∧ N8 t = List.replicate (j - m) 48) (fun _ i _ => 4 - (intOf i).toNat)
  case atStart => exact ⟨rfl, ⟨#[]⟩, m, rfl, rfl, Nat.le_refl _, by omega, by decide, by rw [Nat.sub_self]; rfl⟩
  case round =>
    obtain ⟨rfl, t, j, rfl, rfl, hmj, hj4, hts, hn8⟩ := hrel
    have HN8 := Lib.hid hn8
    have hts2 : t.size = j - m := by rw [← N8_len, hn8, List.length_replicate]
    clear hn8
    by_cases hlt4 : j < 4
    · have hl : (j : Int) < 4 := by omega
      have HAP : Hid (N8 (t ++ (⟨#[48]⟩ : ByteArray)) = List.replicate (j + 1 - m) 48) := Lib.hid (by
        have e1 : N8 (⟨#[48]⟩ : ByteArray) = [48] := rfl
        rw [N8_app, HN8.out, e1, rep_snoc]
        congr 1
        omega)
      have hsum : ¬ t.size + 1 > 9223372036854775807 := by omega
      have HSZ : Hid ((t ++ (⟨#[48]⟩ : ByteArray)).size = t.size + 1) := Lib.hid (by rw [ByteArray.size_append]; rfl)
      go_wp2
      go_roundw
      case rel => exact ⟨trivial, _, j + 1, rfl, by go_num, by omega, by omega, by rw [HSZ.out]; omega, HAP.out⟩
      case measure => simp [intOf]; omega
    · have hl : ¬ (j : Int) < 4 := by omega
      have hj : j = 4 := by omega
      subst hj
      have hbe := HBE.out
      by_cases hm2 : 2 ≤ m
      · obtain ⟨q, rfl, e0, e1⟩ := HC.out hm2
        have hm2' : (2 : Int) ≤ m := by omega
        have hm0 : 0 < m := by omega
        have hm1 : 1 < m := by omega
        rw [decide_eq_true hm2, Bool.true_and] at hbe
        obtain ⟨b0, hb0⟩ : ∃ b, (d0 == 13) = b := ⟨_, rfl⟩
        obtain ⟨b1, hb1⟩ : ∃ b, decide (8 ≤ d1) = b := ⟨_, rfl⟩
        rw [hb0, hb1] at hbe
        cases b0 with
        | false =>
          have hbf : hb = false := by rw [hbe]; rfl
          subst hbf
          clear hbe
          go_wp2
          go_ret
          exact ⟨t, rfl, by rw [HN8.out, HFR.out]; simp, Below.refl _ _⟩
        | true =>
          cases b1 with
          | false =>
            have hbf : hb = false := by rw [hbe]; rfl
            have hn8 : ¬ 8 ≤ d1 := of_decide_eq_false hb1
            subst hbf
            clear hbe hb1
            go_wp2
            go_ret
            exact ⟨t, rfl, by rw [HN8.out, HFR.out]; simp, Below.refl _ _⟩
          | true =>
            have hbf : hb = true := by rw [hbe]; rfl
            have hn8 : 8 ≤ d1 := of_decide_eq_true hb1
            subst hbf
            clear hbe hb1
            have hsum : ¬ t.size + 6 > 9223372036854775807 := by omega
            have HAP : Hid (N8 (t ++ (⟨#[92, 117, 100, 99, 48, 48]⟩ : ByteArray)) = List.replicate (4 - m) 48 ++ [92, 117, 100, 99, 48, 48]) := Lib.hid (by rw [N8_app, HN8.out]; rfl)
            go_wp2
            go_ret
            exact ⟨_, rfl, by rw [HAP.out, HFR.out]; simp, Below.refl _ _⟩
      · have hm2' : ¬ (2 : Int) ≤ m := by omega
        have hbf : hb = false := by rw [hbe, decide_eq_false hm2]; rfl
        subst hbf
        clear hbe
        go_wp2
        go_ret
        exact ⟨t, rfl, by rw [HN8.out, HFR.out]; simp, Below.refl _ _⟩
end Go.Proofs.YtdcfhkiajeiaoaaDoor

/- The document's string: the rest of a scalar's bytes; More. -/
namespace Go.Proofs.YtdcfhkiajeiaoaaDoor
set_option maxRecDepth 100000
open Go.ChangeShapes Go.WideShapes Go.ChangeAt Go.RowKit
set_option linter.unusedVariables false
set_option linter.unusedSimpArgs false

/-- where rest stands: b' is what it has, m what it has put to it -/
def RL (w : World) (b : List Int) (v3 : Value) (wr : World) : Prop := ∃ (b' m : List Int) (f : Nat), b' = b ++ m ∧ (how b' = 1 ∨ how b' = 2) ∧ Bts b' ∧ 4 ≤ b'.length + f ∧ restB 4 b = m ++ restB f b' ∧ U8r wr w.heap.size v3 b' ∧ Below w.heap.size w wr
def RI (wq : World) (b' : List Int) (i : Value) (wr : World) : Prop := ∃ (x : Int), i = .int .u8 x ∧ 128 ≤ x ∧ x ≤ nxB b' ∧ (∀ y, 128 ≤ y → y < x → how (b' ++ [y]) = 0) ∧ Below wq.heap.size wq wr
set_option maxHeartbeats 16000000 in
theorem r_rest_any (base a : Nat) (ov bv hv : Value) (s : Ss) (w : World) (h : RStr w base a ov bv hv s) (hb1 : how s.b = 1) :
    Calls Tryd.prog 39 #[.pointer (some ⟨a, 0, none⟩)] w (TxtRes (restB 4 s.b ++ [34]) w) := by
  have hlt : a < w.heap.size := h.blk.lt
  obtain ⟨A0, cb, hbv, _⟩ := own_form h.b
  have HM := Lib.hid h.dm
  have c1 : w.cell? ⟨a, 1, none⟩ = some (.slice A0 s.b.length cb) := by rw [← hbv]; exact h.blk.cell 1
  have HIB : Hid (Ints w w.heap.size .u8 A0 s.b) := Lib.hid (Ints.own (by have := h.b; rw [hbv] at this; exact this))
  have HNL : Hid (A0 = none → cb = 0) := Lib.hid (own_nil (by have := h.b; rw [hbv] at this; exact this))
  have HC1 : Hid (∀ W, Below w.heap.size w W → W.cell? ⟨a, 1, none⟩ = some (.slice A0 s.b.length cb)) := Lib.hid (fun W hW => by rw [← hbv]; exact (h.go hW).blk.cell 1)
  have hbb := h.ok.bb
  have hbl := how_len1 hb1
  have HST : Hid (RL w s.b (.slice A0 s.b.length cb) w → True) := Lib.hid (fun _ => trivial)
  have HB1 := Lib.hid hb1
  have HBB := Lib.hid hbb
  obtain ⟨fr, hfr⟩ : ∃ fr, restB 4 s.b ++ [34] = fr := ⟨_, rfl⟩
  rw [hfr]
  have HFR := Lib.hid hfr
  clear h hbv hb1 hbb hfr HST
  have hb0 := (Below.refl w.heap.size w).alloc (Nat.le_refl _) (.cells #[] 5)
  have HO0 : Hid (Own (w.alloc (.cells #[] 5)) w.heap.size 5 .u8 (.slice (some ⟨w.heap.size, 0, none⟩) 0 0) []) := Lib.hid (own_empty w _ 5 .u8 (Nat.le_refl _))
  go_enter Tryd.func39, Tryd.ntmps39
  go_wp2_with (at_builtin; refine wpList_app rfl (.tmp 5) (.tmp 9) 22 rfl w.heap.size 5 .u8 1 Tryd.underlying22 info_u8 (by omega) _ [] rfl HO0.out _ _ _ s.b rfl HNL.out (HIB.out.below hb0 (Nat.le_refl _)) (by simp; omega) (by simp) ?_; intro v1 w1 hO1 hg1
               have hb1' := hb0.trans (own_grown_below HO0.out hg1 (by simp))
               have HO1 := Lib.hid hO1
               have HBW1 := Lib.hid hb1'
               clear hO1 hg1)
  clear HO0 hb0
  go_loopw [3] (fun v wr => RL w s.b v wr) (fun v _ => 8 - (match v with | .slice _ n _ => n | _ => 0))
  case atStart =>
    have h1 := HO1.out
    rw [List.nil_append] at h1
    exact ⟨s.b, [], 4, by simp, .inl HB1.out, HBB.out, by omega, rfl, h1, HBW1.out⟩
  case round =>
    obtain ⟨b', m, f, hbe, hhw, hbt, hf4, hre, hO, hbl2⟩ := hrel
    obtain ⟨A2, c2, rfl, hc2, hcm2⟩ := own_form hO
    have hI2 := Ints.own hO
    obtain ⟨n2, hN2⟩ : ∃ n2, b'.length = n2 := ⟨_, rfl⟩
    have hl4 : n2 ≤ 4 ∧ 1 ≤ n2 := by rw [← hN2]; have := how_len (l := b') (by rcases hhw with h | h <;> omega); omega
    rw [hN2] at hc2 hf4 ⊢
    have HN2 := Lib.hid hN2
    have hq := r_how_any A2 n2 c2 b' wr hN2 hI2 hbt (by simp only [maxLen]; omega)
    have HBE := Lib.hid hbe
    have HBT := Lib.hid hbt
    have HRE := Lib.hid hre
    have HO2 : Hid (wr.ownsRow w.heap.size 5 1 (.slice A2 n2 c2) n2 (b'.map (Value.int .u8))) := Lib.hid (by
      have h1 : wr.ownsRow w.heap.size 5 1 (.slice A2 b'.length c2) b'.length (b'.map (Value.int .u8)) := hO
      rw [hN2] at h1; exact h1)
    have HI2 := Lib.hid hI2
    have HBW := Lib.hid hbl2
    clear hbe hbt hre hO hbl2 hN2 hI2
    rcases hhw with hh | hh
    · -- one byte more
      rw [hh] at hq
      obtain ⟨y1, y2, y3, y4⟩ := nx_is HBT.out hh
      have HHH := Lib.hid hh
      have HY1 := Lib.hid y1
      have HY4 := Lib.hid y4
      clear hh y1 y4
      go_wp2_with fail
      with_reducible refine hq.mono ?_
      rintro e w3 ⟨rfl, hs3⟩
      have HBW3 := Lib.hid (HBW.out.trans (hs3.below.mono HBW.out.size))
      have HO3 : Hid (w3.ownsRow w.heap.size 5 1 (.slice A2 n2 c2) n2 (b'.map (Value.int .u8))) := Lib.hid (by
        have h1 : U8r wr w.heap.size (.slice A2 n2 c2) b' := by
          show wr.ownsRow w.heap.size 5 1 _ b'.length _
          rw [HN2.out]; exact HO2.out
        have h2 := own_below h1 hs3.below (Nat.le_refl _)
        have h3 : w3.ownsRow w.heap.size 5 1 (.slice A2 n2 c2) b'.length (b'.map (Value.int .u8)) := h2
        rw [HN2.out] at h3; exact h3)
      have HI3 : Hid (Ints w3 w3.heap.size .u8 A2 b') := Lib.hid (HI2.out.go hs3.below)
      have hnil2 : A2 = none → c2 = 0 := own_nil HO3.out
      have HNL2 := Lib.hid hnil2
      clear hs3 hq HO2 HI2 HBW hnil2
      generalize w3 = wq at *
      go_wp2_with fail
      go_loopw [4] (fun i wi => RI wq b' i wi) (fun i _ => 192 - (intOf i).toNat)
      case atStart => exact ⟨128, rfl, by omega, y2, fun y h1 h2 => by omega, Below.refl _ _⟩
      case round =>
        obtain ⟨x, rfl, hx1, hx2, hx3, hbi⟩ := hrel
        have HBI := Lib.hid hbi
        have HX3 := Lib.hid hx3
        have HIW : Hid (Ints wr wr.heap.size .u8 A2 b') := Lib.hid (HI3.out.go hbi)
        clear hbi hx3
        have hb0 := (Below.refl wr.heap.size wr).alloc (Nat.le_refl _) (.cells #[] 5)
        have HO0 : Hid (Own (wr.alloc (.cells #[] 5)) wr.heap.size 5 .u8 (.slice (some ⟨wr.heap.size, 0, none⟩) 0 0) []) := Lib.hid (own_empty wr _ 5 .u8 (Nat.le_refl _))
        have hle1 : ([] : List Int).length + n2 ≤ 1099511627776 := by simp; omega
        have hbs1 : wr.heap.size ≤ (wr.alloc (.cells #[] 5)).heap.size := by rw [World.size_alloc]; omega
        have HIR := Lib.hid (HIW.out.below hb0 (Nat.le_refl _))
        have HL2 : Hid (([] ++ b').length + 1 ≤ 1099511627776) := Lib.hid (by rw [List.nil_append, HN2.out]; omega)
        go_wp2_with (first
          | (at_builtin; refine wpList_app_n rfl (.tmp 14) (.tmp 15) 22 rfl wr.heap.size 5 .u8 1 Tryd.underlying22 info_u8 (by omega) _ [] rfl HO0.out _ _ n2 _ b' HN2.out rfl HNL2.out HIR.out hle1 hbs1 ?_; intro v1 w1 hO1 hg1
             have hb1 := hb0.trans (own_grown_below HO0.out hg1 (by simp))
             have HO1 := Lib.hid hO1
             have hz1 := hb1.size
             clear hO1 hg1)
          | (at_builtin; refine wpList_app rfl (.tmp 16) (.tmp 18) 22 rfl wr.heap.size 5 .u8 1 Tryd.underlying22 info_u8 (by omega) v1 ([] ++ b') rfl (HO1.out.alloc _) _ _ 1 [x] rfl (fun h => by cases h) (Ints.lit w1 5 .u8 [x]) HL2.out (by rw [World.size_alloc]; omega) ?_; intro v2 w2 hO2 hg2
             have hb2 := (hb1.alloc hz1 _).trans (own_grown_below (HO1.out.alloc _) hg2 (by simp; omega))
             have HO2 := Lib.hid hO2
             clear hO2 hg2))
        have hO2 := HO2.out
        rw [List.nil_append] at hO2
        obtain ⟨A5, c5, rfl, hc5, hcm5⟩ := own_form hO2
        have hI5 := Ints.own hO2
        obtain ⟨n5, hN5⟩ : ∃ n5, (b' ++ [x]).length = n5 := ⟨_, rfl⟩
        have hn5 : n5 = n2 + 1 := by rw [← hN5, List.length_append, HN2.out]; rfl
        have hbx : Bts (b' ++ [x]) := snoc_mem HBT.out ⟨by omega, by omega⟩
        rw [hN5]
        have hq5 := r_how_any A5 n5 c5 (b' ++ [x]) w2 hN5 hI5 hbx (by simp only [maxLen]; omega)
        have HBX := Lib.hid hbx
        have HB5 : Hid (Below wq.heap.size wq w2) := Lib.hid (HBI.out.trans (hb2.mono HBI.out.size))
        clear HO2 hO2 hI5 hN5 hn5 hbx hb1 hb2 hb0 HO0 HO1 HIW HIR hz1 hle1 hbs1 HL2
        by_cases hxn : x < nxB b'
        · have h0 := HY4.out x hx1 hxn
          rw [h0] at hq5
          have HX4 : Hid (∀ y, 128 ≤ y → y < x + 1 → how (b' ++ [y]) = 0) := Lib.hid (fun y h1 h2 => by
            by_cases h3 : y < x
            · exact HX3.out y h1 h3
            · have : y = x := by omega
              rw [this]; exact h0)
          clear h0
          with_reducible refine hq5.mono ?_
          rintro e w6 ⟨rfl, hs6⟩
          have HB6 := Lib.hid (HB5.out.trans (hs6.below.mono HB5.out.size))
          have hwx : IntKind.u8.wrap (x + 1) = x + 1 := by rw [IntKind.wrap_u8]; omega
          clear hs6 hq5
          go_wp2
          go_roundw
          case rel => exact ⟨x + 1, rfl, by omega, by omega, HX4.out, HB6.out⟩
          case measure => simp [intOf]; omega
        · have hxe : x = nxB b' := by omega
          have hh5 : how (b' ++ [x]) = 1 ∨ how (b' ++ [x]) = 2 := by
            rw [hxe]
            rcases HY1.out with h | h
            · exact .inl h
            · exact .inr h.1
          have hhb : (how (b' ++ [x]) == 0) = false := by rw [beq_eq_false_iff_ne]; omega
          have HH5 := Lib.hid hh5
          have HRS : Hid (∃ f', f = f' + 1 ∧ restB f b' = x :: restB f' (b' ++ [x])) := Lib.hid (by
            have hl := how_len1 HHH.out
            have hl2 := HN2.out
            match f, hf4 with
            | 0, hf4 => omega
            | f' + 1, _ =>
              refine ⟨f', rfl, ?_⟩
              rw [hxe]
              conv => lhs; unfold restB
              rw [if_pos HHH.out])
          have HXE := Lib.hid hxe
          clear hh5 hxe
          obtain ⟨hw5, hhw5⟩ : ∃ q, how (b' ++ [x]) = q := ⟨_, rfl⟩
          rw [hhw5] at hq5 hhb
          clear hhw5
          with_reducible refine hq5.mono ?_
          rintro e w6 ⟨rfl, hs6⟩
          have HB6 := Lib.hid (HB5.out.trans (hs6.below.mono HB5.out.size))
          have HO6 : Hid (U8r w6 w.heap.size (.slice A2 n2 c2) b') := Lib.hid (own_below (w := wq) (by
            show wq.ownsRow w.heap.size 5 1 _ b'.length _
            rw [HN2.out]; exact HO3.out) HB6.out (Nat.le_refl _))
          have HBW6 : Hid (Below w.heap.size w w6) := Lib.hid (HBW3.out.trans (HB6.out.mono HBW3.out.size))
          have hz6 : w.heap.size ≤ w6.heap.size := HBW6.out.size
          clear hs6 hq5
          go_wp2_with (at_builtin; refine wpList_app rfl (.tmp 24) (.tmp 26) 22 rfl w.heap.size 5 .u8 1 Tryd.underlying22 info_u8 (by omega) (.slice A2 n2 c2) b' rfl (HO6.out.alloc _) _ _ 1 [x] rfl (fun h => by cases h) (Ints.lit w6 5 .u8 [x]) (by rw [HN2.out]; simp; omega) (by rw [World.size_alloc]; omega) ?_; intro v9 w9 hO9 hg9
                       obtain ⟨A9, m9, cp9, rfl⟩ := own_sl hO9
                       have hb9 := (HBW6.out.alloc hz6 (.cells #[.int .u8 x] 5)).trans (own_grown_below (HO6.out.alloc _) hg9 (by rw [World.size_alloc]; omega))
                       have HO9 := Lib.hid hO9
                       have HB9 := Lib.hid hb9
                       clear hO9 hg9)
          go_roundw
          case rel =>
            obtain ⟨f', hf', hrs⟩ := HRS.out
            refine ⟨b' ++ [x], m ++ [x], f', by rw [HBE.out, List.append_assoc], HH5.out, HBX.out, ?_, ?_, HO9.out, HB9.out⟩
            · rw [List.length_append, HN2.out, List.length_singleton]; omega
            · rw [HRE.out, hrs, List.append_assoc]; rfl
          case measure =>
            have h1 := HO9.out.1
            have h2 : m9 = n2 + 1 := by
              obtain ⟨A8, c8, he8, _⟩ := own_form HO9.out
              injection he8 with e1 e2 e3
              rw [e2, List.length_append, HN2.out]; rfl
            show 8 - m9 < 8 - n2
            omega
    · -- it is whole
      rw [hh] at hq
      have HMM : Hid (restB 4 s.b = m ∧ m ≠ [] ∧ b' = s.b ++ m) := Lib.hid (by
        have h1 : restB f b' = [] := by
          cases f with
          | zero => rfl
          | succ f => unfold restB; rw [if_neg (by omega)]
        refine ⟨by rw [HRE.out, h1, List.append_nil], fun hm => ?_, HBE.out⟩
        rw [HBE.out, hm, List.append_nil, HB1.out] at hh
        omega)
      have hmp : 0 < m.length := List.length_pos_iff.2 HMM.out.2.1
      have HNLQ : Hid (n2 = s.b.length + m.length) := Lib.hid (by rw [← HN2.out, HMM.out.2.2, List.length_append])
      have hgt : s.b.length < n2 := by have := HNLQ.out; omega
      clear hh
      go_wp2_with fail
      with_reducible refine hq.mono ?_
      rintro e w3 ⟨rfl, hs3⟩
      have HBW3 := Lib.hid (HBW.out.trans (hs3.below.mono HBW.out.size))
      have HI3 : Hid (Ints w3 w3.heap.size .u8 A2 b') := Lib.hid (HI2.out.go hs3.below)
      obtain ⟨q, hq2, _, _⟩ := own_cells HO2.out (by omega)
      subst hq2
      have c1 : w3.cell? ⟨a, 1, none⟩ = some (.slice A0 s.b.length cb) := HC1.out _ HBW3.out
      have hne : ¬ c2 = s.b.length := by omega
      have hID : Ints w3 w3.heap.size .u8 (some ⟨q, 0 + s.b.length, none⟩) m := by
        have h1 := HI3.out.drop s.b.length
        rw [HMM.out.2.2, List.drop_left' rfl] at h1
        exact h1
      have hcv := conv_str w3 w3.heap.size (some ⟨q, 0 + s.b.length, none⟩) m.length (c2 - s.b.length) m rfl hID
      rw [Nat.zero_add] at hcv
      have hsub : n2 - s.b.length = m.length := by have := HNLQ.out; omega
      have hbm : Bts m := fun y hy => HBT.out y (by rw [HMM.out.2.2]; exact List.mem_append_right _ hy)
      have HNM := Lib.hid (N8_nums hbm)
      have HSZ : Hid ((strOfNums m).size = m.length) := Lib.hid (by rw [← N8_len, HNM.out])
      obtain ⟨tm, htm⟩ : ∃ tm, strOfNums m = tm := ⟨_, rfl⟩
      rw [htm] at hcv HNM HSZ
      have htz : ¬ tm.size + 1 > 9223372036854775807 := by rw [HSZ.out]; omega
      clear hs3 hq htm hID hbm
      obtain ⟨lb, hlb⟩ : ∃ lb, s.b.length = lb := ⟨_, rfl⟩
      rw [hlb] at c1 hne hcv hsub hgt
      have hle2 : lb ≤ n2 := by omega
      have hlb' : (lb : Int) ≤ (n2 : Int) := by omega
      have hlc : lb ≤ c2 := by omega
      go_wp2_with fail
      go_ret
      exact ⟨_, rfl, by rw [N8_app, HNM.out, ← HFR.out, HMM.out.1]; rfl, HBW3.out⟩
set_option maxHeartbeats 4000000 in
theorem r_more_any (base a : Nat) (ov bv hv_ : Value) (s : Ss) (w : World) (h : RStr w base a ov bv hv_ s) (hv : s.v = false) :
    Calls Tryd.prog 17 #[.pointer (some ⟨a, 0, none⟩)] w (TxtRes (moreS s) w) := by
  have hlt : a < w.heap.size := h.blk.lt
  obtain ⟨A0, cb, hbv, _⟩ := own_form h.b
  have c1 : w.cell? ⟨a, 1, none⟩ = some (.slice A0 s.b.length cb) := by rw [← hbv]; exact h.blk.cell 1
  have c2 : w.cell? ⟨a, 2, none⟩ = some (.int .i64 s.e) := h.blk.cell 2
  have c4 : w.cell? ⟨a, 4, none⟩ = some (.int .u16 s.k) := h.blk.cell 4
  have c5 : w.cell? ⟨a, 5, none⟩ = some (.bool s.v) := h.blk.cell 5
  rw [hv] at c5
  obtain ⟨fr, hfr⟩ : ∃ fr, moreS s = fr := ⟨_, rfl⟩
  rw [hfr]
  unfold moreS at hfr
  rw [if_neg (by rw [hv]; decide)] at hfr
  have he2 := h.ok.e
  by_cases hb : s.b = []
  · rw [if_neg (fun hn => hn hb)] at hfr
    have hz : s.b.length = 0 := by rw [hb]; rfl
    rw [hz] at c1
    by_cases hk : 0 < s.k
    · rw [if_pos hk] at hfr
      have HP := Lib.hid (r_pair_any base a ov bv hv_ s w h)
      rw [hfr] at HP
      clear h hbv hb hz hfr
      go_enter Tryd.func17, Tryd.ntmps17
      go_wp2_with fail
      with_reducible refine HP.out.mono ?_
      rintro e w1 ⟨t, rfl, ht, hb1⟩
      have HQ := Lib.hid (And.intro ht hb1)
      clear ht hb1
      go_wp2
      go_ret
      exact ⟨t, rfl, HQ.out⟩
    · rw [if_neg hk] at hfr
      by_cases h1 : s.e = 1
      · rw [if_pos h1] at hfr
        rw [h1] at c2
        have HFR := Lib.hid hfr
        clear h hbv hb hz hfr
        go_enter Tryd.func17, Tryd.ntmps17
        go_wp2
        go_ret
        exact ⟨_, rfl, by rw [← HFR.out]; rfl, Below.refl _ _⟩
      · rw [if_neg h1] at hfr
        by_cases h2 : s.e = 2
        · rw [if_pos h2] at hfr
          rw [h2] at c2
          have HFR := Lib.hid hfr
          have HP := Lib.hid (r_four_any base a ov bv hv_ s w h)
          have hl3 := h.ok.h
          have HLF : Hid ((fourS s.h).length ≤ 100) := Lib.hid (by
            unfold fourS
            rw [List.length_append, List.length_replicate]
            split <;> simp <;> omega)
          clear h hbv hb hz hfr
          go_enter Tryd.func17, Tryd.ntmps17
          go_wp2_with fail
          with_reducible refine HP.out.mono ?_
          rintro e w1 ⟨t, rfl, ht, hb1⟩
          have hts : t.size ≤ 100 := by rw [← N8_len, ht]; exact HLF.out
          have hts2 : ¬ t.size + 1 > 9223372036854775807 := by omega
          have HQ := Lib.hid (And.intro ht hb1)
          clear ht hb1
          go_wp2
          go_ret
          exact ⟨_, rfl, by rw [N8_app, HQ.out.1, ← HFR.out]; rfl, HQ.out.2⟩
        · rw [if_neg h2] at hfr
          have h0 : s.e = 0 := by omega
          rw [h0] at c2
          have HFR := Lib.hid hfr
          clear h hbv hb hz hfr
          go_enter Tryd.func17, Tryd.ntmps17
          go_wp2
          go_ret
          exact ⟨_, rfl, by rw [← HFR.out]; rfl, Below.refl _ _⟩
  · rw [if_pos hb] at hfr
    have hb1 : how s.b = 1 := by rcases h.ok.b with h | h; exact absurd h hb; exact h
    have HP := Lib.hid (r_rest_any base a ov bv hv_ s w h hb1)
    rw [hfr] at HP
    have hl := (how_len1 hb1).1
    have hl0 : 0 < s.b.length := by omega
    have hl1 : (0 : Int) < s.b.length := by omega
    clear h hbv hb hfr hb1
    generalize s.b.length = m at *
    go_enter Tryd.func17, Tryd.ntmps17
    go_wp2_with fail
    with_reducible refine HP.out.mono ?_
    rintro e w1 ⟨t, rfl, ht, hb1⟩
    have HQ := Lib.hid (And.intro ht hb1)
    clear ht hb1
    go_wp2
    go_ret
    exact ⟨t, rfl, HQ.out⟩
end Go.Proofs.YtdcfhkiajeiaoaaDoor

/- StrHopes: whatever was pushed and was OK can be brought to its end. -/
namespace Go.Proofs.YtdcfhkiajeiaoaaDoor
set_option maxRecDepth 100000
open Go.ChangeShapes Go.WideShapes Go.ChangeAt Go.RowKit
set_option linter.unusedVariables false
set_option linter.unusedSimpArgs false

theorem u8_wfh {z : List Int} (h : ∀ n ∈ z, (Lit.int .u8 n).wf = true) : ∀ x ∈ z, 0 ≤ x ∧ x ≤ 255 := fun n hn => by
  have := bounds_u8 (h n hn)
  omega
theorem more_len (s : Ss) : (moreS s).length ≤ 100 := by
  have hr : ∀ f b, (restB f b).length ≤ f := fun f => by
    induction f with
    | zero => intro b; unfold restB; simp
    | succ f ih =>
      intro b
      unfold restB
      split
      · have := ih (b ++ [nxB b])
        rw [List.length_cons]; omega
      · simp
  unfold moreS
  repeat' split
  · simp
  · have := hr 4 s.b
    rw [List.length_append]; simp; try omega
  · rw [List.length_drop]; simp [pairL]; try omega
  · rw [List.length_drop]; simp [pairL]
  · rw [List.length_drop]; simp [pairL]; try omega
  · simp
  · unfold fourS
    rw [List.length_append, List.length_append, List.length_replicate]
    split <;> simp <;> try omega
  · simp
/-- pushed as long as it is OK and not over -/
theorem ok_v {s : Ss} {x : Int} {r : Int} {s2 : Ss} (hv : s.v = false) (h : pushS s x = (false, r, s2)) : s2.v = false := by
  unfold pushS digS escS bytS at h
  repeat' split at h
  all_goals (injection h with h1 h2; first | (injection h2 with h2 h3; subst h3; exact hv) | (injection h2 with h2 h3; subst h3; rfl) | cases h1)
def HoL (w : World) (g bb a : Nat) (z : List Int) (i : Value) (wr : World) : Prop := ∃ (k : Nat) (s : Ss) (sv ov bv hv : Value), k ≤ z.length ∧ i = .int .i64 k ∧ s.o.length ≤ k ∧ s.v = false ∧ PQ w wr g bb a sv ov bv hv s s
set_option maxHeartbeats 16000000 in
theorem hopes_walk (a0 : Option Addr) (n cap : Nat) (z : List Int) (w : World) (hT : Tab w) (hn : z.length = n) (hI : Ints w w.heap.size .u8 a0 z) (hz : ∀ x ∈ z, 0 ≤ x ∧ x ≤ 255) (hm : n ≤ maxLen) :
    Calls Tryd.prog 4 #[.slice a0 n cap] w fun e w' => e = .returned (.bool true) ∧ Below w.heap.size w w' := by
  have HT := Lib.hid hT
  have HAW : Hid (∀ W, Below w.heap.size w W → Calls Tryd.prog 9 #[] W fun e w' => e = .returned (.bool true) ∧ Below W.heap.size W w') := Lib.hid (fun W hW => awake_any W (hT.below' hW))
  have HLEAD := Lib.hid hT.lt
  have HI := Lib.hid hI
  have HZ := Lib.hid hz
  have HN := Lib.hid hn
  unfold maxLen at hm
  clear hI hz hn hT
  go_enter Tryd.func4, Tryd.ntmps4
  go_wp2_with fail
  with_reducible refine (strnew_any w.heap.size w (Nat.le_refl _)).mono ?_
  rintro e1 w1 ⟨g, bb, rfl, lg, lb, hn1, hb1⟩
  have HNW := Lib.hid hn1
  have HB1 := Lib.hid hb1
  clear hn1 hb1
  by_cases hbig : 80 < n
  · have q0 : (80 : Int) < n := by omega
    have HBA : Hid (Below w.heap.size w (w1.alloc (.cells #[.slice none 0 0, .slice none 0 0, .int .i64 0, .slice none 0 0, .int .u16 0, .bool false] 30))) := Lib.hid (HB1.out.alloc HB1.out.size _)
    go_wp2_with fail
    with_reducible refine (HAW.out _ HBA.out).mono ?_
    rintro e1 w2 ⟨rfl, hb2⟩
    have HB2 := Lib.hid (HBA.out.trans (hb2.mono HBA.out.size))
    clear hb2
    go_wp2
    go_ret
    exact ⟨rfl, HB2.out⟩
  have q0 : ¬ (80 : Int) < n := by omega
  have HP0 : Hid (PQ w (w1.alloc (.cells #[.slice none 0 0, .slice none 0 0, .int .i64 0, .slice none 0 0, .int .u16 0, .bool false] 30)) g bb w1.heap.size (.slice none 0 0) (.slice none 0 0) (.slice none 0 0) (.slice none 0 0) ss0 ss0) := Lib.hid (PQ.new HNW.out HB1.out)
  clear HNW HB1
  obtain ⟨a, ha⟩ : ∃ a, w1.heap.size = a := ⟨_, rfl⟩
  rw [ha] at HP0
  go_wp2_with fail
  go_loopw [5] (fun i wr => HoL w g bb a z i wr) (fun i _ => n - (intOf i).toNat)
  case atStart => exact ⟨0, ss0, _, _, _, _, by omega, rfl, Nat.le_refl _, rfl, HP0.out⟩
  case round =>
    clear HP0
    obtain ⟨k, s, sv, ov, bv, hv, hk, rfl, hs, hsv, hpq⟩ := hrel
    have HQ := Lib.hid hpq
    have hzn := HN.out
    clear hpq
    by_cases hlt : k < n
    · have hlt' : (k : Int) < n := by omega
      obtain ⟨b, o, rfl, hbl, hcell⟩ := HI.out.at (by omega)
      have hzk := HZ.out (z.getD k 0) (by rw [List.getD_eq_getElem?_getD, List.getElem?_eq_getElem (by omega)]; exact List.getElem_mem _)
      obtain ⟨x, hx⟩ : ∃ x, z.getD k 0 = x := ⟨_, rfl⟩
      rw [hx] at hzk
      have HCELL : Hid (∀ W, Below w.heap.size w W → W.cell? ⟨b, o + k, none⟩ = some (.int .u8 x)) := Lib.hid (fun W hW => (hW.cell (p := ⟨b, o + k, none⟩) hbl).trans (by rw [← hx]; exact hcell k (by omega)))
      have kx := HCELL.out _ HQ.out.b
      have HPU := Lib.hid (strpush_any w.heap.size g bb sv s x wr HQ.out.p hzk.1 hzk.2 (HT.out.below' HQ.out.b) HLEAD.out HQ.out.b.size (by omega))
      have HRU := Lib.hid (fun W h => r_strpush_any w.heap.size a ov bv hv s x W h hzk.1 hzk.2)
      have hpl := push_len s x
      obtain ⟨ob, r, s2, hp⟩ : ∃ ob r s2, pushS s x = (ob, r, s2) := ⟨_, _, _, rfl⟩
      rw [hp] at HPU HRU hpl
      dsimp only at HPU HRU hpl
      have HOV : Hid (ob = false → s2.v = false) := Lib.hid (fun ho => by rw [ho] at hp; exact ok_v hsv hp)
      have n1 : (ob != ob) = false := by simp
      have n2 : (r != r) = false := by simp
      clear hp hx hcell
      go_wp2_with fail
      with_reducible refine HPU.out.mono ?_
      rintro e w2 ⟨rfl, sv2, p1, p2, p3⟩
      have HQ2 := Lib.hid (HQ.out.pushP p1 p2 p3)
      have kx := HCELL.out _ HQ2.out.b
      clear p1 p2 p3 HQ HPU
      go_wp2_with fail
      with_reducible refine (HRU.out _ HQ2.out.r HQ2.out.b.size (by omega)).mono ?_
      rintro e w5 ⟨rfl, ov2, bv2, hv2, p1, p2, p3, p4⟩
      have HQ5 := Lib.hid (HQ2.out.pushR p1 p2 p4)
      clear p1 p2 p3 p4 HQ2 HRU kx HCELL
      cases ob with
      | true =>
        go_wp2_with fail
        with_reducible refine (HAW.out _ HQ5.out.b).mono ?_
        rintro e1 w6 ⟨rfl, hb6⟩
        have HB6 := Lib.hid (HQ5.out.b.trans (hb6.mono HQ5.out.b.size))
        clear hb6
        go_wp2
        go_ret
        exact ⟨rfl, HB6.out⟩
      | false =>
        go_wp2
        go_roundw
        case rel => exact ⟨k + 1, s2, sv2, ov2, bv2, hv2, by omega, by go_num, by omega, HOV.out trivial, HQ5.out⟩
        case measure => simp [intOf]; omega
    · have hlt' : ¬ (k : Int) < n := by omega
      have HMO := Lib.hid (r_more_any w.heap.size a ov bv hv s wr HQ.out.r hsv)
      obtain ⟨hen, F, hF⟩ := ends_more HQ.out.p.ok hsv
      have hml := more_len s
      have HEF := Lib.hid (hF 0)
      have hmp : 0 < (moreS s).length := List.length_pos_iff.2 hen
      clear hen hF
      generalize hms : moreS s = ms at *
      clear hms
      go_wp2_with fail
      with_reducible refine HMO.out.mono ?_
      rintro e w2 ⟨t, rfl, ht, hb2⟩
      have HQ2 := Lib.hid (HQ.out.go hb2)
      have hts : t.size = ms.length := by rw [← N8_len, ht]
      have HPL := Lib.hid (strpush_law w.heap.size g bb sv s t w2 HQ2.out.p (HT.out.below' HQ2.out.b) HLEAD.out HQ2.out.b.size (by omega))
      rw [ht, HEF.out] at HPL
      obtain ⟨m, hm⟩ : ∃ m, ms.length = m + 1 := ⟨ms.length - 1, by omega⟩
      rw [hm] at hts HPL
      have e0 : 0 + (m + 1 - 1) = m := by omega
      rw [e0] at HPL
      have hsz2 : (t.size : Int) = (m : Int) + 1 := by omega
      have hwm : IntKind.i64.wrap (m : Int) = (m : Int) := IntWalk.i64_in _ (by omega)
      clear hb2 ht HMO e0 hm hts hmp
      go_wp2_with fail
      with_reducible refine HPL.out.mono ?_
      rintro e w3 ⟨rfl, sv3, p1, p2, p3⟩
      have HQ3 := Lib.hid (HQ2.out.pushP p1 p2 p3)
      clear p1 p2 p3 HPL HQ2
      dsimp only
      go_wp2_with fail
      with_reducible refine (HAW.out _ HQ3.out.b).mono ?_
      rintro e1 w6 ⟨rfl, hb6⟩
      have HB6 := Lib.hid (HQ3.out.b.trans (hb6.mono HQ3.out.b.size))
      clear hb6
      go_wp2
      go_ret
      exact ⟨rfl, HB6.out⟩
end Go.Proofs.YtdcfhkiajeiaoaaDoor
