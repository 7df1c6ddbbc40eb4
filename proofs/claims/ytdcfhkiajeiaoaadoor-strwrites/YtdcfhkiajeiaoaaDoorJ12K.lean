/- Joined of: N12Awk. -/
import Derived.Test.YtdcfhkiajeiaoaaDoorJ12G
/- The laws' awake: the chapter's examples. -/
namespace Go.Proofs.YtdcfhkiajeiaoaaDoor
set_option maxRecDepth 100000
open Go.ChangeShapes Go.WideShapes Go.ChangeAt Go.RowKit
set_option linter.unusedVariables false
set_option linter.unusedSimpArgs false

theorem feed_a : ∃ s, feedS ss0 (N8 ⟨#[92, 117, 100, 99, 48, 48]⟩) 0 = (3, 5, false, s) := ⟨_, rfl⟩
theorem feed_b : feedS ss0 (N8 ⟨#[92, 117, 100, 56, 51, 100, 92, 117, 100, 101, 48, 48, 120, 34]⟩) 0 = (13, 0, true, ⟨[128512, 120], [], 0, [], 0, true⟩) := by rfl
theorem feed_c : ∃ s, feedS ss0 (N8 ⟨#[92, 117, 102, 100, 100, 48]⟩) 0 = (4, 6, false, s) := ⟨_, rfl⟩
theorem feed_d : feedS ss0 (N8 ⟨#[195, 40]⟩) 0 = (1, 4, false, ⟨[], [195], 0, [], 0, false⟩) := by rfl
theorem StrIs.size {w : World} {base g bb : Nat} {sv : Value} {s : Ss} (h : StrIs w base g bb sv s) : g < w.heap.size ∧ bb < w.heap.size := by
  obtain ⟨d, z, hm, _⟩ := h.m
  exact ⟨hm.blk.lt, hm.lb.2⟩
/-- one that has nothing in it yet stays as it is while another such one is pushed to -/
theorem StrIs.fresh {w w' : World} {base g bb base2 g2 bb2 : Nat} {s s2 : Ss} (h : StrIs w base g bb (.slice none 0 0) s) (h2 : StrIs w base2 g2 bb2 (.slice none 0 0) s2) (hf : SFr g2 bb2 (.slice none 0 0) w w') (hg : g ≠ g2) (hb : bb ≠ bb2) : StrIs w' base g bb (.slice none 0 0) s :=
  h.far h2 hf hg hb (by simp [Value.ownBlock]) (fun q hq => by cases hq)
/-- one whose row is new beside one that has nothing in it yet -/
theorem StrIs.beside {w w0 w' : World} {base g bb base2 g2 bb2 : Nat} {sv v0 : Value} {s s2 : Ss} (h : StrIs w base g bb sv s) (h2 : StrIs w base2 g2 bb2 (.slice none 0 0) s2) (hf : SFr g2 bb2 (.slice none 0 0) w w') (hg : g ≠ g2) (hb : bb ≠ bb2) (hr : RowTo w0 (.slice none 0 0) sv) (h0 : bb2 < w0.heap.size) : StrIs w' base g bb sv s :=
  h.far h2 hf hg hb (by simp [Value.ownBlock]) (fun q hq => ⟨fun e => by
    rcases hr with r | r
    · rw [hq] at r; cases r
    · have := r q hq; omega, by simp [Value.ownBlock]⟩)
set_option maxHeartbeats 8000000 in
theorem awake_any (w : World) (hT : Tab w) : Calls Tryd.prog 9 #[] w fun e w' => e = .returned (.bool true) ∧ Below w.heap.size w w' := by
  have HT := Lib.hid hT
  have hlead := hT.lt
  obtain ⟨base, hbs⟩ : ∃ b, w.heap.size = b := ⟨_, rfl⟩
  rw [hbs] at hlead
  clear hT
  obtain ⟨sA, hA⟩ := feed_a
  obtain ⟨sC, hC⟩ := feed_c
  have hB := feed_b
  have hD := feed_d
  go_enter Tryd.func9, Tryd.ntmps9
  go_wp2_with fail
  with_reducible refine (strnew_any base w (by omega)).mono ?_
  rintro e w1 ⟨g1, b1, rfl, l1, m1, h1, k1⟩
  have H1 := Lib.hid h1
  have K1 := Lib.hid k1
  have z1 := h1.size
  have s1 := k1.size
  clear h1 k1
  go_wp2_with fail
  with_reducible refine (strnew_any base w1 (by omega)).mono ?_
  rintro e w2 ⟨g2, b2, rfl, l2, m2, h2, k2⟩
  have H1 := Lib.hid (H1.out.go k2)
  have H2 := Lib.hid h2
  have K2 := Lib.hid (K1.out.trans (k2.mono (by omega)))
  have z2 := h2.size
  have s2 := k2.size
  clear h2 k2 K1
  go_wp2_with fail
  with_reducible refine (strnew_any base w2 (by omega)).mono ?_
  rintro e w3 ⟨g3, b3, rfl, l3, m3, h3, k3⟩
  have H1 := Lib.hid (H1.out.go k3)
  have H2 := Lib.hid (H2.out.go k3)
  have H3 := Lib.hid h3
  have K3 := Lib.hid (K2.out.trans (k3.mono (by omega)))
  have z3 := h3.size
  have s3 := k3.size
  clear h3 k3 K2
  go_wp2_with fail
  with_reducible refine (strnew_any base w3 (by omega)).mono ?_
  rintro e w4 ⟨g4, b4, rfl, l4, m4, h4, k4⟩
  have H1 := Lib.hid (H1.out.go k4)
  have H2 := Lib.hid (H2.out.go k4)
  have H3 := Lib.hid (H3.out.go k4)
  have H4 := Lib.hid h4
  have K4 := Lib.hid (K3.out.trans (k4.mono (by omega)))
  have z4 := h4.size
  have s4 := k4.size
  clear h4 k4 K3
  have T4 : Hid (Tab w4) := Lib.hid (HT.out.below' K4.out)
  have P1 := Lib.hid (strpush_law base g1 b1 (.slice none 0 0) ss0 ⟨#[92, 117, 100, 99, 48, 48]⟩ w4 H1.out T4.out hlead (by omega) (by decide))
  rw [hA] at P1
  go_wp2_with fail
  with_reducible refine P1.out.mono ?_
  rintro e w5 ⟨rfl, v5, h5, f5, r5⟩
  have s5 := f5.size
  have H2 := Lib.hid (H2.out.fresh H1.out f5 (by omega) (by omega))
  have H3 := Lib.hid (H3.out.fresh H1.out f5 (by omega) (by omega))
  have H4 := Lib.hid (H4.out.fresh H1.out f5 (by omega) (by omega))
  have K5 : Hid (Below w.heap.size w w5) := Lib.hid (K4.out.trans (f5.low (by omega) (by omega) (by omega) (fun q hq => by cases hq)))
  have T5 : Hid (Tab w5) := Lib.hid (HT.out.below' K5.out)
  clear h5 f5 r5 K4 T4 P1 H1
  have P2 := Lib.hid (strpush_law base g2 b2 (.slice none 0 0) ss0 ⟨#[92, 117, 100, 56, 51, 100, 92, 117, 100, 101, 48, 48, 120, 34]⟩ w5 H2.out T5.out hlead (by omega) (by decide))
  rw [hB] at P2
  go_wp2_with fail
  with_reducible refine P2.out.mono ?_
  rintro e w6 ⟨rfl, v6, h6, f6, r6⟩
  have s6 := f6.size
  have H3 := Lib.hid (H3.out.fresh H2.out f6 (by omega) (by omega))
  have H4 := Lib.hid (H4.out.fresh H2.out f6 (by omega) (by omega))
  have K6 : Hid (Below w.heap.size w w6) := Lib.hid (K5.out.trans (f6.low (by omega) (by omega) (by omega) (fun q hq => by cases hq)))
  have T6 : Hid (Tab w6) := Lib.hid (HT.out.below' K6.out)
  have HB := Lib.hid h6
  have HR := Lib.hid r6
  clear h6 f6 r6 K5 T5 P2 H2
  have P3 := Lib.hid (strpush_law base g3 b3 (.slice none 0 0) ss0 ⟨#[92, 117, 102, 100, 100, 48]⟩ w6 H3.out T6.out hlead (by omega) (by decide))
  rw [hC] at P3
  go_wp2_with fail
  with_reducible refine P3.out.mono ?_
  rintro e w7 ⟨rfl, v7, h7, f7, r7⟩
  have s7 := f7.size
  have H4 := Lib.hid (H4.out.fresh H3.out f7 (by omega) (by omega))
  have HB := Lib.hid (HB.out.beside (v0 := .slice none 0 0) H3.out f7 (by omega) (by omega) HR.out (by omega))
  have K7 : Hid (Below w.heap.size w w7) := Lib.hid (K6.out.trans (f7.low (by omega) (by omega) (by omega) (fun q hq => by cases hq)))
  have T7 : Hid (Tab w7) := Lib.hid (HT.out.below' K7.out)
  clear h7 f7 r7 K6 T6 P3 H3
  have P4 := Lib.hid (strpush_law base g4 b4 (.slice none 0 0) ss0 ⟨#[195, 40]⟩ w7 H4.out T7.out hlead (by omega) (by decide))
  rw [hD] at P4
  go_wp2_with fail
  with_reducible refine P4.out.mono ?_
  rintro e w8 ⟨rfl, v8, h8, f8, r8⟩
  have HB := Lib.hid (HB.out.beside (v0 := .slice none 0 0) H4.out f8 (by omega) (by omega) HR.out (by omega))
  have HDD := Lib.hid h8
  have K8 : Hid (Below w.heap.size w w8) := Lib.hid (K7.out.trans (f8.low (by omega) (by omega) (by omega) (fun q hq => by cases hq)))
  clear h8 f8 r8 K7 T7 P4 H4
  have HTX : Hid (Calls Tryd.prog 15 #[.pointer (some ⟨g2, 0, none⟩)] w8 fun e w' => e = .returned (.string (strOfNums [240, 159, 152, 128, 120])) ∧ w8 = w') := Lib.hid (strtext_any base g2 b2 v6 _ w8 HB.out)
  have HLN : Hid (Calls Tryd.prog 12 #[.pointer (some ⟨g2, 0, none⟩)] w8 fun e w' => e = .returned (.int .i64 2) ∧ w8 = w') := Lib.hid (strlen_any base g2 b2 v6 _ w8 HB.out)
  have HIB : Hid (Calls Tryd.prog 13 #[.pointer (some ⟨g2, 0, none⟩)] w8 fun e w' => e = .returned (.bool false) ∧ w8 = w') := Lib.hid (inside_any base g2 b2 v6 _ w8 HB.out)
  have HID : Hid (Calls Tryd.prog 13 #[.pointer (some ⟨g4, 0, none⟩)] w8 fun e w' => e = .returned (.bool true) ∧ w8 = w') := Lib.hid (inside_any base g4 b4 v8 _ w8 HDD.out)
  have heq : ((strOfNums [240, 159, 152, 128, 120]).toList == [240, 159, 152, 128, 120]) = true := by kernel_rfl
  generalize strOfNums [240, 159, 152, 128, 120] = tt at *
  clear hA hB hC hD
  go_wp2_with fail
  with_reducible refine HTX.out.mono ?_
  rintro e w9 ⟨rfl, rfl⟩
  go_wp2_with fail
  with_reducible refine HLN.out.mono ?_
  rintro e w9 ⟨rfl, rfl⟩
  go_wp2_with fail
  with_reducible refine HID.out.mono ?_
  rintro e w9 ⟨rfl, rfl⟩
  go_wp2_with fail
  with_reducible refine HIB.out.mono ?_
  rintro e w9 ⟨rfl, rfl⟩
  go_wp2
  go_ret
  exact ⟨rfl, K8.out⟩
end Go.Proofs.YtdcfhkiajeiaoaaDoor
