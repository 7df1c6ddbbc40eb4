/- Joined of: N12Sca. -/
import Derived.Test.YtdcfhkiajeiaoaaDoorJ12K
import Derived.Test.YtdcfhkiajeiaoaaDoorJ12N
import Derived.Test.YtdcfhkiajeiaoaaDoorJ12C
import Derived.Test.YtdcfhkiajeiaoaaDoorJ12J
import Derived.Test.YtdcfhkiajeiaoaaDoorJ12H
/- Printed by gen_n12sca.py. StrScalars: each scalar by its bytes. -/
namespace Go.Proofs.YtdcfhkiajeiaoaaDoor
set_option maxRecDepth 100000
open Go.ChangeShapes Go.WideShapes Go.ChangeAt Go.RowKit
set_option linter.unusedVariables false
set_option linter.unusedSimpArgs false

theorem N8_row {l : List Int} (h : Bts l) : N8 (strOfNums l) = l := by
  unfold N8
  have e : L8 (strOfNums l) = l.map fun n => UInt8.ofNat n.toNat := by unfold strOfNums L8; simp
  rw [e, List.map_map]
  conv => rhs; rw [← List.map_id l]
  apply List.map_congr_left
  intro x hx
  have := h x hx
  simp only [Function.comp]
  rw [UInt8.toNat_ofNat', Nat.mod_eq_of_lt (by omega)]
  show ((x.toNat : Nat) : Int) = x
  omega
theorem sca_row {w : World} {base : Nat} {e : TypeId} {k : IntKind} {v : Value} {xs : List Int} (h : Own w base e k v xs) : ∃ A c, v = .slice A xs.length c := by
  obtain ⟨A, c, hv, _⟩ := own_form h
  exact ⟨A, c, hv⟩
set_option maxHeartbeats 16000000 in
theorem scalars_walk (n : Int) (w : World) (hT : Tab w) :
    Calls Tryd.prog 7 #[.int .i64 n] w fun e w' => e = .returned (.bool true) ∧ Below w.heap.size w w' := by
  have HT := Lib.hid hT
  have HAW : Hid (∀ W, Below w.heap.size w W → Calls Tryd.prog 9 #[] W fun e w' => e = .returned (.bool true) ∧ Below W.heap.size W w') := Lib.hid (fun W hW => awake_any W (hT.below' hW))
  have HLEAD := Lib.hid hT.lt
  clear hT
  go_enter Tryd.func7, Tryd.ntmps7
  go_wp2_with fail
  with_reducible refine (rune_any n w).mono ?_
  rintro e w0 ⟨c, hc, rfl, rfl⟩
  have HIS := Lib.hid (fun W => r_is_any c W)
  cases hi : isB c with
  | false =>
    rw [hi] at HIS
    have HB4 := Lib.hid (Below.refl w.heap.size w)
    go_wp2_with fail
    with_reducible refine (HIS.out _).mono ?_
    rintro e _ ⟨rfl, rfl⟩
    go_wp2_with fail
    with_reducible refine (HAW.out _ HB4.out).mono ?_
    rintro e1 w6 ⟨rfl, hb6⟩
    have HB6 := Lib.hid (HB4.out.trans (hb6.mono HB4.out.size))
    clear hb6
    go_wp2
    go_ret
    exact ⟨rfl, HB6.out⟩
  | true =>
    rw [hi] at HIS
    go_wp2_with fail
    with_reducible refine (HIS.out _).mono ?_
    rintro e _ ⟨rfl, rfl⟩
    go_wp2_with fail
    with_reducible refine (strnew_any w.heap.size w (Nat.le_refl _)).mono ?_
    rintro e1 w1 ⟨g, bb, rfl, lg, lb, hn1, hb1⟩
    have HNW := Lib.hid hn1
    have HB1 := Lib.hid hb1
    clear hn1 hb1 HIS
    go_wp2_with fail
    with_reducible refine (r_bytes_any c w1).mono ?_
    rintro e w2 ⟨v, rfl, ho, hb2⟩
    obtain ⟨A0, c0, rfl⟩ := sca_row ho
    have hcv := conv_str w2 w2.heap.size A0 (byt c).length c0 (byt c) rfl (Ints.own ho)
    have HN2 := Lib.hid (HNW.out.go hb2)
    have HB3 := Lib.hid (HB1.out.trans (hb2.mono HB1.out.size))
    have hN8 := N8_row (scal_byt hi).bts
    have hsz : (strOfNums (byt c)).size = (byt c).length := by rw [← N8_len, hN8]
    have hl4 := byt_len c
    have hl1 := (scal_byt hi).pos
    have HLOW := Lib.hid HN2.out.low
    have HPL := Lib.hid (strpush_law w.heap.size g bb (.slice none 0 0) ss0 (strOfNums (byt c)) w2 HN2.out (HT.out.below' HB3.out) HLEAD.out HB3.out.size (by have e : ss0.o.length = 0 := rfl; omega))
    rw [hN8] at HPL
    have HTC : Hid (strOfNums (txt [c]) = strOfNums (byt c)) := Lib.hid (by simp [txt])
    have HQB : Hid (32 ≤ c → c ≠ 34 → c ≠ 92 → ∀ W, Calls Tryd.prog 30 #[.string (strOfNums (byt c))] W fun e w' => ∃ t, e = .returned (.string t) ∧ t.size = (strOfNums (byt c)).size + 2 ∧ Below W.heap.size W w') := Lib.hid fun q0 q1 q2 W => r_quote_plain _ W (by omega) (fun d hd => by
      have hm : (d.toNat : Int) ∈ N8 (strOfNums (byt c)) := List.mem_map_of_mem hd
      rw [hN8] at hm
      have := byt_plain hi q0 q1 q2 _ hm
      omega)
    obtain ⟨tt, htt⟩ : ∃ tt, strOfNums (byt c) = tt := ⟨_, rfl⟩
    rw [htt] at hcv hsz HPL HTC HQB
    obtain ⟨ln, hln⟩ : ∃ ln, (byt c).length = ln := ⟨_, rfl⟩
    rw [hln] at hcv hsz hl1 hl4 ⊢
    have HLL := Lib.hid hln
    clear ho hb2 HNW HB1 hN8 HN2 htt hln
    by_cases k1 : c < 32
    · have hR : feedS ss0 (byt c) 0 = (0, 2, false, ss0) := feed_ctl hc.1 k1
      rw [hR] at HPL
      go_wp2_with fail
      with_reducible refine HPL.out.mono ?_
      rintro e w4 ⟨rfl, sv4, p1, p2, p3⟩
      dsimp only at p1 ⊢
      have HB4 := Lib.hid (HB3.out.trans (p2.low HB3.out.size HLOW.out.1 HLOW.out.2.1 HLOW.out.2.2))
      have HS4 := Lib.hid p1
      have HLN : Hid (∀ W, StrIs W w.heap.size g bb sv4 (ss0) → Calls Tryd.prog 12 #[.pointer (some ⟨g, 0, none⟩)] W fun e w' => e = .returned (.int .i64 ((([] : List Int)).length : Int)) ∧ W = w') := Lib.hid fun W h => strlen_any w.heap.size g bb sv4 _ W h
      have HIN : Hid (∀ W, StrIs W w.heap.size g bb sv4 (ss0) → Calls Tryd.prog 13 #[.pointer (some ⟨g, 0, none⟩)] W fun e w' => e = .returned (.bool false) ∧ W = w') := Lib.hid fun W h => by
        have h1 := inside_any w.heap.size g bb sv4 _ W h
        rw [(rfl : insS ss0 = false)] at h1
        exact h1
      have HTX : Hid (∀ W, StrIs W w.heap.size g bb sv4 (ss0) → Calls Tryd.prog 15 #[.pointer (some ⟨g, 0, none⟩)] W fun e w' => e = .returned (.string (strOfNums (txt (([] : List Int))))) ∧ W = w') := Lib.hid fun W h => strtext_any w.heap.size g bb sv4 _ W h
      clear p1 p2 p3 HPL hR HB3 HLOW
      go_wp2_with fail
      with_reducible refine (HLN.out _ HS4.out).mono ?_
      rintro e _ ⟨rfl, rfl⟩
      go_wp2_with fail
      with_reducible refine (HAW.out _ HB4.out).mono ?_
      rintro e1 w6 ⟨rfl, hb6⟩
      have HB6 := Lib.hid (HB4.out.trans (hb6.mono HB4.out.size))
      clear hb6
      go_wp2
      go_ret
      exact ⟨rfl, HB6.out⟩
    by_cases k2 : c = 34
    · subst k2
      have hR := feed_quote
      rw [hR] at HPL
      go_wp2_with fail
      with_reducible refine HPL.out.mono ?_
      rintro e w4 ⟨rfl, sv4, p1, p2, p3⟩
      dsimp only at p1 ⊢
      have HB4 := Lib.hid (HB3.out.trans (p2.low HB3.out.size HLOW.out.1 HLOW.out.2.1 HLOW.out.2.2))
      have HS4 := Lib.hid p1
      have HLN : Hid (∀ W, StrIs W w.heap.size g bb sv4 ({ ss0 with v := true }) → Calls Tryd.prog 12 #[.pointer (some ⟨g, 0, none⟩)] W fun e w' => e = .returned (.int .i64 ((([] : List Int)).length : Int)) ∧ W = w') := Lib.hid fun W h => strlen_any w.heap.size g bb sv4 _ W h
      have HIN : Hid (∀ W, StrIs W w.heap.size g bb sv4 ({ ss0 with v := true }) → Calls Tryd.prog 13 #[.pointer (some ⟨g, 0, none⟩)] W fun e w' => e = .returned (.bool false) ∧ W = w') := Lib.hid fun W h => by
        have h1 := inside_any w.heap.size g bb sv4 _ W h
        rw [(rfl : insS { ss0 with v := true } = false)] at h1
        exact h1
      have HTX : Hid (∀ W, StrIs W w.heap.size g bb sv4 ({ ss0 with v := true }) → Calls Tryd.prog 15 #[.pointer (some ⟨g, 0, none⟩)] W fun e w' => e = .returned (.string ⟨#[]⟩) ∧ W = w') := Lib.hid fun W h => strtext_any w.heap.size g bb sv4 _ W h
      clear p1 p2 p3 HPL hR HB3 HLOW
      have heq : ((⟨#[]⟩ : ByteArray).toList == []) = true := by kernel_rfl
      have heq2 : ((⟨#[]⟩ : ByteArray).toList == (⟨#[]⟩ : ByteArray).toList) = true := by kernel_rfl
      go_wp2_with fail
      with_reducible refine (HTX.out _ HS4.out).mono ?_
      rintro e _ ⟨rfl, rfl⟩
      go_wp2_with fail
      with_reducible refine (HAW.out _ HB4.out).mono ?_
      rintro e1 w6 ⟨rfl, hb6⟩
      have HB6 := Lib.hid (HB4.out.trans (hb6.mono HB4.out.size))
      clear hb6
      go_wp2
      go_ret
      exact ⟨rfl, HB6.out⟩
    by_cases k3 : c = 92
    · subst k3
      have hR := feed_sign
      rw [hR] at HPL
      go_wp2_with fail
      with_reducible refine HPL.out.mono ?_
      rintro e w4 ⟨rfl, sv4, p1, p2, p3⟩
      dsimp only at p1 ⊢
      have HB4 := Lib.hid (HB3.out.trans (p2.low HB3.out.size HLOW.out.1 HLOW.out.2.1 HLOW.out.2.2))
      have HS4 := Lib.hid p1
      have HLN : Hid (∀ W, StrIs W w.heap.size g bb sv4 ({ ss0 with e := 1 }) → Calls Tryd.prog 12 #[.pointer (some ⟨g, 0, none⟩)] W fun e w' => e = .returned (.int .i64 ((([] : List Int)).length : Int)) ∧ W = w') := Lib.hid fun W h => strlen_any w.heap.size g bb sv4 _ W h
      have HIN : Hid (∀ W, StrIs W w.heap.size g bb sv4 ({ ss0 with e := 1 }) → Calls Tryd.prog 13 #[.pointer (some ⟨g, 0, none⟩)] W fun e w' => e = .returned (.bool true) ∧ W = w') := Lib.hid fun W h => by
        have h1 := inside_any w.heap.size g bb sv4 _ W h
        rw [(rfl : insS { ss0 with e := 1 } = true)] at h1
        exact h1
      have HTX : Hid (∀ W, StrIs W w.heap.size g bb sv4 ({ ss0 with e := 1 }) → Calls Tryd.prog 15 #[.pointer (some ⟨g, 0, none⟩)] W fun e w' => e = .returned (.string (strOfNums (txt (([] : List Int))))) ∧ W = w') := Lib.hid fun W h => strtext_any w.heap.size g bb sv4 _ W h
      clear p1 p2 p3 HPL hR HB3 HLOW
      go_wp2_with fail
      with_reducible refine (HIN.out _ HS4.out).mono ?_
      rintro e _ ⟨rfl, rfl⟩
      go_wp2_with fail
      with_reducible refine (HLN.out _ HS4.out).mono ?_
      rintro e _ ⟨rfl, rfl⟩
      go_wp2_with fail
      with_reducible refine (HAW.out _ HB4.out).mono ?_
      rintro e1 w6 ⟨rfl, hb6⟩
      have HB6 := Lib.hid (HB4.out.trans (hb6.mono HB4.out.size))
      clear hb6
      go_wp2
      go_ret
      exact ⟨rfl, HB6.out⟩
    have b2 : (c == 34) = false := beq_eq_false_iff_ne.2 k2
    have b3 : (c == 92) = false := beq_eq_false_iff_ne.2 k3
    have HNC := Lib.hid (fun W => r_nonchar_any c W)
    cases hnc : noncharB c with
    | true =>
      rw [hnc] at HNC
      obtain ⟨m, b, hbl, hm1, hbn, hR⟩ := feed_non hi hnc
      have hbl2 := HLL.out
      have hsz2 : (tt.size : Int) = (m : Int) + 1 := by omega
      have hwm : IntKind.i64.wrap (m : Int) = (m : Int) := IntWalk.i64_in _ (by omega)
      have hm2 : 1 < (m : Int) + 1 := by omega
      rw [hR] at HPL
      go_wp2_with fail
      with_reducible refine HPL.out.mono ?_
      rintro e w4 ⟨rfl, sv4, p1, p2, p3⟩
      dsimp only at p1 ⊢
      have HB4 := Lib.hid (HB3.out.trans (p2.low HB3.out.size HLOW.out.1 HLOW.out.2.1 HLOW.out.2.2))
      have HS4 := Lib.hid p1
      have HLN : Hid (∀ W, StrIs W w.heap.size g bb sv4 ({ ss0 with b := b }) → Calls Tryd.prog 12 #[.pointer (some ⟨g, 0, none⟩)] W fun e w' => e = .returned (.int .i64 ((([] : List Int)).length : Int)) ∧ W = w') := Lib.hid fun W h => strlen_any w.heap.size g bb sv4 _ W h
      have HIN : Hid (∀ W, StrIs W w.heap.size g bb sv4 ({ ss0 with b := b }) → Calls Tryd.prog 13 #[.pointer (some ⟨g, 0, none⟩)] W fun e w' => e = .returned (.bool true) ∧ W = w') := Lib.hid fun W h => by
        have h1 := inside_any w.heap.size g bb sv4 _ W h
        rw [(show insS { ss0 with b := b } = true by unfold insS; simp [ss0, hbn])] at h1
        exact h1
      have HTX : Hid (∀ W, StrIs W w.heap.size g bb sv4 ({ ss0 with b := b }) → Calls Tryd.prog 15 #[.pointer (some ⟨g, 0, none⟩)] W fun e w' => e = .returned (.string (strOfNums (txt (([] : List Int))))) ∧ W = w') := Lib.hid fun W h => strtext_any w.heap.size g bb sv4 _ W h
      clear p1 p2 p3 HPL hR HB3 HLOW
      go_wp2_with fail
      with_reducible refine (HNC.out _).mono ?_
      rintro e _ ⟨rfl, rfl⟩
      go_wp2_with fail
      with_reducible refine (HLN.out _ HS4.out).mono ?_
      rintro e _ ⟨rfl, rfl⟩
      go_wp2_with fail
      with_reducible refine (HIN.out _ HS4.out).mono ?_
      rintro e _ ⟨rfl, rfl⟩
      go_wp2_with fail
      with_reducible refine (HAW.out _ HB4.out).mono ?_
      rintro e1 w6 ⟨rfl, hb6⟩
      have HB6 := Lib.hid (HB4.out.trans (hb6.mono HB4.out.size))
      clear hb6
      go_wp2
      go_ret
      exact ⟨rfl, HB6.out⟩
    | false =>
      rw [hnc] at HNC
      have hR := feed_ok hi (by omega) k2 k3 hnc
      rw [HLL.out] at hR
      have HQ := Lib.hid (HQB.out (by omega) k2 k3)
      rw [hR] at HPL
      go_wp2_with fail
      with_reducible refine HPL.out.mono ?_
      rintro e w4 ⟨rfl, sv4, p1, p2, p3⟩
      dsimp only at p1 ⊢
      have HB4 := Lib.hid (HB3.out.trans (p2.low HB3.out.size HLOW.out.1 HLOW.out.2.1 HLOW.out.2.2))
      have HS4 := Lib.hid p1
      have HLN : Hid (∀ W, StrIs W w.heap.size g bb sv4 ({ ss0 with o := [c] }) → Calls Tryd.prog 12 #[.pointer (some ⟨g, 0, none⟩)] W fun e w' => e = .returned (.int .i64 (([c]).length : Int)) ∧ W = w') := Lib.hid fun W h => strlen_any w.heap.size g bb sv4 _ W h
      have HIN : Hid (∀ W, StrIs W w.heap.size g bb sv4 ({ ss0 with o := [c] }) → Calls Tryd.prog 13 #[.pointer (some ⟨g, 0, none⟩)] W fun e w' => e = .returned (.bool false) ∧ W = w') := Lib.hid fun W h => by
        have h1 := inside_any w.heap.size g bb sv4 _ W h
        rw [(rfl : insS { ss0 with o := [c] } = false)] at h1
        exact h1
      have HTX : Hid (∀ W, StrIs W w.heap.size g bb sv4 ({ ss0 with o := [c] }) → Calls Tryd.prog 15 #[.pointer (some ⟨g, 0, none⟩)] W fun e w' => e = .returned (.string (strOfNums (txt ([c])))) ∧ W = w') := Lib.hid fun W h => strtext_any w.heap.size g bb sv4 _ W h
      clear p1 p2 p3 HPL hR HB3 HLOW
      rw [HTC.out] at HTX
      have heq : (tt.toList == tt.toList) = true := by simp
      go_wp2_with fail
      with_reducible refine (HNC.out _).mono ?_
      rintro e _ ⟨rfl, rfl⟩
      go_wp2_with fail
      with_reducible refine (HTX.out _ HS4.out).mono ?_
      rintro e _ ⟨rfl, rfl⟩
      go_wp2_with fail
      with_reducible refine (HLN.out _ HS4.out).mono ?_
      rintro e _ ⟨rfl, rfl⟩
      go_wp2_with fail
      with_reducible refine (HIN.out _ HS4.out).mono ?_
      rintro e _ ⟨rfl, rfl⟩
      go_wp2_with fail
      with_reducible refine (HQ.out _).mono ?_
      rintro e w5 ⟨tq, rfl, htq, hb5⟩
      have HB5 := Lib.hid (HB4.out.trans (hb5.mono HB4.out.size))
      have hq3 : (3 : Int) ≤ tq.size := by omega
      clear hb5 HB4 HQ
      have HB4 := HB5
      go_wp2_with fail
      with_reducible refine (HAW.out _ HB4.out).mono ?_
      rintro e1 w6 ⟨rfl, hb6⟩
      have HB6 := Lib.hid (HB4.out.trans (hb6.mono HB4.out.size))
      clear hb6
      go_wp2
      go_ret
      exact ⟨rfl, HB6.out⟩
end Go.Proofs.YtdcfhkiajeiaoaaDoor
