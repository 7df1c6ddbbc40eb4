/- Contracts of the document's Compare (orthoepyref03) and of the two that ask whether rows are alike. -/
import Derived.Test.YtmidoopapfkilaaU16Ref
namespace Go.Proofs.Ytmidoopapfkilaa
open Go.ChangeShapes Go.WideShapes Go.ChangeAt Go.RowKit
set_option linter.unusedVariables false

theorem drop_at (l : List Int) (k : Nat) (hk : k < l.length) : l.drop k = l.getD k 0 :: l.drop (k + 1) := by
  rw [List.getD_eq_getElem?_getD, List.getElem?_eq_getElem hk]; simp
theorem cmpL_at (u v : List Int) (k : Nat) (h : k < u.length) (g : k < v.length) : cmpL (u.drop k) (v.drop k) = if u.getD k 0 < v.getD k 0 then -1 else if v.getD k 0 < u.getD k 0 then 1 else cmpL (u.drop (k + 1)) (v.drop (k + 1)) := by
  rw [drop_at u k h, drop_at v k g]; rfl

def CmpLoop (w2 : World) (u v : List Int) (R : Int) (i : Value) (w1 : World) : Prop :=
  ∃ k : Nat, k ≤ u.length ∧ k ≤ v.length ∧ i = .int .i64 k ∧ cmpL (u.drop k) (v.drop k) = R ∧ Still w2 w1

set_option maxHeartbeats 2000000 in
theorem r_compare_any (A B : Option Addr) (n m ca cb : Nat) (xs ys : List Int) (w : World) (hn : xs.length = n) (hm : ys.length = m) (hA : Ints w w.heap.size .i32 A xs) (hB : Ints w w.heap.size .i32 B ys) (hx : n ≤ 65536) (hy : m ≤ 65536) :
    Calls Try.prog 16 #[.slice A n ca, .slice B m cb] w fun e w' => e = .returned (.int .i64 (cmpL (uns xs) (uns ys))) ∧ Below w.heap.size w w' := by
  have HA := Lib.hid hA
  have HB := Lib.hid hB
  clear hA hB
  have hlx := uns_len xs
  have hly := uns_len ys
  generalize hres : cmpL (uns xs) (uns ys) = R
  have HRES := Lib.hid hres
  clear hres
  go_enter Try.func16, Try.ntmps16
  go_wp2_with fail
  with_reducible refine (r_unitsL_any A n ca xs w hn HA.out hx).mono ?_
  rintro e w1 ⟨v1, rfl, hO1, hb1⟩
  obtain ⟨A1, c1, rfl, hc1, hcm1⟩ := own_form hO1
  have HI1 := Lib.hid (Ints.own hO1)
  clear hO1
  go_wp2_with fail
  with_reducible refine (r_unitsL_any B m cb ys w1 hm ((HB.out.below hb1 (Nat.le_refl _)).more hb1.size) hy).mono ?_
  rintro e w2 ⟨v2, rfl, hO2, hb2⟩
  obtain ⟨A2, c2, rfl, hc2, hcm2⟩ := own_form hO2
  have HI2 := Lib.hid (Ints.own hO2)
  have HI12 := Lib.hid ((HI1.out.below hb2 (Nat.le_refl _)).more hb2.size)
  have hb := hb1.trans (hb2.mono hb1.size)
  clear hO2 HI1 hb1 hb2
  generalize uns xs = u at *
  generalize uns ys = v at *
  go_wp2_with fail
  go_loopw [7] (fun i wr => CmpLoop w2 u v R i wr) (fun i _ => u.length - (intOf i).toNat)
  case atStart => exact ⟨0, Nat.zero_le _, Nat.zero_le _, rfl, HRES.out, Still.refl w2⟩
  case round =>
    obtain ⟨k, hku, hkv, rfl, hR, hst⟩ := hrel
    have hbr := hb.trans (hst.lower _)
    by_cases hu : k < u.length
    · have hu' : (k : Int) < u.length := by omega
      by_cases hv : k < v.length
      · have hv' : (k : Int) < v.length := by omega
        obtain ⟨b, o, rfl, hbl, hc⟩ := HI12.out.at (by omega)
        obtain ⟨b', o', rfl, hbl', hc'⟩ := HI2.out.at (by omega)
        have k1 : wr.cell? ⟨b, o + k, none⟩ = some (.int .u16 (u.getD k 0)) := (hst.cell _).trans (hc k hu)
        have k2 : wr.cell? ⟨b', o' + k, none⟩ = some (.int .u16 (v.getD k 0)) := (hst.cell _).trans (hc' k hv)
        rw [cmpL_at u v k hu hv] at hR
        generalize u.getD k 0 = x at *
        generalize v.getD k 0 = y at *
        have HR := Lib.hid hR
        clear hc hc' hR
        by_cases hxy : x < y
        · have hr := HR.out
          rw [if_pos hxy] at hr
          subst hr
          clear HR
          go_wp2_with fail
          go_quiet (fail)
          go_wp2
          go_ret
          exact ⟨rfl, below_drewN' hbr _⟩
        · have hr := HR.out
          rw [if_neg hxy] at hr
          by_cases hyx : y < x
          · rw [if_pos hyx] at hr
            subst hr
            clear HR
            go_wp2_with fail
            go_quiet (fail)
            have k1' : (wr.drewN nq).cell? ⟨b, o + k, none⟩ = some (.int .u16 x) := k1
            have k2' : (wr.drewN nq).cell? ⟨b', o' + k, none⟩ = some (.int .u16 y) := k2
            have hbq := below_drewN' hbr nq
            generalize wr.drewN nq = wq at *
            go_wp2_with fail
            go_quiet (fail)
            go_wp2
            go_ret
            exact ⟨rfl, below_drewN' hbq _⟩
          · rw [if_neg hyx] at hr
            have HS := Lib.hid hr
            clear hr HR
            go_wp2_with fail
            go_quiet (fail)
            have k1' : (wr.drewN nq).cell? ⟨b, o + k, none⟩ = some (.int .u16 x) := k1
            have k2' : (wr.drewN nq).cell? ⟨b', o' + k, none⟩ = some (.int .u16 y) := k2
            have hsq := hst.drewN nq
            generalize wr.drewN nq = wq at *
            go_wp2_with fail
            go_quiet (fail)
            go_wp2
            go_roundw
            case rel => exact ⟨k + 1, by omega, by omega, by go_num, HS.out, hsq.drewN _⟩
            case measure => simp [intOf]; omega
      · have hv' : ¬ (k : Int) < v.length := by omega
        have hkk : k = v.length := by omega
        have hr : R = 1 := by
          rw [← hR, List.drop_eq_nil_of_le (by omega : v.length ≤ k), drop_at u k hu]; rfl
        have d1 : decide ((u.length : Int) < v.length) = false := decide_eq_false (by omega)
        have d2 : decide ((v.length : Int) < u.length) = true := decide_eq_true (by omega)
        subst hr
        clear hR
        go_wp2
        go_ret
        exact ⟨rfl, hbr⟩
    · have hu' : ¬ (k : Int) < u.length := by omega
      by_cases hv : k < v.length
      · have hr : R = -1 := by
          rw [← hR, List.drop_eq_nil_of_le (by omega : u.length ≤ k), drop_at v k hv]; rfl
        have d1 : decide ((u.length : Int) < v.length) = true := decide_eq_true (by omega)
        subst hr
        clear hR
        go_wp2
        go_ret
        exact ⟨rfl, hbr⟩
      · have hr : R = 0 := by
          rw [← hR, List.drop_eq_nil_of_le (by omega : u.length ≤ k), List.drop_eq_nil_of_le (by omega : v.length ≤ k)]; rfl
        have d1 : decide ((u.length : Int) < v.length) = false := decide_eq_false (by omega)
        have d2 : decide ((v.length : Int) < u.length) = false := decide_eq_false (by omega)
        subst hr
        clear hR
        go_wp2
        go_ret
        exact ⟨rfl, hbr⟩

theorem take_snoc' (xs : List Int) (k : Nat) (hk : k < xs.length) : xs.take (k + 1) = xs.take k ++ [xs.getD k 0] := take_snoc xs k hk
theorem ne_at {xs ys : List Int} {k : Nat} (h : xs.getD k 0 ≠ ys.getD k 0) : decide (xs = ys) = false := decide_eq_false (fun e => h (by rw [e]))
def SameLoop (w : World) (xs ys : List Int) (i : Value) (w1 : World) : Prop := ∃ k : Nat, k ≤ xs.length ∧ i = .int .i64 k ∧ xs.take k = ys.take k ∧ Still w w1

set_option maxHeartbeats 1000000 in
theorem same_any (A B : Option Addr) (n m c d : Nat) (xs ys : List Int) (w : World) (hn : xs.length = n) (hm : ys.length = m) (hA : Ints w w.heap.size .i32 A xs) (hB : Ints w w.heap.size .i32 B ys) (hl : n ≤ 1048576) (hl2 : m ≤ 1048576) :
    Calls Try.prog 14 #[.slice A n c, .slice B m d] w fun e w' => e = .returned (.bool (decide (xs = ys))) ∧ Still w w' := by
  have HA := Lib.hid hA
  have HB := Lib.hid hB
  clear hA hB
  by_cases hnm : n = m
  · subst hnm
    generalize hres : decide (xs = ys) = R
    have HRES := Lib.hid hres
    clear hres
    have HM := Lib.hid hm
    clear hm
    have hne : ((n : Int) != n) = false := by simp
    have HN := Lib.hid hn
    clear hn
    go_enter Try.func14, Try.ntmps14
    go_wp2_with fail
    go_loopw [5] (fun i w1 => SameLoop w xs ys i w1) (fun i _ => n - (intOf i).toNat)
    case atStart => exact ⟨0, by omega, rfl, rfl, Still.refl w⟩
    case round =>
      obtain ⟨k, hk, rfl, hT, hst⟩ := hrel
      rw [HN.out] at hk
      by_cases hlt : k < n
      · have hkx : k < xs.length := by rw [HN.out]; exact hlt
        have hky : k < ys.length := by rw [HM.out]; exact hlt
        obtain ⟨b, o, rfl, hbl, hc⟩ := HA.out.at (by omega)
        obtain ⟨b', o', rfl, hbl', hc'⟩ := HB.out.at (by omega)
        have h1 : wr.cell? ⟨b, o + k, none⟩ = some (.int .i32 (xs.getD k 0)) := (hst.cell _).trans (hc k hkx)
        have h2 : wr.cell? ⟨b', o' + k, none⟩ = some (.int .i32 (ys.getD k 0)) := (hst.cell _).trans (hc' k hky)
        have hlt' : (k : Int) < n := by omega
        have HS := Lib.hid (take_snoc xs k hkx)
        have HS' := Lib.hid (take_snoc ys k hky)
        have HT := Lib.hid hT
        have HE := Lib.hid (ne_at (xs := xs) (ys := ys) (k := k))
        generalize xs.getD k 0 = x at *
        generalize ys.getD k 0 = y at *
        clear hc hc' hT hkx hky
        by_cases hxy : x = y
        · subst hxy
          have hx : (x != x) = false := by simp
          go_wp2_with fail
          go_quiet (fail)
          go_wp2
          go_roundw
          case rel => exact ⟨k + 1, by rw [HN.out]; omega, by go_num, by rw [HS.out, HS'.out, HT.out], hst.drewN _⟩
          case measure => simp [intOf]; omega
        · have hx : (x != y) = true := by simp [hxy]
          have hr : R = false := HRES.out.symm.trans (HE.out hxy)
          subst hr
          clear HRES HE
          go_wp2_with fail
          go_quiet (fail)
          go_wp2
          go_ret
          exact ⟨rfl, hst.drewN _⟩
      · have hkk : k = n := by omega
        subst hkk
        have hlt' : ¬ (k : Int) < k := by omega
        have hr : R = true := by
          rw [← HRES.out]
          refine decide_eq_true ?_
          have e := hT
          rw [List.take_of_length_le (by rw [HN.out]; exact Nat.le_refl _), List.take_of_length_le (by rw [HM.out]; exact Nat.le_refl _)] at e
          exact e
        subst hr
        clear HRES hT
        go_wp2
        go_ret
        exact ⟨rfl, hst⟩
  · have hr : decide (xs = ys) = false := decide_eq_false (fun e => hnm (by rw [← hn, ← hm, e]))
    rw [hr]
    have hne : ((n : Int) != m) = true := by simp; omega
    clear hr hn hm
    go_enter Try.func14, Try.ntmps14
    go_wp2
    go_ret
    exact ⟨rfl, Still.refl w⟩

set_option maxHeartbeats 1000000 in
theorem sameU_any (A B : Option Addr) (n m c d : Nat) (xs ys : List Int) (w : World) (hn : xs.length = n) (hm : ys.length = m) (hA : Ints w w.heap.size .u16 A xs) (hB : Ints w w.heap.size .u16 B ys) (hl : n ≤ 1048576) (hl2 : m ≤ 1048576) :
    Calls Try.prog 11 #[.slice A n c, .slice B m d] w fun e w' => e = .returned (.bool (decide (xs = ys))) ∧ Still w w' := by
  have HA := Lib.hid hA
  have HB := Lib.hid hB
  clear hA hB
  by_cases hnm : n = m
  · subst hnm
    generalize hres : decide (xs = ys) = R
    have HRES := Lib.hid hres
    clear hres
    have HM := Lib.hid hm
    clear hm
    have hne : ((n : Int) != n) = false := by simp
    have HN := Lib.hid hn
    clear hn
    go_enter Try.func11, Try.ntmps11
    go_wp2_with fail
    go_loopw [5] (fun i w1 => SameLoop w xs ys i w1) (fun i _ => n - (intOf i).toNat)
    case atStart => exact ⟨0, by omega, rfl, rfl, Still.refl w⟩
    case round =>
      obtain ⟨k, hk, rfl, hT, hst⟩ := hrel
      rw [HN.out] at hk
      by_cases hlt : k < n
      · have hkx : k < xs.length := by rw [HN.out]; exact hlt
        have hky : k < ys.length := by rw [HM.out]; exact hlt
        obtain ⟨b, o, rfl, hbl, hc⟩ := HA.out.at (by omega)
        obtain ⟨b', o', rfl, hbl', hc'⟩ := HB.out.at (by omega)
        have h1 : wr.cell? ⟨b, o + k, none⟩ = some (.int .u16 (xs.getD k 0)) := (hst.cell _).trans (hc k hkx)
        have h2 : wr.cell? ⟨b', o' + k, none⟩ = some (.int .u16 (ys.getD k 0)) := (hst.cell _).trans (hc' k hky)
        have hlt' : (k : Int) < n := by omega
        have HS := Lib.hid (take_snoc xs k hkx)
        have HS' := Lib.hid (take_snoc ys k hky)
        have HT := Lib.hid hT
        have HE := Lib.hid (ne_at (xs := xs) (ys := ys) (k := k))
        generalize xs.getD k 0 = x at *
        generalize ys.getD k 0 = y at *
        clear hc hc' hT hkx hky
        by_cases hxy : x = y
        · subst hxy
          have hx : (x != x) = false := by simp
          go_wp2_with fail
          go_quiet (fail)
          go_wp2
          go_roundw
          case rel => exact ⟨k + 1, by rw [HN.out]; omega, by go_num, by rw [HS.out, HS'.out, HT.out], hst.drewN _⟩
          case measure => simp [intOf]; omega
        · have hx : (x != y) = true := by simp [hxy]
          have hr : R = false := HRES.out.symm.trans (HE.out hxy)
          subst hr
          clear HRES HE
          go_wp2_with fail
          go_quiet (fail)
          go_wp2
          go_ret
          exact ⟨rfl, hst.drewN _⟩
      · have hkk : k = n := by omega
        subst hkk
        have hlt' : ¬ (k : Int) < k := by omega
        have hr : R = true := by
          rw [← HRES.out]
          refine decide_eq_true ?_
          have e := hT
          rw [List.take_of_length_le (by rw [HN.out]; exact Nat.le_refl _), List.take_of_length_le (by rw [HM.out]; exact Nat.le_refl _)] at e
          exact e
        subst hr
        clear HRES hT
        go_wp2
        go_ret
        exact ⟨rfl, hst⟩
  · have hr : decide (xs = ys) = false := decide_eq_false (fun e => hnm (by rw [← hn, ← hm, e]))
    rw [hr]
    have hne : ((n : Int) != m) = true := by simp; omega
    clear hr hn hm
    go_enter Try.func11, Try.ntmps11
    go_wp2
    go_ret
    exact ⟨rfl, Still.refl w⟩
end Go.Proofs.Ytmidoopapfkilaa
