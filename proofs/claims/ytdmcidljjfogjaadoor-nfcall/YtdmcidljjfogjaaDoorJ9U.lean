/- Joined of: R9, R9Quick. -/
import Derived.Test.YtdmcidljjfogjaaDoorJ9Q
import Derived.Test.YtdmcidljjfogjaaDoorJ9R
import Derived.Test.YtdmcidljjfogjaaDoorJ9M
import Derived.Test.YtdmcidljjfogjaaDoorJ9K
import Derived.Test.YtdmcidljjfogjaaDoorJ9P
import Derived.Test.YtdmcidljjfogjaaDoorJ9I
import Derived.Test.YtdmcidljjfogjaaDoorJ9G
import Derived.BigQuiet
import Derived.Deep.QuietTactic
/- The document's Form, Is, Equal and Text of layer 9 by their contracts. -/
namespace Go.Proofs.YtdmcidljjfogjaaDoor
set_option maxRecDepth 100000
open Go.ChangeShapes Go.WideShapes Go.ChangeAt Go.RowKit
set_option linter.unusedVariables false
set_option linter.unusedSimpArgs false
attribute [local irreducible] P5 S5 C5

/-- what the document's calls have at hand -/
structure RxAt (W : World) (R : Nat) (A : Option Addr) (n c : Nat) (l : List Int) (w : World) : Prop where
  dt : DT w R
  row : RowIn w A n c l
  be : Below W.heap.size W w
theorem RxAt.go {W w w' : World} {R : Nat} {A : Option Addr} {n c : Nat} {l : List Int} (h : RxAt W R A n c l w) (hb : Below w.heap.size w w') : RxAt W R A n c l w' := ⟨h.dt.go hb, h.row.go hb, h.be.trans (hb.mono h.be.size)⟩

set_option maxHeartbeats 2000000 in
theorem rform_any (W : World) (R : Nat) (A : Option Addr) (n c : Nat) (l : List Int) (hA : RowIn W A n c l) (hT : DT W R) (hR : ∀ x ∈ l, R32 x) (hn : n ≤ 10000) :
    Calls Tryd.prog 13 #[.pointer (some ⟨R, 0, none⟩), .slice A n c] W (RowOut W (form5 l)) := by
  have HX : Hid (RxAt W R A n c l W) := Lib.hid ⟨hT, hA, Below.refl _ _⟩
  have HR := Lib.hid hR
  clear hA hT hR
  go_enter Tryd.func13, Tryd.ntmps13
  go_wp2_with fail
  with_reducible refine (rall_any _ R _ _ _ _ HX.out.row HX.out.dt HR.out (by omega)).mono ?_
  rintro e w1 ⟨A1, n1, c1, rfl, hr1, hb1⟩
  have hle1 : n1 ≤ 1000000000 := by
    have h1 := hr1.len
    have h2 := allF_len (cl := cl5) sy5_len l
    rw [HX.out.row.len] at h2
    omega
  have HX1 := Lib.hid (HX.out.go hb1)
  have HR1 := Lib.hid hr1
  clear hr1 hb1 HX
  go_wp2_with fail
  with_reducible refine (rcompose_out _ R _ _ _ _ HR1.out HX1.out.dt (all5_in HR.out) hle1).mono ?_
  rintro e w2 ⟨A2, n2, c2, rfl, hr2, hb2⟩
  have HX2 := Lib.hid (HX1.out.go hb2)
  have HR2 := Lib.hid hr2
  clear hr2 hb2 HX1 HR1
  go_wp2
  go_ret
  exact ⟨A2, n2, c2, rfl, HR2.out, HX2.out.be⟩
theorem form_le {w : World} {A : Option Addr} {n c : Nat} {l : List Int} {B : Option Addr} {m d : Nat} (hA : RowIn w A n c l) (hB : RowIn w B m d (form5 l)) (hn : n ≤ 10000) : m ≤ 1000000 := by
  have h1 := hB.len
  have h2 := form_len l
  rw [hA.len] at h2
  omega
set_option maxHeartbeats 2000000 in
theorem ris_any (W : World) (R : Nat) (A : Option Addr) (n c : Nat) (l : List Int) (hA : RowIn W A n c l) (hT : DT W R) (hR : ∀ x ∈ l, R32 x) (hn : n ≤ 10000) :
    Calls Tryd.prog 15 #[.pointer (some ⟨R, 0, none⟩), .slice A n c] W fun e w' => e = .returned (.bool (decide (form5 l = l))) ∧ Below W.heap.size W w' := by
  have HX : Hid (RxAt W R A n c l W) := Lib.hid ⟨hT, hA, Below.refl _ _⟩
  have HR := Lib.hid hR
  clear hA hT hR
  go_enter Tryd.func15, Tryd.ntmps15
  go_wp2_with fail
  with_reducible refine (rform_any _ R _ _ _ _ HX.out.row HX.out.dt HR.out hn).mono ?_
  rintro e w1 ⟨A1, n1, c1, rfl, hr1, hb1⟩
  have HX1 := Lib.hid (HX.out.go hb1)
  have HR1 := Lib.hid hr1
  clear hr1 hb1 HX
  have hle1 := form_le HX1.out.row HR1.out hn
  go_wp2_with fail
  with_reducible refine (same_dec HR1.out HX1.out.row hle1 (by omega)).mono ?_
  rintro e w2 ⟨rfl, hs2⟩
  have HX2 := Lib.hid (HX1.out.go hs2.below)
  clear hs2 HX1 HR1
  go_wp2
  go_ret
  exact ⟨rfl, HX2.out.be⟩
set_option maxHeartbeats 2000000 in
theorem requal_any (W : World) (R : Nat) (A : Option Addr) (n c : Nat) (l : List Int) (B : Option Addr) (m d : Nat) (k : List Int) (hA : RowIn W A n c l) (hB : RowIn W B m d k) (hT : DT W R) (hR : ∀ x ∈ l, R32 x) (hRk : ∀ x ∈ k, R32 x) (hn : n ≤ 10000) (hm : m ≤ 10000) :
    Calls Tryd.prog 19 #[.pointer (some ⟨R, 0, none⟩), .slice A n c, .slice B m d] W fun e w' => e = .returned (.bool (decide (form5 l = form5 k))) ∧ Below W.heap.size W w' := by
  have HX : Hid (RxAt W R A n c l W) := Lib.hid ⟨hT, hA, Below.refl _ _⟩
  have HB := Lib.hid hB
  have HR := Lib.hid hR
  have HRK := Lib.hid hRk
  clear hA hT hR hB hRk
  go_enter Tryd.func19, Tryd.ntmps19
  go_wp2_with fail
  with_reducible refine (rform_any _ R _ _ _ _ HX.out.row HX.out.dt HR.out hn).mono ?_
  rintro e w1 ⟨A1, n1, c1, rfl, hr1, hb1⟩
  have HX1 := Lib.hid (HX.out.go hb1)
  have HB1 := Lib.hid (HB.out.go hb1)
  have HR1 := Lib.hid hr1
  clear hr1 hb1 HX HB
  have hle1 := form_le HX1.out.row HR1.out hn
  go_wp2_with fail
  with_reducible refine (rform_any _ R _ _ _ _ HB1.out HX1.out.dt HRK.out hm).mono ?_
  rintro e w2 ⟨A2, n2, c2, rfl, hr2, hb2⟩
  have HX2 := Lib.hid (HX1.out.go hb2)
  have HB2 := Lib.hid (HB1.out.go hb2)
  have HR1' := Lib.hid (HR1.out.go hb2)
  have HR2 := Lib.hid hr2
  clear hr2 hb2 HX1 HB1 HR1
  have hle2 := form_le HB2.out HR2.out hm
  go_wp2_with fail
  with_reducible refine (same_dec HR1'.out HR2.out hle1 hle2).mono ?_
  rintro e w3 ⟨rfl, hs3⟩
  have HX3 := Lib.hid (HX2.out.go hs3.below)
  clear hs3 HX2 HR1' HR2
  go_wp2
  go_ret
  exact ⟨rfl, HX3.out.be⟩
set_option maxHeartbeats 4000000 in
theorem rtext_any (W : World) (R : Nat) (xs : List Int) (hT : DT W R) (hB : Bts xs) (hx : xs.length ≤ 600) :
    Calls Tryd.prog 21 #[.pointer (some ⟨R, 0, none⟩), .string (strOfNums xs)] W fun e w' => e = .returned (.string (strOfNums (textF xs))) ∧ Below W.heap.size W w' := by
  obtain ⟨A, c, w1, hrun, hcr⟩ := conv_bytes W xs hB (by omega)
  obtain ⟨hI, hc, hcm, hb⟩ := hcr
  have HA : Hid (Calls Tryd.prog 41 #[.slice A xs.length c] w1 (AllOut w1 xs)) := Lib.hid ((r_all_any A xs.length c xs w1 rfl hI hB (by omega) hc hcm).mono fun _ _ h => h.out)
  have HB1 := Lib.hid hb
  have HT1 := Lib.hid (hT.go hb)
  have HBK := Lib.hid (allS_back hB)
  have HLE := Lib.hid (allS_le9 xs)
  have HX := Lib.hid hx
  have HTF : Hid (textF xs = _) := Lib.hid (textF.eq_1 xs)
  clear hT hI hc hcm hb hB hx
  generalize textF xs = tf at *
  unfold AllOut at HA
  generalize (allS xs).1 = l at *
  generalize ((allS xs).2.1 : Int) = m at *
  cases hok : (allS xs).2.2 with
  | false =>
    rw [hok] at HA HTF
    obtain rfl : tf = xs := HTF.out
    clear hok HTF HBK
    go_enter Tryd.func21, Tryd.ntmps21
    go_wp2_with fail
    with_reducible refine HA.out.mono ?_
    rintro e w2 ⟨A2, n2, c2, rfl, hr2, hb2⟩
    have HB2 := Lib.hid (HB1.out.trans (hb2.mono HB1.out.size))
    clear hr2 hb2
    go_wp2
    go_ret
    exact ⟨rfl, HB2.out⟩
  | true =>
    rw [hok] at HA HTF HBK
    have hR : ∀ x ∈ l, R32 x := fun x hx => isB_in (HBK.out.1 x hx)
    have HR := Lib.hid hR
    have htf : tf = txt (form5 l) := HTF.out
    subst htf
    clear hok hR HBK HTF
    go_enter Tryd.func21, Tryd.ntmps21
    go_wp2_with fail
    with_reducible refine HA.out.mono ?_
    rintro e w2 ⟨A2, n2, c2, rfl, hr2, hb2⟩
    have hn2 : n2 ≤ 600 := by
      have h1 := hr2.len
      have h3 := HLE.out
      have h4 := HX.out
      omega
    have HE2 : Hid (RxAt W R A2 n2 c2 l w2) := Lib.hid ⟨HT1.out.go hb2, hr2, HB1.out.trans (hb2.mono HB1.out.size)⟩
    clear hr2 hb2 HA HB1 HT1 hrun
    go_wp2_with fail
    with_reducible refine (rform_any _ R _ _ _ _ HE2.out.row HE2.out.dt HR.out (by omega)).mono ?_
    rintro e w6 ⟨A6, n6, c6, rfl, hr6, hb6⟩
    have hle6 : n6 ≤ 65536 := by
      have h1 := hr6.len
      have h2 := form_len l
      have h3 := HLE.out
      have h4 := HX.out
      omega
    have HE6 := Lib.hid (HE2.out.go hb6)
    have HR6 := Lib.hid hr6
    clear hr6 hb6 HE2
    go_wp2_with fail
    with_reducible refine (Calls.mono (r_text_any _ _ _ _ _ HR6.out.len HR6.out.ints hle6) (fun _ _ h => RowRes.strOut h)).mono ?_
    rintro e w7 ⟨v7, rfl, hcv, hb7⟩
    have HE7 := Lib.hid (HE6.out.go hb7)
    clear hb7 HE6 HR6
    go_wp2
    go_ret
    exact ⟨rfl, HE7.out.be⟩
end Go.Proofs.YtdmcidljjfogjaaDoor

/- Printed by gen_r9.py. The document's Quick by its contract. -/
namespace Go.Proofs.YtdmcidljjfogjaaDoor
set_option maxRecDepth 100000
open Go.ChangeShapes Go.WideShapes Go.ChangeAt Go.RowKit
set_option linter.unusedVariables false
set_option linter.unusedSimpArgs false
attribute [local irreducible] P5 S5 C5

theorem rsec_any {W : World} {R : Nat} (h : DT W R) (c : Int) (hc : R32 c) : Calls Tryd.prog 38 #[.pointer (some ⟨R, 0, none⟩), .int .i32 c] W fun e w' => e = .returned (.bool (sec5 c)) ∧ W = w' := by
  obtain ⟨N, rfl, h⟩ := h
  exact rsecond_any h c (r32_wf hc)
theorem DT.at {W : World} {R : Nat} (h : DT W R) : (W.cell? ⟨R, 1, none⟩ = some (.map (some (R - 4)))) ∧ (W.cell? ⟨R, 2, none⟩ = some (.map (some (R - 3)))) ∧ (W.cell? ⟨R, 3, none⟩ = some (.map (some (R - 2)))) := by
  obtain ⟨N, rfl, h⟩ := h
  have e1 : N + 5 - 4 = N + 1 := by omega
  have e2 : N + 5 - 3 = N + 1 + 1 := by omega
  have e3 : N + 5 - 2 = N + 1 + 1 + 1 := by omega
  rw [e1, e2, e3]
  exact ⟨h.blk.cell 1, h.blk.cell 2, h.blk.cell 3⟩
theorem DT.sgl {W : World} {R : Nat} (h : DT W R) (c : Int) (hc : R32 c) : (Instr.lookup 64 (.map (some (R - 3))) (.int .i32 c) true).run Tryd.prog W = .ok (.tuple #[.int .i32 (tab (castE S5) c), .bool (tab (castE S5) c != 0)]) W := by
  obtain ⟨N, rfl, h⟩ := h
  have e2 : N + 5 - 3 = N + 1 + 1 := by omega
  rw [e2]
  exact single_look h c (r32_wf hc)
theorem DT.two {W : World} {R : Nat} (h : DT W R) (c : Int) (hc : R32 c) : (Instr.lookup 63 (.map (some (R - 4))) (.int .i32 c) true).run Tryd.prog W = .ok (.tuple #[.agg #[.int .i32 (pxF P5 c), .int .i32 (pyF P5 c)], .bool (pkF P5 c)]) W := by
  obtain ⟨N, rfl, h⟩ := h
  have e1 : N + 5 - 4 = N + 1 := by omega
  rw [e1]
  exact pair_look h c (r32_wf hc)
theorem DT.jn {W : World} {R : Nat} (h : DT W R) (a b : Int) (ha : R32 a) (hb : R32 b) : (Instr.lookup 65 (.map (some (R - 2))) (.agg #[.int .i32 a, .int .i32 b]) true).run Tryd.prog W = .ok (.tuple #[.int .i32 (if [a, b] ∈ (jst P5).1 then (jst P5).2 [a, b] else 0), .bool (decide ([a, b] ∈ (jst P5).1))]) W := by
  obtain ⟨N, rfl, h⟩ := h
  have e3 : N + 5 - 2 = N + 1 + 1 + 1 := by omega
  rw [e3]
  exact join_look h a b (r32_wf ha) (r32_wf hb)
theorem lastC_take {l : List Int} {k : Nat} (hk : k + 1 ≤ l.length) : lastC (l.take (k + 1)) = cl5 (l.getD k 0) := by
  rw [take_snoc l k (by omega), lastC_snoc]
/-- what the tables say of one: no, or not -/
theorem noB_cases (c : Int) : (noB c = true ∧ ((tab (castE S5) c != 0) = true ∨ ((tab (castE S5) c != 0) = false ∧ pkF P5 c = true ∧ ([pxF P5 c, pyF P5 c] ∉ (jst P5).1 ∨ ([pxF P5 c, pyF P5 c] ∈ (jst P5).1 ∧ ((jst P5).2 [pxF P5 c, pyF P5 c] != c) = true)))))
    ∨ (noB c = false ∧ (tab (castE S5) c != 0) = false ∧ (pkF P5 c = false ∨ (pkF P5 c = true ∧ [pxF P5 c, pyF P5 c] ∈ (jst P5).1 ∧ ((jst P5).2 [pxF P5 c, pyF P5 c] != c) = false))) := by
  unfold noB
  cases h1 : (tab (castE S5) c != 0) with
  | true => exact .inl ⟨rfl, .inl rfl⟩
  | false =>
    cases h2 : pkF P5 c with
    | false => exact .inr ⟨rfl, rfl, .inl rfl⟩
    | true =>
      by_cases h3 : [pxF P5 c, pyF P5 c] ∈ (jst P5).1
      · by_cases h4 : (jst P5).2 [pxF P5 c, pyF P5 c] = c
        · exact .inr ⟨by rw [decide_eq_true h3, decide_eq_true h4]; rfl, rfl, .inr ⟨rfl, h3, by simp [h4]⟩⟩
        · exact .inl ⟨by rw [decide_eq_true h3, decide_eq_false h4]; rfl, .inr ⟨rfl, rfl, .inr ⟨h3, by simp [h4]⟩⟩⟩
      · exact .inl ⟨by rw [decide_eq_false h3]; rfl, .inr ⟨rfl, rfl, .inl h3⟩⟩
/-- where the loop stands -/
def RQLoop (W : World) (R : Nat) (A : Option Addr) (n c : Nat) (l : List Int) (s5 s6 : Value) (wr : World) : Prop := ∃ k : Nat, k ≤ n ∧ s6 = .int .i64 k ∧ okQ (l.take k) ∧ s5 = .int .i64 (saidF (l.take k)) ∧ RxAt W R A n c l wr

set_option maxHeartbeats 40000000 in
theorem rquick_any (W : World) (R : Nat) (A : Option Addr) (n c : Nat) (l : List Int) (hA : RowIn W A n c l) (hT : DT W R) (hR : ∀ x ∈ l, R32 x) (hn : n ≤ 10000) :
    Calls Tryd.prog 17 #[.pointer (some ⟨R, 0, none⟩), .slice A n c] W fun e w' => e = .returned (.int .i64 (quickF l)) ∧ Below W.heap.size W w' := by
  have HX : Hid (RxAt W R A n c l W) := Lib.hid ⟨hT, hA, Below.refl _ _⟩
  have HL := Lib.hid hA.len
  have HR := Lib.hid hR
  clear hA hT hR
  generalize hq : quickF l = q
  have HQ := Lib.hid hq
  clear hq
  go_enter Tryd.func17, Tryd.ntmps17
  go_wp2_with fail
  go_loopw [5, 6] (fun s5 s6 wr => RQLoop W R A n c l s5 s6 wr) (fun _ i _ => n - (intOf i).toNat)
  case atStart => exact ⟨0, by omega, rfl, okQ_nil, by rw [List.take_zero, saidF_nil], HX.out⟩
  case round =>
    obtain ⟨k, hk, rfl, hok, rfl, hx⟩ := hrel
    have HO := Lib.hid hok
    have HXk := Lib.hid hx
    clear hok hx HX
    by_cases hlt : k < n
    · have hkl : k < l.length := by rw [HL.out]; exact hlt
      obtain ⟨b, o, rfl, hbl, hc⟩ := HXk.out.row.first (by omega)
      have h1 : wr.cell? ⟨b, o + k, none⟩ = some (.int .i32 (l.getD k 0)) := hc k hlt
      have hlt' : (k : Int) < n := by omega
      have hmem : ∀ j, j < l.length → l.getD j 0 ∈ l := fun j hj => by
        rw [List.getD_eq_getElem?_getD, List.getElem?_eq_getElem hj]
        exact List.getElem_mem hj
      have HRC := Lib.hid (HR.out _ (hmem k hkl))
      have HSN := Lib.hid (saidF_snoc (l.take k) (l.getD k 0))
      have HON := Lib.hid (okQ_snoc (c := l.getD k 0) HO.out)
      have HAT := Lib.hid (quick_at hkl)
      have HTK := Lib.hid (take_snoc l k hkl)
      have HPV : Hid (∀ j, j < n → wr.cell? ⟨b, o + j, none⟩ = some (.int .i32 (l.getD j 0)) ∧ R32 (l.getD j 0)) := Lib.hid fun j hj => ⟨hc j hj, HR.out _ (hmem j (by rw [HL.out]; exact hj))⟩
      have HLT : Hid (∀ j, k = j + 1 → lastC (l.take k) = cl5 (l.getD j 0)) := Lib.hid (fun j hj => by subst hj; exact lastC_take (by omega))
      have HL0 : Hid (k = 0 → lastC (l.take k) = 0) := Lib.hid (fun hj => by subst hj; rfl)
      have hcm := HXk.out.dt.at
      obtain ⟨hcm1, hcm2, hcm3⟩ := hcm
      have hcm0 := HXk.out.dt.classAt.1
      clear hc hmem hkl HO
      generalize l.getD k 0 = cc at *
      have hsl := HXk.out.dt.sgl cc HRC.out
      have hpl := HXk.out.dt.two cc HRC.out
      have HJX := Lib.hid (show R32 (pxF P5 cc) from px5_in cc)
      have HJY := Lib.hid (show R32 (pyF P5 cc) from py5_in cc)
      have hsa := saidF_in (l.take k)
      have hc0 := cl5_nn cc
      have hc1 := cl5_le cc
      have HNO := Lib.hid (noB_iff cc)
      have HNN := Lib.hid (noB_no (c := cc))
      have HCA := Lib.hid (noB_cases cc)
      have HKD := Lib.hid (fun W => kind_any cc W)
      have HMB : Hid (mb5 cc = _) := Lib.hid (mb5.eq_1 cc)
      have HSE : Hid (∀ w, DT w R → Calls Tryd.prog 38 #[.pointer (some ⟨R, 0, none⟩), .int .i32 cc] w fun e w' => e = .returned (.bool (sec5 cc)) ∧ w = w') := Lib.hid fun w h => rsec_any h cc HRC.out
      have HJL : Hid (∀ w, DT w R → (Instr.lookup 65 (.map (some (R - 2))) (.agg #[.int .i32 (pxF P5 cc), .int .i32 (pyF P5 cc)]) true).run Tryd.prog w = .ok (.tuple #[.int .i32 (if [pxF P5 cc, pyF P5 cc] ∈ (jst P5).1 then (jst P5).2 [pxF P5 cc, pyF P5 cc] else 0), .bool (decide ([pxF P5 cc, pyF P5 cc] ∈ (jst P5).1))]) w) := Lib.hid fun w h => h.jn _ _ HJX.out HJY.out
      have HCLS : Hid (∀ w c, DT w R → R32 c → (Instr.lookup 62 (.map (some (R - 5))) (.int .i32 c) false).run Tryd.prog w = .ok (.int .i64 (cl5 c)) w) := Lib.hid fun w c h hc => h.classAt.2 c hc
      generalize noB cc = nb at *
      generalize mb5 cc = mb at *
      generalize sec5 cc = se at *
      generalize kind6 cc = kd at *
      generalize saidF (l.take k) = sa at *
      generalize lastC (l.take k) = la at *
      generalize tab (castE S5) cc = sg at *
      generalize pxF P5 cc = px at *
      generalize pyF P5 cc = py at *
      generalize pkF P5 cc = pk at *
      clear HJX HJY
      rcases HCA.out with ⟨hnb, hcas⟩ | ⟨hnb, hsg, hcas⟩
      · rcases hcas with hsg | ⟨hsg, hpk, hj | ⟨hj, hbk⟩⟩
        · have hq2 : q = 2 := HQ.out.symm.trans (HAT.out (.inl (HNO.out.1 hnb)))
          subst hq2
          clear hnb HQ HAT
          rw [hsg] at hsl
          generalize hjv : (if [px, py] ∈ (jst P5).1 then (jst P5).2 [px, py] else 0) = jv at *
          generalize hjb : decide ([px, py] ∈ (jst P5).1) = jb at *
          clear hjv hjb
          clear HCA hsg
          go_wp2_with fail
          have HX1 := Lib.hid (HXk.out.go (below_new wr (.cells #[.int .i32 px, .int .i32 py] 70)))
          have KT := Lib.hid (Blk.new wr 70 #[.int .i32 px, .int .i32 py])
          have HPV1 : Hid (∀ j, j < n → (wr.alloc (.cells #[.int .i32 px, .int .i32 py] 70)).cell? ⟨b, o + j, none⟩ = some (.int .i32 (l.getD j 0)) ∧ R32 (l.getD j 0)) := Lib.hid fun j hj => ⟨((below_new wr (.cells #[.int .i32 px, .int .i32 py] 70)).cell (p := ⟨b, o + j, none⟩) hbl).trans (HPV.out j hj).1, (HPV.out j hj).2⟩
          clear hpl hsl hcm0 hcm1 hcm2 hcm3 h1 HXk HPV
          generalize wr.alloc (.cells #[.int .i32 px, .int .i32 py] 70) = w1 at *
          generalize wr.heap.size = tw at *
          have t0 : w1.cell? ⟨tw, 0, none⟩ = some (.int .i32 px) := KT.out.cell 0
          have t1 : w1.cell? ⟨tw, 1, none⟩ = some (.int .i32 py) := KT.out.cell 1
          have hcj : w1.cell? ⟨R, 3, none⟩ = some (.map (some (R - 2))) := HX1.out.dt.at.2.2
          have hjl : ∀ q, (Instr.lookup 65 (.map (some (R - 2))) (.agg #[.int .i32 px, .int .i32 py]) true).run Tryd.prog (w1.drewN q) = .ok (.tuple #[.int .i32 jv, .bool jb]) (w1.drewN q) := fun q => HJL.out _ (HX1.out.dt.go (below_drewN' (Below.refl _ _) q))
          clear HJL
          generalize hR2 : R - 2 = R2 at hcj hjl
          clear hR2
          go_quiet (fail)
          have HX2 : Hid (RxAt W R (some ⟨b, o, none⟩) n c l (w1.drewN nq)) := Lib.hid (HX1.out.go (below_drewN' (Below.refl _ _) nq))
          have HPV2 : Hid (∀ j, j < n → (w1.drewN nq).cell? ⟨b, o + j, none⟩ = some (.int .i32 (l.getD j 0)) ∧ R32 (l.getD j 0)) := Lib.hid fun j hj => HPV1.out j hj
          clear t0 t1 hcj hjl KT HX1 HPV1
          generalize w1.drewN nq = w2 at *
          have hcc : w2.cell? ⟨R, 0, none⟩ = some (.map (some (R - 5))) := HX2.out.dt.classAt.1
          have hcl : ∀ q, (Instr.lookup 62 (.map (some (R - 5))) (.int .i32 cc) false).run Tryd.prog (w2.drewN q) = .ok (.int .i64 (cl5 cc)) (w2.drewN q) := fun q => HCLS.out _ cc (HX2.out.dt.go (below_drewN' (Below.refl _ _) q)) HRC.out
          have hcl0 : (Instr.lookup 62 (.map (some (R - 5))) (.int .i32 cc) false).run Tryd.prog w2 = .ok (.int .i64 (cl5 cc)) w2 := HCLS.out _ cc HX2.out.dt HRC.out
          go_wp2_with fail
          go_quiet (fail)
          go_wp2
          go_ret
          exact ⟨rfl, (HX2.out.go (below_drewN' (Below.refl _ _) _)).be⟩
        · have hq2 : q = 2 := HQ.out.symm.trans (HAT.out (.inl (HNO.out.1 hnb)))
          subst hq2
          clear hnb HQ HAT
          rw [hsg] at hsl
          rw [hpk] at hpl
          rw [if_neg hj, decide_eq_false hj] at HJL
          clear HCA hsg hpk hj
          go_wp2_with fail
          have HX1 := Lib.hid (HXk.out.go (below_new wr (.cells #[.int .i32 px, .int .i32 py] 70)))
          have KT := Lib.hid (Blk.new wr 70 #[.int .i32 px, .int .i32 py])
          have HPV1 : Hid (∀ j, j < n → (wr.alloc (.cells #[.int .i32 px, .int .i32 py] 70)).cell? ⟨b, o + j, none⟩ = some (.int .i32 (l.getD j 0)) ∧ R32 (l.getD j 0)) := Lib.hid fun j hj => ⟨((below_new wr (.cells #[.int .i32 px, .int .i32 py] 70)).cell (p := ⟨b, o + j, none⟩) hbl).trans (HPV.out j hj).1, (HPV.out j hj).2⟩
          clear hpl hsl hcm0 hcm1 hcm2 hcm3 h1 HXk HPV
          generalize wr.alloc (.cells #[.int .i32 px, .int .i32 py] 70) = w1 at *
          generalize wr.heap.size = tw at *
          have t0 : w1.cell? ⟨tw, 0, none⟩ = some (.int .i32 px) := KT.out.cell 0
          have t1 : w1.cell? ⟨tw, 1, none⟩ = some (.int .i32 py) := KT.out.cell 1
          have hcj : w1.cell? ⟨R, 3, none⟩ = some (.map (some (R - 2))) := HX1.out.dt.at.2.2
          have hjl : ∀ q, (Instr.lookup 65 (.map (some (R - 2))) (.agg #[.int .i32 px, .int .i32 py]) true).run Tryd.prog (w1.drewN q) = .ok (.tuple #[.int .i32 0, .bool false]) (w1.drewN q) := fun q => HJL.out _ (HX1.out.dt.go (below_drewN' (Below.refl _ _) q))
          clear HJL
          generalize hR2 : R - 2 = R2 at hcj hjl
          clear hR2
          go_quiet (fail)
          have HX2 : Hid (RxAt W R (some ⟨b, o, none⟩) n c l (w1.drewN nq)) := Lib.hid (HX1.out.go (below_drewN' (Below.refl _ _) nq))
          have HPV2 : Hid (∀ j, j < n → (w1.drewN nq).cell? ⟨b, o + j, none⟩ = some (.int .i32 (l.getD j 0)) ∧ R32 (l.getD j 0)) := Lib.hid fun j hj => HPV1.out j hj
          clear t0 t1 hcj hjl KT HX1 HPV1
          generalize w1.drewN nq = w2 at *
          have hcc : w2.cell? ⟨R, 0, none⟩ = some (.map (some (R - 5))) := HX2.out.dt.classAt.1
          have hcl : ∀ q, (Instr.lookup 62 (.map (some (R - 5))) (.int .i32 cc) false).run Tryd.prog (w2.drewN q) = .ok (.int .i64 (cl5 cc)) (w2.drewN q) := fun q => HCLS.out _ cc (HX2.out.dt.go (below_drewN' (Below.refl _ _) q)) HRC.out
          have hcl0 : (Instr.lookup 62 (.map (some (R - 5))) (.int .i32 cc) false).run Tryd.prog w2 = .ok (.int .i64 (cl5 cc)) w2 := HCLS.out _ cc HX2.out.dt HRC.out
          go_wp2_with fail
          go_quiet (fail)
          go_wp2
          go_ret
          exact ⟨rfl, (HX2.out.go (below_drewN' (Below.refl _ _) _)).be⟩
        · have hq2 : q = 2 := HQ.out.symm.trans (HAT.out (.inl (HNO.out.1 hnb)))
          subst hq2
          clear hnb HQ HAT
          rw [hsg] at hsl
          rw [hpk] at hpl
          rw [if_pos hj, decide_eq_true hj] at HJL
          generalize (jst P5).2 [px, py] = jv at *
          clear HCA hsg hpk hj
          go_wp2_with fail
          have HX1 := Lib.hid (HXk.out.go (below_new wr (.cells #[.int .i32 px, .int .i32 py] 70)))
          have KT := Lib.hid (Blk.new wr 70 #[.int .i32 px, .int .i32 py])
          have HPV1 : Hid (∀ j, j < n → (wr.alloc (.cells #[.int .i32 px, .int .i32 py] 70)).cell? ⟨b, o + j, none⟩ = some (.int .i32 (l.getD j 0)) ∧ R32 (l.getD j 0)) := Lib.hid fun j hj => ⟨((below_new wr (.cells #[.int .i32 px, .int .i32 py] 70)).cell (p := ⟨b, o + j, none⟩) hbl).trans (HPV.out j hj).1, (HPV.out j hj).2⟩
          clear hpl hsl hcm0 hcm1 hcm2 hcm3 h1 HXk HPV
          generalize wr.alloc (.cells #[.int .i32 px, .int .i32 py] 70) = w1 at *
          generalize wr.heap.size = tw at *
          have t0 : w1.cell? ⟨tw, 0, none⟩ = some (.int .i32 px) := KT.out.cell 0
          have t1 : w1.cell? ⟨tw, 1, none⟩ = some (.int .i32 py) := KT.out.cell 1
          have hcj : w1.cell? ⟨R, 3, none⟩ = some (.map (some (R - 2))) := HX1.out.dt.at.2.2
          have hjl : ∀ q, (Instr.lookup 65 (.map (some (R - 2))) (.agg #[.int .i32 px, .int .i32 py]) true).run Tryd.prog (w1.drewN q) = .ok (.tuple #[.int .i32 jv, .bool true]) (w1.drewN q) := fun q => HJL.out _ (HX1.out.dt.go (below_drewN' (Below.refl _ _) q))
          clear HJL
          generalize hR2 : R - 2 = R2 at hcj hjl
          clear hR2
          go_quiet (fail)
          have HX2 : Hid (RxAt W R (some ⟨b, o, none⟩) n c l (w1.drewN nq)) := Lib.hid (HX1.out.go (below_drewN' (Below.refl _ _) nq))
          have HPV2 : Hid (∀ j, j < n → (w1.drewN nq).cell? ⟨b, o + j, none⟩ = some (.int .i32 (l.getD j 0)) ∧ R32 (l.getD j 0)) := Lib.hid fun j hj => HPV1.out j hj
          clear t0 t1 hcj hjl KT HX1 HPV1
          generalize w1.drewN nq = w2 at *
          have hcc : w2.cell? ⟨R, 0, none⟩ = some (.map (some (R - 5))) := HX2.out.dt.classAt.1
          have hcl : ∀ q, (Instr.lookup 62 (.map (some (R - 5))) (.int .i32 cc) false).run Tryd.prog (w2.drewN q) = .ok (.int .i64 (cl5 cc)) (w2.drewN q) := fun q => HCLS.out _ cc (HX2.out.dt.go (below_drewN' (Below.refl _ _) q)) HRC.out
          have hcl0 : (Instr.lookup 62 (.map (some (R - 5))) (.int .i32 cc) false).run Tryd.prog w2 = .ok (.int .i64 (cl5 cc)) w2 := HCLS.out _ cc HX2.out.dt HRC.out
          go_wp2_with fail
          go_quiet (fail)
          go_wp2
          go_ret
          exact ⟨rfl, (HX2.out.go (below_drewN' (Below.refl _ _) _)).be⟩
      · rcases hcas with hpk | ⟨hpk, hj, hbk⟩
        · rw [hsg] at hsl
          rw [hpk] at hpl
          generalize hjv : (if [px, py] ∈ (jst P5).1 then (jst P5).2 [px, py] else 0) = jv at *
          generalize hjb : decide ([px, py] ∈ (jst P5).1) = jb at *
          clear hjv hjb
          clear HCA hsg hpk
          go_wp2_with fail
          have HX1 := Lib.hid (HXk.out.go (below_new wr (.cells #[.int .i32 px, .int .i32 py] 70)))
          have KT := Lib.hid (Blk.new wr 70 #[.int .i32 px, .int .i32 py])
          have HPV1 : Hid (∀ j, j < n → (wr.alloc (.cells #[.int .i32 px, .int .i32 py] 70)).cell? ⟨b, o + j, none⟩ = some (.int .i32 (l.getD j 0)) ∧ R32 (l.getD j 0)) := Lib.hid fun j hj => ⟨((below_new wr (.cells #[.int .i32 px, .int .i32 py] 70)).cell (p := ⟨b, o + j, none⟩) hbl).trans (HPV.out j hj).1, (HPV.out j hj).2⟩
          clear hpl hsl hcm0 hcm1 hcm2 hcm3 h1 HXk HPV
          generalize wr.alloc (.cells #[.int .i32 px, .int .i32 py] 70) = w1 at *
          generalize wr.heap.size = tw at *
          have t0 : w1.cell? ⟨tw, 0, none⟩ = some (.int .i32 px) := KT.out.cell 0
          have t1 : w1.cell? ⟨tw, 1, none⟩ = some (.int .i32 py) := KT.out.cell 1
          have hcj : w1.cell? ⟨R, 3, none⟩ = some (.map (some (R - 2))) := HX1.out.dt.at.2.2
          have hjl : ∀ q, (Instr.lookup 65 (.map (some (R - 2))) (.agg #[.int .i32 px, .int .i32 py]) true).run Tryd.prog (w1.drewN q) = .ok (.tuple #[.int .i32 jv, .bool jb]) (w1.drewN q) := fun q => HJL.out _ (HX1.out.dt.go (below_drewN' (Below.refl _ _) q))
          clear HJL
          generalize hR2 : R - 2 = R2 at hcj hjl
          clear hR2
          go_quiet (fail)
          have HX2 : Hid (RxAt W R (some ⟨b, o, none⟩) n c l (w1.drewN nq)) := Lib.hid (HX1.out.go (below_drewN' (Below.refl _ _) nq))
          have HPV2 : Hid (∀ j, j < n → (w1.drewN nq).cell? ⟨b, o + j, none⟩ = some (.int .i32 (l.getD j 0)) ∧ R32 (l.getD j 0)) := Lib.hid fun j hj => HPV1.out j hj
          clear t0 t1 hcj hjl KT HX1 HPV1
          generalize w1.drewN nq = w2 at *
          have hcc : w2.cell? ⟨R, 0, none⟩ = some (.map (some (R - 5))) := HX2.out.dt.classAt.1
          have hcl : ∀ q, (Instr.lookup 62 (.map (some (R - 5))) (.int .i32 cc) false).run Tryd.prog (w2.drewN q) = .ok (.int .i64 (cl5 cc)) (w2.drewN q) := fun q => HCLS.out _ cc (HX2.out.dt.go (below_drewN' (Below.refl _ _) q)) HRC.out
          have hcl0 : (Instr.lookup 62 (.map (some (R - 5))) (.int .i32 cc) false).run Tryd.prog w2 = .ok (.int .i64 (cl5 cc)) w2 := HCLS.out _ cc HX2.out.dt HRC.out
          by_cases hk0 : k = 0
          · subst hk0
            have hla : la = 0 := HL0.out rfl
            have HOK := Lib.hid (HON.out (HNN.out hnb) (by omega))
            have HLA := Lib.hid hla
            clear hla HON HNN hnb HAT HNO HL0 HLT
            go_wp2_with fail
            go_quiet (fail)
            have HX3 : Hid (RxAt W R (some ⟨b, o, none⟩) n c l (w2.drewN nq)) := Lib.hid (HX2.out.go (below_drewN' (Below.refl _ _) nq))
            clear HX2 HPV2 hcc hcl hcl0 
            generalize w2.drewN nq = w3 at *
            go_wp2_with fail
            with_reducible refine (HKD.out _).mono ?_
            rintro e w4 ⟨rfl, rfl⟩
            by_cases hk2 : kd = 2
            · have hk2' : (kd == 2) = true := by simp [hk2]
              have hmb : mb = true := by rw [HMB.out, decide_eq_true hk2]; simp
              subst hmb
              clear HMB hk2 HSE
              go_wp2
              go_roundw
              case rel => exact ⟨0 + 1, by omega, by go_num, by rw [HTK.out]; exact HOK.out, by rw [HTK.out, HSN.out]; rfl, HX3.out⟩
              case measure => simp [intOf]; omega
            · have hk2' : (kd == 2) = false := by simpa using hk2
              by_cases hk3 : kd = 3
              · have hk3' : (kd == 3) = true := by simp [hk3]
                have hmb : mb = true := by rw [HMB.out, decide_eq_true hk3]; simp
                subst hmb
                clear HMB hk2 hk3 HSE
                go_wp2
                go_roundw
                case rel => exact ⟨0 + 1, by omega, by go_num, by rw [HTK.out]; exact HOK.out, by rw [HTK.out, HSN.out]; rfl, HX3.out⟩
                case measure => simp [intOf]; omega
              · have hk3' : (kd == 3) = false := by simpa using hk3
                have hmb : mb = se := by rw [HMB.out, decide_eq_false hk2, decide_eq_false hk3]; simp
                subst hmb
                clear HMB hk2 hk3
                cases mb with
                | true =>
                  go_wp2_with fail
                  with_reducible refine (HSE.out _ HX3.out.dt).mono ?_
                  rintro e w5 ⟨rfl, rfl⟩
                  go_wp2
                  go_roundw
                  case rel => exact ⟨0 + 1, by omega, by go_num, by rw [HTK.out]; exact HOK.out, by rw [HTK.out, HSN.out]; rfl, HX3.out⟩
                  case measure => simp [intOf]; omega
                | false =>
                  go_wp2_with fail
                  with_reducible refine (HSE.out _ HX3.out.dt).mono ?_
                  rintro e w5 ⟨rfl, rfl⟩
                  go_wp2
                  go_roundw
                  case rel => exact ⟨0 + 1, by omega, by go_num, by rw [HTK.out]; exact HOK.out, by rw [HTK.out, HSN.out]; rfl, HX3.out⟩
                  case measure => simp [intOf]; omega
          · have hkp : (0 : Int) < k := by omega
            obtain ⟨j, rfl⟩ : ∃ j, k = j + 1 := ⟨k - 1, by omega⟩
            have hla : la = cl5 (l.getD j 0) := HLT.out j rfl
            obtain ⟨hpj, hrj⟩ := HPV2.out j (by omega)
            have hpv : ∀ q, (Instr.lookup 62 (.map (some (R - 5))) (.int .i32 (l.getD j 0)) false).run Tryd.prog (w2.drewN q) = .ok (.int .i64 la) (w2.drewN q) := fun q => by rw [hla]; exact HCLS.out _ _ (HX2.out.dt.go (below_drewN' (Below.refl _ _) q)) hrj
            have hsub : IntKind.i64.wrap (((j + 1 : Nat) : Int) - 1) = j := by rw [IntWalk.i64_in _ (by omega)]; omega
            have hsub2 : ((j : Int)).toNat = j := by omega
            have HLA := Lib.hid hla
            clear hla hrj
            generalize l.getD j 0 = pv at *
            have hkp' : decide ((0 : Int) < ((j + 1 : Nat) : Int)) = true := decide_eq_true (by omega)
            generalize cl5 cc = cl at *
            by_cases hz : 0 < cl
            · have hz' : decide (0 < cl) = true := decide_eq_true hz
              by_cases hf : cl < la
              · have hf' : decide (cl < la) = true := decide_eq_true hf
                have hq2 : q = 2 := HQ.out.symm.trans (HAT.out (.inr ⟨hz, hf⟩))
                subst hq2
                clear hnb HQ HAT HON HNN HNO
                go_wp2_with fail
                go_quiet (fail)
                go_wp2
                go_ret
                exact ⟨rfl, (HX2.out.go (below_drewN' (Below.refl _ _) _)).be⟩
              · have hf' : decide (cl < la) = false := decide_eq_false hf
                have HOK := Lib.hid (HON.out (HNN.out hnb) (by omega))
                clear HON HNN hnb HAT HNO HL0 HLT
                go_wp2_with fail
                go_quiet (fail)
                have HX3 : Hid (RxAt W R (some ⟨b, o, none⟩) n c l (w2.drewN nq)) := Lib.hid (HX2.out.go (below_drewN' (Below.refl _ _) nq))
                clear HX2 HPV2 hcc hcl hcl0 hpv hpj
                generalize w2.drewN nq = w3 at *
                go_wp2_with fail
                with_reducible refine (HKD.out _).mono ?_
                rintro e w4 ⟨rfl, rfl⟩
                by_cases hk2 : kd = 2
                · have hk2' : (kd == 2) = true := by simp [hk2]
                  have hmb : mb = true := by rw [HMB.out, decide_eq_true hk2]; simp
                  subst hmb
                  clear HMB hk2 HSE
                  go_wp2
                  go_roundw
                  case rel => exact ⟨j + 1 + 1, by omega, by go_num, by rw [HTK.out]; exact HOK.out, by rw [HTK.out, HSN.out]; rfl, HX3.out⟩
                  case measure => simp [intOf]; omega
                · have hk2' : (kd == 2) = false := by simpa using hk2
                  by_cases hk3 : kd = 3
                  · have hk3' : (kd == 3) = true := by simp [hk3]
                    have hmb : mb = true := by rw [HMB.out, decide_eq_true hk3]; simp
                    subst hmb
                    clear HMB hk2 hk3 HSE
                    go_wp2
                    go_roundw
                    case rel => exact ⟨j + 1 + 1, by omega, by go_num, by rw [HTK.out]; exact HOK.out, by rw [HTK.out, HSN.out]; rfl, HX3.out⟩
                    case measure => simp [intOf]; omega
                  · have hk3' : (kd == 3) = false := by simpa using hk3
                    have hmb : mb = se := by rw [HMB.out, decide_eq_false hk2, decide_eq_false hk3]; simp
                    subst hmb
                    clear HMB hk2 hk3
                    cases mb with
                    | true =>
                      go_wp2_with fail
                      with_reducible refine (HSE.out _ HX3.out.dt).mono ?_
                      rintro e w5 ⟨rfl, rfl⟩
                      go_wp2
                      go_roundw
                      case rel => exact ⟨j + 1 + 1, by omega, by go_num, by rw [HTK.out]; exact HOK.out, by rw [HTK.out, HSN.out]; rfl, HX3.out⟩
                      case measure => simp [intOf]; omega
                    | false =>
                      go_wp2_with fail
                      with_reducible refine (HSE.out _ HX3.out.dt).mono ?_
                      rintro e w5 ⟨rfl, rfl⟩
                      go_wp2
                      go_roundw
                      case rel => exact ⟨j + 1 + 1, by omega, by go_num, by rw [HTK.out]; exact HOK.out, by rw [HTK.out, HSN.out]; rfl, HX3.out⟩
                      case measure => simp [intOf]; omega
            · have hz' : decide (0 < cl) = false := decide_eq_false hz
              have HOK := Lib.hid (HON.out (HNN.out hnb) (by omega))
              clear HON HNN hnb HAT HNO HL0 HLT
              go_wp2_with fail
              go_quiet (fail)
              have HX3 : Hid (RxAt W R (some ⟨b, o, none⟩) n c l (w2.drewN nq)) := Lib.hid (HX2.out.go (below_drewN' (Below.refl _ _) nq))
              clear HX2 HPV2 hcc hcl hcl0 hpv hpj
              generalize w2.drewN nq = w3 at *
              go_wp2_with fail
              with_reducible refine (HKD.out _).mono ?_
              rintro e w4 ⟨rfl, rfl⟩
              by_cases hk2 : kd = 2
              · have hk2' : (kd == 2) = true := by simp [hk2]
                have hmb : mb = true := by rw [HMB.out, decide_eq_true hk2]; simp
                subst hmb
                clear HMB hk2 HSE
                go_wp2
                go_roundw
                case rel => exact ⟨j + 1 + 1, by omega, by go_num, by rw [HTK.out]; exact HOK.out, by rw [HTK.out, HSN.out]; rfl, HX3.out⟩
                case measure => simp [intOf]; omega
              · have hk2' : (kd == 2) = false := by simpa using hk2
                by_cases hk3 : kd = 3
                · have hk3' : (kd == 3) = true := by simp [hk3]
                  have hmb : mb = true := by rw [HMB.out, decide_eq_true hk3]; simp
                  subst hmb
                  clear HMB hk2 hk3 HSE
                  go_wp2
                  go_roundw
                  case rel => exact ⟨j + 1 + 1, by omega, by go_num, by rw [HTK.out]; exact HOK.out, by rw [HTK.out, HSN.out]; rfl, HX3.out⟩
                  case measure => simp [intOf]; omega
                · have hk3' : (kd == 3) = false := by simpa using hk3
                  have hmb : mb = se := by rw [HMB.out, decide_eq_false hk2, decide_eq_false hk3]; simp
                  subst hmb
                  clear HMB hk2 hk3
                  cases mb with
                  | true =>
                    go_wp2_with fail
                    with_reducible refine (HSE.out _ HX3.out.dt).mono ?_
                    rintro e w5 ⟨rfl, rfl⟩
                    go_wp2
                    go_roundw
                    case rel => exact ⟨j + 1 + 1, by omega, by go_num, by rw [HTK.out]; exact HOK.out, by rw [HTK.out, HSN.out]; rfl, HX3.out⟩
                    case measure => simp [intOf]; omega
                  | false =>
                    go_wp2_with fail
                    with_reducible refine (HSE.out _ HX3.out.dt).mono ?_
                    rintro e w5 ⟨rfl, rfl⟩
                    go_wp2
                    go_roundw
                    case rel => exact ⟨j + 1 + 1, by omega, by go_num, by rw [HTK.out]; exact HOK.out, by rw [HTK.out, HSN.out]; rfl, HX3.out⟩
                    case measure => simp [intOf]; omega
        · rw [hsg] at hsl
          rw [hpk] at hpl
          rw [if_pos hj, decide_eq_true hj] at HJL
          generalize (jst P5).2 [px, py] = jv at *
          clear HCA hsg hpk hj
          go_wp2_with fail
          have HX1 := Lib.hid (HXk.out.go (below_new wr (.cells #[.int .i32 px, .int .i32 py] 70)))
          have KT := Lib.hid (Blk.new wr 70 #[.int .i32 px, .int .i32 py])
          have HPV1 : Hid (∀ j, j < n → (wr.alloc (.cells #[.int .i32 px, .int .i32 py] 70)).cell? ⟨b, o + j, none⟩ = some (.int .i32 (l.getD j 0)) ∧ R32 (l.getD j 0)) := Lib.hid fun j hj => ⟨((below_new wr (.cells #[.int .i32 px, .int .i32 py] 70)).cell (p := ⟨b, o + j, none⟩) hbl).trans (HPV.out j hj).1, (HPV.out j hj).2⟩
          clear hpl hsl hcm0 hcm1 hcm2 hcm3 h1 HXk HPV
          generalize wr.alloc (.cells #[.int .i32 px, .int .i32 py] 70) = w1 at *
          generalize wr.heap.size = tw at *
          have t0 : w1.cell? ⟨tw, 0, none⟩ = some (.int .i32 px) := KT.out.cell 0
          have t1 : w1.cell? ⟨tw, 1, none⟩ = some (.int .i32 py) := KT.out.cell 1
          have hcj : w1.cell? ⟨R, 3, none⟩ = some (.map (some (R - 2))) := HX1.out.dt.at.2.2
          have hjl : ∀ q, (Instr.lookup 65 (.map (some (R - 2))) (.agg #[.int .i32 px, .int .i32 py]) true).run Tryd.prog (w1.drewN q) = .ok (.tuple #[.int .i32 jv, .bool true]) (w1.drewN q) := fun q => HJL.out _ (HX1.out.dt.go (below_drewN' (Below.refl _ _) q))
          clear HJL
          generalize hR2 : R - 2 = R2 at hcj hjl
          clear hR2
          go_quiet (fail)
          have HX2 : Hid (RxAt W R (some ⟨b, o, none⟩) n c l (w1.drewN nq)) := Lib.hid (HX1.out.go (below_drewN' (Below.refl _ _) nq))
          have HPV2 : Hid (∀ j, j < n → (w1.drewN nq).cell? ⟨b, o + j, none⟩ = some (.int .i32 (l.getD j 0)) ∧ R32 (l.getD j 0)) := Lib.hid fun j hj => HPV1.out j hj
          clear t0 t1 hcj hjl KT HX1 HPV1
          generalize w1.drewN nq = w2 at *
          have hcc : w2.cell? ⟨R, 0, none⟩ = some (.map (some (R - 5))) := HX2.out.dt.classAt.1
          have hcl : ∀ q, (Instr.lookup 62 (.map (some (R - 5))) (.int .i32 cc) false).run Tryd.prog (w2.drewN q) = .ok (.int .i64 (cl5 cc)) (w2.drewN q) := fun q => HCLS.out _ cc (HX2.out.dt.go (below_drewN' (Below.refl _ _) q)) HRC.out
          have hcl0 : (Instr.lookup 62 (.map (some (R - 5))) (.int .i32 cc) false).run Tryd.prog w2 = .ok (.int .i64 (cl5 cc)) w2 := HCLS.out _ cc HX2.out.dt HRC.out
          by_cases hk0 : k = 0
          · subst hk0
            have hla : la = 0 := HL0.out rfl
            have HOK := Lib.hid (HON.out (HNN.out hnb) (by omega))
            have HLA := Lib.hid hla
            clear hla HON HNN hnb HAT HNO HL0 HLT
            go_wp2_with fail
            go_quiet (fail)
            have HX3 : Hid (RxAt W R (some ⟨b, o, none⟩) n c l (w2.drewN nq)) := Lib.hid (HX2.out.go (below_drewN' (Below.refl _ _) nq))
            clear HX2 HPV2 hcc hcl hcl0 
            generalize w2.drewN nq = w3 at *
            go_wp2_with fail
            with_reducible refine (HKD.out _).mono ?_
            rintro e w4 ⟨rfl, rfl⟩
            by_cases hk2 : kd = 2
            · have hk2' : (kd == 2) = true := by simp [hk2]
              have hmb : mb = true := by rw [HMB.out, decide_eq_true hk2]; simp
              subst hmb
              clear HMB hk2 HSE
              go_wp2
              go_roundw
              case rel => exact ⟨0 + 1, by omega, by go_num, by rw [HTK.out]; exact HOK.out, by rw [HTK.out, HSN.out]; rfl, HX3.out⟩
              case measure => simp [intOf]; omega
            · have hk2' : (kd == 2) = false := by simpa using hk2
              by_cases hk3 : kd = 3
              · have hk3' : (kd == 3) = true := by simp [hk3]
                have hmb : mb = true := by rw [HMB.out, decide_eq_true hk3]; simp
                subst hmb
                clear HMB hk2 hk3 HSE
                go_wp2
                go_roundw
                case rel => exact ⟨0 + 1, by omega, by go_num, by rw [HTK.out]; exact HOK.out, by rw [HTK.out, HSN.out]; rfl, HX3.out⟩
                case measure => simp [intOf]; omega
              · have hk3' : (kd == 3) = false := by simpa using hk3
                have hmb : mb = se := by rw [HMB.out, decide_eq_false hk2, decide_eq_false hk3]; simp
                subst hmb
                clear HMB hk2 hk3
                cases mb with
                | true =>
                  go_wp2_with fail
                  with_reducible refine (HSE.out _ HX3.out.dt).mono ?_
                  rintro e w5 ⟨rfl, rfl⟩
                  go_wp2
                  go_roundw
                  case rel => exact ⟨0 + 1, by omega, by go_num, by rw [HTK.out]; exact HOK.out, by rw [HTK.out, HSN.out]; rfl, HX3.out⟩
                  case measure => simp [intOf]; omega
                | false =>
                  go_wp2_with fail
                  with_reducible refine (HSE.out _ HX3.out.dt).mono ?_
                  rintro e w5 ⟨rfl, rfl⟩
                  go_wp2
                  go_roundw
                  case rel => exact ⟨0 + 1, by omega, by go_num, by rw [HTK.out]; exact HOK.out, by rw [HTK.out, HSN.out]; rfl, HX3.out⟩
                  case measure => simp [intOf]; omega
          · have hkp : (0 : Int) < k := by omega
            obtain ⟨j, rfl⟩ : ∃ j, k = j + 1 := ⟨k - 1, by omega⟩
            have hla : la = cl5 (l.getD j 0) := HLT.out j rfl
            obtain ⟨hpj, hrj⟩ := HPV2.out j (by omega)
            have hpv : ∀ q, (Instr.lookup 62 (.map (some (R - 5))) (.int .i32 (l.getD j 0)) false).run Tryd.prog (w2.drewN q) = .ok (.int .i64 la) (w2.drewN q) := fun q => by rw [hla]; exact HCLS.out _ _ (HX2.out.dt.go (below_drewN' (Below.refl _ _) q)) hrj
            have hsub : IntKind.i64.wrap (((j + 1 : Nat) : Int) - 1) = j := by rw [IntWalk.i64_in _ (by omega)]; omega
            have hsub2 : ((j : Int)).toNat = j := by omega
            have HLA := Lib.hid hla
            clear hla hrj
            generalize l.getD j 0 = pv at *
            have hkp' : decide ((0 : Int) < ((j + 1 : Nat) : Int)) = true := decide_eq_true (by omega)
            generalize cl5 cc = cl at *
            by_cases hz : 0 < cl
            · have hz' : decide (0 < cl) = true := decide_eq_true hz
              by_cases hf : cl < la
              · have hf' : decide (cl < la) = true := decide_eq_true hf
                have hq2 : q = 2 := HQ.out.symm.trans (HAT.out (.inr ⟨hz, hf⟩))
                subst hq2
                clear hnb HQ HAT HON HNN HNO
                go_wp2_with fail
                go_quiet (fail)
                go_wp2
                go_ret
                exact ⟨rfl, (HX2.out.go (below_drewN' (Below.refl _ _) _)).be⟩
              · have hf' : decide (cl < la) = false := decide_eq_false hf
                have HOK := Lib.hid (HON.out (HNN.out hnb) (by omega))
                clear HON HNN hnb HAT HNO HL0 HLT
                go_wp2_with fail
                go_quiet (fail)
                have HX3 : Hid (RxAt W R (some ⟨b, o, none⟩) n c l (w2.drewN nq)) := Lib.hid (HX2.out.go (below_drewN' (Below.refl _ _) nq))
                clear HX2 HPV2 hcc hcl hcl0 hpv hpj
                generalize w2.drewN nq = w3 at *
                go_wp2_with fail
                with_reducible refine (HKD.out _).mono ?_
                rintro e w4 ⟨rfl, rfl⟩
                by_cases hk2 : kd = 2
                · have hk2' : (kd == 2) = true := by simp [hk2]
                  have hmb : mb = true := by rw [HMB.out, decide_eq_true hk2]; simp
                  subst hmb
                  clear HMB hk2 HSE
                  go_wp2
                  go_roundw
                  case rel => exact ⟨j + 1 + 1, by omega, by go_num, by rw [HTK.out]; exact HOK.out, by rw [HTK.out, HSN.out]; rfl, HX3.out⟩
                  case measure => simp [intOf]; omega
                · have hk2' : (kd == 2) = false := by simpa using hk2
                  by_cases hk3 : kd = 3
                  · have hk3' : (kd == 3) = true := by simp [hk3]
                    have hmb : mb = true := by rw [HMB.out, decide_eq_true hk3]; simp
                    subst hmb
                    clear HMB hk2 hk3 HSE
                    go_wp2
                    go_roundw
                    case rel => exact ⟨j + 1 + 1, by omega, by go_num, by rw [HTK.out]; exact HOK.out, by rw [HTK.out, HSN.out]; rfl, HX3.out⟩
                    case measure => simp [intOf]; omega
                  · have hk3' : (kd == 3) = false := by simpa using hk3
                    have hmb : mb = se := by rw [HMB.out, decide_eq_false hk2, decide_eq_false hk3]; simp
                    subst hmb
                    clear HMB hk2 hk3
                    cases mb with
                    | true =>
                      go_wp2_with fail
                      with_reducible refine (HSE.out _ HX3.out.dt).mono ?_
                      rintro e w5 ⟨rfl, rfl⟩
                      go_wp2
                      go_roundw
                      case rel => exact ⟨j + 1 + 1, by omega, by go_num, by rw [HTK.out]; exact HOK.out, by rw [HTK.out, HSN.out]; rfl, HX3.out⟩
                      case measure => simp [intOf]; omega
                    | false =>
                      go_wp2_with fail
                      with_reducible refine (HSE.out _ HX3.out.dt).mono ?_
                      rintro e w5 ⟨rfl, rfl⟩
                      go_wp2
                      go_roundw
                      case rel => exact ⟨j + 1 + 1, by omega, by go_num, by rw [HTK.out]; exact HOK.out, by rw [HTK.out, HSN.out]; rfl, HX3.out⟩
                      case measure => simp [intOf]; omega
            · have hz' : decide (0 < cl) = false := decide_eq_false hz
              have HOK := Lib.hid (HON.out (HNN.out hnb) (by omega))
              clear HON HNN hnb HAT HNO HL0 HLT
              go_wp2_with fail
              go_quiet (fail)
              have HX3 : Hid (RxAt W R (some ⟨b, o, none⟩) n c l (w2.drewN nq)) := Lib.hid (HX2.out.go (below_drewN' (Below.refl _ _) nq))
              clear HX2 HPV2 hcc hcl hcl0 hpv hpj
              generalize w2.drewN nq = w3 at *
              go_wp2_with fail
              with_reducible refine (HKD.out _).mono ?_
              rintro e w4 ⟨rfl, rfl⟩
              by_cases hk2 : kd = 2
              · have hk2' : (kd == 2) = true := by simp [hk2]
                have hmb : mb = true := by rw [HMB.out, decide_eq_true hk2]; simp
                subst hmb
                clear HMB hk2 HSE
                go_wp2
                go_roundw
                case rel => exact ⟨j + 1 + 1, by omega, by go_num, by rw [HTK.out]; exact HOK.out, by rw [HTK.out, HSN.out]; rfl, HX3.out⟩
                case measure => simp [intOf]; omega
              · have hk2' : (kd == 2) = false := by simpa using hk2
                by_cases hk3 : kd = 3
                · have hk3' : (kd == 3) = true := by simp [hk3]
                  have hmb : mb = true := by rw [HMB.out, decide_eq_true hk3]; simp
                  subst hmb
                  clear HMB hk2 hk3 HSE
                  go_wp2
                  go_roundw
                  case rel => exact ⟨j + 1 + 1, by omega, by go_num, by rw [HTK.out]; exact HOK.out, by rw [HTK.out, HSN.out]; rfl, HX3.out⟩
                  case measure => simp [intOf]; omega
                · have hk3' : (kd == 3) = false := by simpa using hk3
                  have hmb : mb = se := by rw [HMB.out, decide_eq_false hk2, decide_eq_false hk3]; simp
                  subst hmb
                  clear HMB hk2 hk3
                  cases mb with
                  | true =>
                    go_wp2_with fail
                    with_reducible refine (HSE.out _ HX3.out.dt).mono ?_
                    rintro e w5 ⟨rfl, rfl⟩
                    go_wp2
                    go_roundw
                    case rel => exact ⟨j + 1 + 1, by omega, by go_num, by rw [HTK.out]; exact HOK.out, by rw [HTK.out, HSN.out]; rfl, HX3.out⟩
                    case measure => simp [intOf]; omega
                  | false =>
                    go_wp2_with fail
                    with_reducible refine (HSE.out _ HX3.out.dt).mono ?_
                    rintro e w5 ⟨rfl, rfl⟩
                    go_wp2
                    go_roundw
                    case rel => exact ⟨j + 1 + 1, by omega, by go_num, by rw [HTK.out]; exact HOK.out, by rw [HTK.out, HSN.out]; rfl, HX3.out⟩
                    case measure => simp [intOf]; omega
    · have hlt' : ¬ (k : Int) < n := by omega
      have he : l.take k = l := List.take_of_length_le (by rw [HL.out]; omega)
      have hq2 : saidF (l.take k) = q := by
        have ho := HO.out
        rw [he] at ho ⊢
        exact (quick_ok ho).symm.trans HQ.out
      clear he
      have HQ2 := Lib.hid hq2
      clear hq2 HO
      rw [HQ2.out]
      go_wp2
      go_ret
      exact ⟨rfl, HXk.out.be⟩
end Go.Proofs.YtdmcidljjfogjaaDoor
