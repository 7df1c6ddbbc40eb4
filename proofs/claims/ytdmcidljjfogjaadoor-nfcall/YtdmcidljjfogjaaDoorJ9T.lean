/- Joined of: P9Look, P9Form, P9Text. -/
import Derived.Test.YtdmcidljjfogjaaDoorJ9Q
import Derived.Test.YtdmcidljjfogjaaDoorJ9F
import Derived.Test.YtdmcidljjfogjaaDoorJ9G
import Derived.Test.YtdmcidljjfogjaaDoorJ9J
import Derived.Test.YtdmcidljjfogjaaDoorJ9M
import Derived.Test.YtdmcidljjfogjaaDoorJ9R
import Derived.Test.YtdmcidljjfogjaaDoorJ9N
import Derived.Test.YtdmcidljjfogjaaDoorJ9D
/- nfc.inNoForm, nfc.mayBeTaken, the look and what makes it, by their contracts. -/
namespace Go.Proofs.YtdmcidljjfogjaaDoor
set_option maxRecDepth 100000
open Go.ChangeShapes Go.WideShapes Go.ChangeAt Go.RowKit
set_option linter.unusedVariables false
set_option linter.unusedSimpArgs false
attribute [local irreducible] P5 S5 C5

set_option maxHeartbeats 2000000 in
theorem inNoForm_any (c : Int) (W : World) (g : Nat) (hc : R32 c) (hT : TblAt W W.heap.size g C5 P5 S5) : Calls Tryd.prog 53 #[.pointer (some ⟨g, 0, none⟩), .int .i32 c] W fun e w' => e = .returned (.bool (noB c)) ∧ Below W.heap.size W w' := by
  have HT := Lib.hid hT
  have HS := Lib.hid (singleQ hT fine5 c)
  have HP := Lib.hid (fun (W' : World) (h : TblAt W' W'.heap.size g C5 P5 S5) => pairQ h fine5 c)
  have hx : R32 (pxF P5 c) := px5_in c
  have hy : R32 (pyF P5 c) := py5_in c
  have HJ := Lib.hid (fun (W' : World) (h : TblAt W' W'.heap.size g C5 P5 S5) => joinedQ h (pxF P5 c) (pyF P5 c) (r32_wf hx) (r32_wf hy))
  have HN : Hid (noB c = _) := Lib.hid (noB.eq_1 c)
  clear hT hx hy hc
  generalize noB c = nb at *
  cases h1 : (tab (castE S5) c != 0) with
  | true =>
    rw [h1] at HS HN
    have hnb : nb = true := by rw [HN.out]; rfl
    subst hnb
    clear h1 HN HP HJ
    generalize tab (castE S5) c = s at *
    go_enter Tryd.func53, Tryd.ntmps53
    go_wp2_with fail
    with_reducible refine HS.out.mono ?_
    rintro e w1 ⟨rfl, hs1⟩
    go_wp2
    go_ret
    exact ⟨rfl, hs1.below⟩
  | false =>
    rw [h1] at HS HN
    generalize tab (castE S5) c = s at *
    clear h1
    cases h2 : pkF P5 c with
    | false =>
      rw [h2] at HP HN
      have hnb : nb = false := by rw [HN.out]; rfl
      subst hnb
      clear h2 HN HJ
      generalize pxF P5 c = x at *
      generalize pyF P5 c = y at *
      go_enter Tryd.func53, Tryd.ntmps53
      go_wp2_with fail
      with_reducible refine HS.out.mono ?_
      rintro e w1 ⟨rfl, hs1⟩
      have HB1 := Lib.hid hs1.below
      have HT1 := Lib.hid (HT.out.go hs1.below)
      clear hs1
      go_wp2_with fail
      with_reducible refine (HP.out _ HT1.out).mono ?_
      rintro e w2 ⟨rfl, hb2⟩
      have HB2 := Lib.hid (HB1.out.trans (hb2.mono HB1.out.size))
      clear hb2
      go_wp2
      go_ret
      exact ⟨rfl, HB2.out⟩
    | true =>
      rw [h2] at HP HN
      clear h2
      generalize pxF P5 c = x at *
      generalize pyF P5 c = y at *
      by_cases h3 : [x, y] ∈ (jst P5).1
      · have h3' := decide_eq_true h3
        rw [h3'] at HJ HN
        rw [if_pos h3] at HJ
        clear h3 h3'
        generalize (jst P5).2 [x, y] = d at *
        cases h4 : (d != c) with
        | true =>
          have h5 : decide (d = c) = false := decide_eq_false (by simpa using h4)
          rw [h5] at HN
          have hnb : nb = true := by rw [HN.out]; rfl
          subst hnb
          clear h5 HN
          go_enter Tryd.func53, Tryd.ntmps53
          go_wp2_with fail
          with_reducible refine HS.out.mono ?_
          rintro e w1 ⟨rfl, hs1⟩
          have HB1 := Lib.hid hs1.below
          have HT1 := Lib.hid (HT.out.go hs1.below)
          clear hs1
          go_wp2_with fail
          with_reducible refine (HP.out _ HT1.out).mono ?_
          rintro e w2 ⟨rfl, hb2⟩
          have HB2 := Lib.hid (HB1.out.trans (hb2.mono HB1.out.size))
          have HT2 := Lib.hid (HT1.out.go hb2)
          clear hb2
          go_wp2_with fail
          with_reducible refine (HJ.out _ HT2.out).mono ?_
          rintro e w3 ⟨rfl, rfl⟩
          go_wp2
          go_ret
          exact ⟨rfl, HB2.out⟩
        | false =>
          have h5 : decide (d = c) = true := decide_eq_true (by simpa using h4)
          rw [h5] at HN
          have hnb : nb = false := by rw [HN.out]; rfl
          subst hnb
          clear h5 HN
          go_enter Tryd.func53, Tryd.ntmps53
          go_wp2_with fail
          with_reducible refine HS.out.mono ?_
          rintro e w1 ⟨rfl, hs1⟩
          have HB1 := Lib.hid hs1.below
          have HT1 := Lib.hid (HT.out.go hs1.below)
          clear hs1
          go_wp2_with fail
          with_reducible refine (HP.out _ HT1.out).mono ?_
          rintro e w2 ⟨rfl, hb2⟩
          have HB2 := Lib.hid (HB1.out.trans (hb2.mono HB1.out.size))
          have HT2 := Lib.hid (HT1.out.go hb2)
          clear hb2
          go_wp2_with fail
          with_reducible refine (HJ.out _ HT2.out).mono ?_
          rintro e w3 ⟨rfl, rfl⟩
          go_wp2
          go_ret
          exact ⟨rfl, HB2.out⟩
      · have h3' := decide_eq_false h3
        rw [h3'] at HJ HN
        rw [if_neg h3] at HJ
        have hnb : nb = true := by rw [HN.out]; rfl
        subst hnb
        clear h3 h3' HN
        go_enter Tryd.func53, Tryd.ntmps53
        go_wp2_with fail
        with_reducible refine HS.out.mono ?_
        rintro e w1 ⟨rfl, hs1⟩
        have HB1 := Lib.hid hs1.below
        have HT1 := Lib.hid (HT.out.go hs1.below)
        clear hs1
        go_wp2_with fail
        with_reducible refine (HP.out _ HT1.out).mono ?_
        rintro e w2 ⟨rfl, hb2⟩
        have HB2 := Lib.hid (HB1.out.trans (hb2.mono HB1.out.size))
        have HT2 := Lib.hid (HT1.out.go hb2)
        clear hb2
        go_wp2_with fail
        with_reducible refine (HJ.out _ HT2.out).mono ?_
        rintro e w3 ⟨rfl, rfl⟩
        go_wp2
        go_ret
        exact ⟨rfl, HB2.out⟩

set_option maxHeartbeats 2000000 in
theorem mayBe_any (c : Int) (W : World) (g : Nat) (hT : TblAt W W.heap.size g C5 P5 S5) : Calls Tryd.prog 54 #[.pointer (some ⟨g, 0, none⟩), .int .i32 c] W fun e w' => e = .returned (.bool (mb5 c)) ∧ Below W.heap.size W w' := by
  have HQ : Hid (Calls Tryd.prog 70 #[.pointer (some ⟨g, 0, none⟩), .int .i32 c] W fun e w' => e = .returned (.bool (sec5 c)) ∧ Still W w') := Lib.hid (secondQ hT c)
  have HK := Lib.hid (hkind_any c W)
  have HM : Hid (mb5 c = _) := Lib.hid (mb5.eq_1 c)
  clear hT
  generalize mb5 c = m at *
  generalize sec5 c = s at *
  generalize kind6 c = k at *
  by_cases h2 : k = 2
  · have h2' : (k == 2) = true := by simp [h2]
    have hm : m = true := by rw [HM.out, decide_eq_true h2]; simp
    subst hm
    clear h2 HM HQ
    go_enter Tryd.func54, Tryd.ntmps54
    go_wp2_with fail
    with_reducible refine HK.out.mono ?_
    rintro e w1 ⟨rfl, rfl⟩
    go_wp2
    go_ret
    exact ⟨rfl, Below.refl _ _⟩
  · have h2' : (k == 2) = false := by simpa using h2
    by_cases h3 : k = 3
    · have h3' : (k == 3) = true := by simp [h3]
      have hm : m = true := by rw [HM.out, decide_eq_true h3]; simp
      subst hm
      clear h2 h3 HM HQ
      go_enter Tryd.func54, Tryd.ntmps54
      go_wp2_with fail
      with_reducible refine HK.out.mono ?_
      rintro e w1 ⟨rfl, rfl⟩
      go_wp2
      go_ret
      exact ⟨rfl, Below.refl _ _⟩
    · have h3' : (k == 3) = false := by simpa using h3
      have hm : m = s := by rw [HM.out, decide_eq_false h2, decide_eq_false h3]; simp
      subst hm
      clear h2 h3 HM
      go_enter Tryd.func54, Tryd.ntmps54
      go_wp2_with fail
      with_reducible refine HK.out.mono ?_
      rintro e w1 ⟨rfl, rfl⟩
      go_wp2_with fail
      with_reducible refine HQ.out.mono ?_
      rintro e w1 ⟨rfl, hs1⟩
      go_wp2
      go_ret
      exact ⟨rfl, hs1.below⟩

/-- where the look's loop stands -/
def LookLoop (W : World) (l : List Int) (s4 s5 s11 : Value) (wr : World) : Prop := ∃ k : Nat, k ≤ l.length ∧ s11 = .int .i64 k ∧ okQ (l.take k) ∧ s4 = .int .i64 (saidF (l.take k)) ∧ s5 = .int .i64 (lastC (l.take k)) ∧ Below W.heap.size W wr
abbrev LookAt (W : World) (t g : Nat) : Prop := Blk W t 24 #[.pointer (some ⟨g, 0, none⟩)]
theorem class9 {W : World} {B g : Nat} (h : TblAt W B g C5 P5 S5) (c : Int) : Calls Tryd.prog 52 #[.pointer (some ⟨g, 0, none⟩), .int .i32 c] W fun e w' => e = .returned (.int .i64 (cl5 c)) ∧ Still W w' := classQ h c
/-- what the look's round has at hand -/
structure LkAt (W : World) (t g : Nat) (w : World) : Prop where
  tb : TblAt w w.heap.size g C5 P5 S5
  lk : LookAt w t g
  be : Below W.heap.size W w
theorem LkAt.go {W w w' : World} {t g : Nat} (h : LkAt W t g w) (hb : Below w.heap.size w w') : LkAt W t g w' := ⟨h.tb.go hb, h.lk.below hb h.lk.lt, h.be.trans (hb.mono h.be.size)⟩

set_option maxHeartbeats 8000000 in
theorem look_any (W : World) (t g : Nat) (A : Option Addr) (n c : Nat) (l : List Int) (hA : RowIn W A n c l) (hT : TblAt W W.heap.size g C5 P5 S5) (hL : LookAt W t g) (hR : ∀ x ∈ l, R32 x) (hn : n ≤ 1000000) :
    Calls Tryd.prog 51 #[.slice A n c, .pointer (some ⟨t, 0, none⟩)] W fun e w' => e = .returned (.int .i64 (quickF l)) ∧ Below W.heap.size W w' := by
  have HA := Lib.hid hA
  have HL := Lib.hid hA.len
  have HR := Lib.hid hR
  have HI : Hid (LkAt W t g W) := Lib.hid ⟨hT, hL, Below.refl _ _⟩
  have HK := Lib.hid hL.lt
  clear hA hT hL hR
  generalize hq : quickF l = q
  have HQ := Lib.hid hq
  clear hq
  go_enter Tryd.func51, Tryd.ntmps51
  go_wp2_with fail
  go_loopw [4, 5, 11] (fun s4 s5 s11 wr => LookLoop W l s4 s5 s11 wr) (fun _ _ i _ => n - (intOf i).toNat)
  case atStart => exact ⟨0, by omega, rfl, okQ_nil, by rw [List.take_zero, saidF_nil], rfl, Below.refl _ _⟩
  case round =>
    obtain ⟨k, hk, rfl, hok, rfl, rfl, hb⟩ := hrel
    rw [HL.out] at hk
    have HO := Lib.hid hok
    have HIk := Lib.hid (HI.out.go hb)
    clear hok
    by_cases hlt : k < n
    · have hkl : k < l.length := by rw [HL.out]; exact hlt
      obtain ⟨b, o, rfl, hbl, hc⟩ := HA.out.first (by omega)
      have h1 : wr.cell? ⟨b, o + k, none⟩ = some (.int .i32 (l.getD k 0)) := (hb.cell (p := ⟨b, o + k, none⟩) hbl).trans (hc k hlt)
      have h2 : wr.cell? ⟨t, 0, none⟩ = some (.pointer (some ⟨g, 0, none⟩)) := HIk.out.lk.cell 0
      have hlt' : (k : Int) < n := by omega
      have hmem : l.getD k 0 ∈ l := by
        rw [List.getD_eq_getElem?_getD, List.getElem?_eq_getElem hkl]
        exact List.getElem_mem hkl
      have HRC := Lib.hid (HR.out _ hmem)
      have HSN := Lib.hid (saidF_snoc (l.take k) (l.getD k 0))
      have HLN := Lib.hid (lastC_snoc (l.take k) (l.getD k 0))
      have HON := Lib.hid (okQ_snoc (c := l.getD k 0) HO.out)
      have HAT := Lib.hid (quick_at hkl)
      have HTK := Lib.hid (take_snoc l k hkl)
      have HCL := Lib.hid (class9 HIk.out.tb (l.getD k 0))
      clear hc hmem hb hkl HO
      generalize l.getD k 0 = cc at *
      have hla := lastC_in (l.take k)
      have hsa := saidF_in (l.take k)
      have hc0 := cl5_nn cc
      have hc1 := cl5_le cc
      have HIN := Lib.hid (fun W' => inNoForm_any cc W' g HRC.out)
      have HMB := Lib.hid (fun W' => mayBe_any cc W' g)
      have HNO := Lib.hid (noB_iff cc)
      have HNN := Lib.hid (noB_no (c := cc))
      generalize lastC (l.take k) = la at *
      generalize saidF (l.take k) = sa at *
      generalize cl5 cc = cl at *
      go_wp2_with fail
      with_reducible refine HCL.out.mono ?_
      rintro e w1 ⟨rfl, hs1⟩
      have HI1 := Lib.hid (HIk.out.go hs1.below)
      have h21 : w1.cell? ⟨t, 0, none⟩ = some (.pointer (some ⟨g, 0, none⟩)) := HI1.out.lk.cell 0
      clear hs1 HIk h1 h2
      by_cases hfall : 0 < cl ∧ cl < la
      · have hq2 : q = 2 := HQ.out.symm.trans (HAT.out (.inr hfall))
        subst hq2
        obtain ⟨hf1, hf2⟩ := hfall
        go_wp2
        go_ret
        exact ⟨rfl, HI1.out.be⟩
      · have hf : ¬ 0 < cl ∨ (0 < cl ∧ ¬ cl < la) := by omega
        have HF := Lib.hid hfall
        clear hfall
        rcases hf with hf | ⟨hf, hf'⟩
        all_goals
          cases hnb : noB cc with
          | true =>
            have hq2 : q = 2 := HQ.out.symm.trans (HAT.out (.inl (HNO.out.1 hnb)))
            subst hq2
            rw [hnb] at HIN
            clear hnb
            go_wp2_with fail
            with_reducible refine (HIN.out _ HI1.out.tb).mono ?_
            rintro e w2 ⟨rfl, hb2⟩
            have HI2 := Lib.hid (HI1.out.go hb2)
            clear hb2
            go_wp2
            go_ret
            exact ⟨rfl, HI2.out.be⟩
          | false =>
            have HON2 := Lib.hid (HON.out (HNN.out hnb) HF.out)
            rw [hnb] at HIN
            clear hnb
            cases hmb : mb5 cc with
            | true =>
              rw [hmb] at HMB HSN
              clear hmb
              go_wp2_with fail
              with_reducible refine (HIN.out _ HI1.out.tb).mono ?_
              rintro e w2 ⟨rfl, hb2⟩
              have HI2 := Lib.hid (HI1.out.go hb2)
              have h22 : w2.cell? ⟨t, 0, none⟩ = some (.pointer (some ⟨g, 0, none⟩)) := HI2.out.lk.cell 0
              clear hb2 HI1 h21
              go_wp2_with fail
              with_reducible refine (HMB.out _ HI2.out.tb).mono ?_
              rintro e w3 ⟨rfl, hb3⟩
              have HI3 := Lib.hid (HI2.out.go hb3)
              clear hb3 HI2 h22
              go_wp2
              go_roundw
              case rel => exact ⟨k + 1, by rw [HL.out]; omega, by go_num, by rw [HTK.out]; exact HON2.out, by rw [HTK.out, HSN.out]; rfl, by rw [HTK.out, HLN.out], HI3.out.be⟩
              case measure => simp [intOf]; omega
            | false =>
              rw [hmb] at HMB HSN
              clear hmb
              go_wp2_with fail
              with_reducible refine (HIN.out _ HI1.out.tb).mono ?_
              rintro e w2 ⟨rfl, hb2⟩
              have HI2 := Lib.hid (HI1.out.go hb2)
              have h22 : w2.cell? ⟨t, 0, none⟩ = some (.pointer (some ⟨g, 0, none⟩)) := HI2.out.lk.cell 0
              clear hb2 HI1 h21
              go_wp2_with fail
              with_reducible refine (HMB.out _ HI2.out.tb).mono ?_
              rintro e w3 ⟨rfl, hb3⟩
              have HI3 := Lib.hid (HI2.out.go hb3)
              clear hb3 HI2 h22
              go_wp2
              go_roundw
              case rel => exact ⟨k + 1, by rw [HL.out]; omega, by go_num, by rw [HTK.out]; exact HON2.out, by rw [HTK.out, HSN.out]; rfl, by rw [HTK.out, HLN.out], HI3.out.be⟩
              case measure => simp [intOf]; omega
    · have hlt' : ¬ (k : Int) < n := by omega
      have he : l.take k = l := List.take_of_length_le (by rw [HL.out]; omega)
      have hq2 : saidF (l.take k) = q := by
        have ho := HO.out
        rw [he] at ho ⊢
        exact (quick_ok ho).symm.trans HQ.out
      clear he
      have HQ2 := Lib.hid hq2
      clear hq2 HO
      rw [HQ2.out]
      go_wp2
      go_ret
      exact ⟨rfl, hb⟩

/-- what makes forms, as it is handed on -/
abbrev formerV (t g : Nat) : Value := .agg #[.pointer (some ⟨g, 0, none⟩), .func (.func 51) #[] #[.pointer (some ⟨t, 0, none⟩)]]
def FormerOut (W : World) (g : Nat) (e : Ending) (w' : World) : Prop := ∃ t, e = .returned (formerV t g) ∧ LookAt w' t g ∧ Below W.heap.size W w'
end Go.Proofs.YtdmcidljjfogjaaDoor

/- Printed by gen_p9.py. nfc's former by its contracts: newFormer, made, form; Form, Is, Quick, Equal. -/
namespace Go.Proofs.YtdmcidljjfogjaaDoor
set_option maxRecDepth 100000
open Go.ChangeShapes Go.WideShapes Go.ChangeAt Go.RowKit
set_option linter.unusedVariables false
set_option linter.unusedSimpArgs false
attribute [local irreducible] P5 S5 C5

set_option maxHeartbeats 1000000 in
theorem newFormer_any (W : World) (g : Nat) : Calls Tryd.prog 32 #[.pointer (some ⟨g, 0, none⟩)] W (FormerOut W g) := by
  have hmf : ∀ (fn : Fn) (first cap : Array Value) (w : World), (Instr.makeFunc fn first cap).run Tryd.prog w = .ok (.func fn first cap) w := fun _ _ _ _ => rfl
  have hsf := fun (a : Addr) (c : Array Value) (w : World) => run_store Tryd.prog w a (.func (.func 51) #[] c) .plain rfl
  go_enter Tryd.func32, Tryd.ntmps32
  go_wp2
  refine bodyPost_ret (v := formerV W.heap.size g) (by simp [results, Tryd.results32, go_sem]) rfl ⟨W.heap.size, rfl, ?_, ?_⟩
  · exact (Blk.new W 24 _).alloc _
  · exact ((Below.refl _ _).alloc (Nat.le_refl _) _).alloc (by rw [World.size_alloc]; omega) _

/-- what a former's call has at hand -/
structure FmAt (W : World) (t g : Nat) (A : Option Addr) (n c : Nat) (l : List Int) (w : World) : Prop where
  tb : TblAt w w.heap.size g C5 P5 S5
  lk : LookAt w t g
  row : RowIn w A n c l
  be : Below W.heap.size W w
theorem FmAt.go {W w w' : World} {t g : Nat} {A : Option Addr} {n c : Nat} {l : List Int} (h : FmAt W t g A n c l w) (hb : Below w.heap.size w w') : FmAt W t g A n c l w' := ⟨h.tb.go hb, h.lk.below hb h.lk.lt, h.row.go hb, h.be.trans (hb.mono h.be.size)⟩
theorem FmAt.self {W w : World} {t g : Nat} {A : Option Addr} {n c : Nat} {l : List Int} (h : FmAt W t g A n c l w) : FmAt w t g A n c l w := ⟨h.tb, h.lk, h.row, Below.refl _ _⟩
abbrev FmBlk (w : World) (p t g : Nat) : Prop := Blk w p 73 #[.pointer (some ⟨g, 0, none⟩), .func (.func 51) #[] #[.pointer (some ⟨t, 0, none⟩)]]

set_option maxHeartbeats 4000000 in
theorem made_any (W : World) (t g : Nat) (A : Option Addr) (n c : Nat) (l : List Int) (hF : FmAt W t g A n c l W) (hR : ∀ x ∈ l, R32 x) (hn : n ≤ 10000) :
    Calls Tryd.prog 36 #[formerV t g, .slice A n c] W (RowOut W (form5 l)) := by
  have HF := Lib.hid hF
  have HR := Lib.hid hR
  clear hF hR
  go_enter Tryd.func36, Tryd.ntmps36
  go_wp2_with fail
  have HX : Hid (FmBlk (W.alloc (.cells #[.pointer (some ⟨g, 0, none⟩), .func (.func 51) #[] #[.pointer (some ⟨t, 0, none⟩)]] 73)) W.heap.size t g) := Lib.hid (Blk.new W 73 _)
  have HF1 := Lib.hid (HF.out.go (below_new W (.cells #[.pointer (some ⟨g, 0, none⟩), .func (.func 51) #[] #[.pointer (some ⟨t, 0, none⟩)]] 73)))
  generalize W.alloc (.cells #[.pointer (some ⟨g, 0, none⟩), .func (.func 51) #[] #[.pointer (some ⟨t, 0, none⟩)]] 73) = w0 at *
  have hlt : W.heap.size < w0.heap.size := HX.out.lt
  generalize W.heap.size = p at HX hlt ⊢
  have h0 : w0.cell? ⟨p, 0, none⟩ = some (.pointer (some ⟨g, 0, none⟩)) := HX.out.cell 0
  have h1 : w0.cell? ⟨p, 1, none⟩ = some (.func (.func 51) #[] #[.pointer (some ⟨t, 0, none⟩)]) := HX.out.cell 1
  refine wp_region_G (by kernel_rfl) ?_
  have hg1 := Grow.drew w0
  generalize w0.drew = w1 at hg1 ⊢
  have h1 : w1.cell? ⟨p, 0, none⟩ = some (.pointer (some ⟨g, 0, none⟩)) := (Below.cell hg1 (p := ⟨p, 0, none⟩) hlt).trans h0
  have hlt1 : p < w1.heap.size := Nat.lt_of_lt_of_le hlt hg1.size
  have HF2 := Lib.hid (HF1.out.go hg1)
  clear hg1 h0 hlt HF1
  refine wpG_take 0 5 (v := ?v0) rfl rfl (by kernel_rfl) (by kernel_rfl) (by kernel_rfl) (fun _ _ _ h => h) (Or.inl ⟨by rfl, ?y0⟩) ?r0
  case y0 => (intro W hW; (go_simp; try with_reducible rfl))
  simp only [Act.put, List.setIfInBounds_toArray, List.set_cons_zero, List.set_cons_succ]
  refine wpG_take 1 6 (v := ?v1) rfl rfl (by kernel_rfl) (by kernel_rfl) (by kernel_rfl) (fun _ _ _ h => h) (Or.inl ⟨by rfl, ?y1⟩) ?r1
  case y1 => (intro W hW; have hc := (Below.cell hW (p := ⟨p, 0, none⟩) hlt1).trans h1; (go_simp; try with_reducible rfl))
  simp only [Act.put, List.setIfInBounds_toArray, List.set_cons_zero, List.set_cons_succ]
  refine wpG_take 2 7 (v := ?v2) rfl rfl (by kernel_rfl) (by kernel_rfl) (by kernel_rfl) (fun _ _ _ h => h) (Or.inl ⟨by rfl, ?y2⟩) ?r2
  case y2 => (intro W hW; (go_simp; try with_reducible rfl))
  simp only [Act.put, List.setIfInBounds_toArray, List.set_cons_zero, List.set_cons_succ]
  refine wpG_take 3 8 (v := ?v3) rfl rfl (by kernel_rfl) (by kernel_rfl) (by kernel_rfl) (fun _ _ _ h => h) (Or.inl ⟨by rfl, ?y3⟩) ?r3
  case y3 => (intro W hW; have hc := (Below.cell hW (p := ⟨p, 0, none⟩) hlt1).trans h1; (go_simp; try with_reducible rfl))
  simp only [Act.put, List.setIfInBounds_toArray, List.set_cons_zero, List.set_cons_succ]
  refine wpG_take 4 9 (v := ?v4) rfl rfl (by kernel_rfl) (by kernel_rfl) (by kernel_rfl) (fun _ _ _ h => h) (Or.inl ⟨by rfl, ?y4⟩) ?r4
  case y4 => (intro W hW; (go_simp; try with_reducible rfl))
  simp only [Act.put, List.setIfInBounds_toArray, List.set_cons_zero, List.set_cons_succ]
  refine wpG_call 5 (by kernel_rfl) rfl (fun K hK => ?_)
  go_simp
  with_reducible refine (all_any _ g _ _ _ _ HF2.out.row HF2.out.tb HR.out (by omega)).mono ?_
  rintro e w2 ⟨A2, n2, c2, rfl, hr2, hb2⟩
  have hle2 : n2 ≤ 1000000 := by
    have h1 := hr2.len
    have h2 := allF_len (cl := cl5) sy5_len l
    rw [HF2.out.row.len] at h2
    omega
  have HF3 := Lib.hid (HF2.out.go hb2)
  have HR2 := Lib.hid hr2
  clear hr2
  go_wp2_with fail
  refine hK.out _ _ ?_ ?_
  · exact hb2
  clear hK K
  refine wpG_call 6 (by kernel_rfl) rfl (fun K hK => ?_)
  go_simp
  with_reducible refine (compose_ok _ g _ _ _ _ HR2.out HF3.out.tb (all5_in HR.out) hle2).mono ?_
  rintro e w3 ⟨A3, n3, c3, rfl, hr3, hb3⟩
  have HF4 := Lib.hid (HF3.out.go hb3)
  have HR3 := Lib.hid hr3
  clear hr3
  go_wp2_with fail
  refine hK.out _ _ ?_ ?_
  · exact hb3
  clear hK K
  refine wpG_take 7 4 (v := ?v7) rfl rfl (by kernel_rfl) (by kernel_rfl) (by kernel_rfl) (fun _ _ _ h => h) (Or.inl ⟨by rfl, ?y7⟩) ?r7
  case y7 => (intro W hW; (go_simp; try with_reducible rfl))
  simp only [Act.put, List.setIfInBounds_toArray, List.set_cons_zero, List.set_cons_succ]
  refine wpG_done (by kernel_rfl) ?_ _
  go_wp2
  go_ret
  exact ⟨A3, n3, c3, rfl, HR3.out, HF4.out.be⟩

set_option maxHeartbeats 4000000 in
theorem fform_any (W : World) (t g : Nat) (A : Option Addr) (n c : Nat) (l : List Int) (hF : FmAt W t g A n c l W) (hR : ∀ x ∈ l, R32 x) (hn : n ≤ 10000) :
    Calls Tryd.prog 33 #[formerV t g, .slice A n c] W (RowOut W (form5 l)) := by
  have HF := Lib.hid hF
  have HR := Lib.hid hR
  clear hF hR
  have HQ : Hid (∀ w, FmAt W t g A n c l w → Calls Tryd.prog 51 #[.slice A n c, .pointer (some ⟨t, 0, none⟩)] w fun e w' => e = .returned (.int .i64 (quickF l)) ∧ Below w.heap.size w w') := Lib.hid fun w h => look_any w t g A n c l h.row h.tb h.lk HR.out (by omega)
  have HY := Lib.hid (quick_yes (l := l))
  generalize quickF l = q at *
  by_cases hq : q = 1
  · have hfl : form5 l = l := HY.out hq
    rw [hfl]
    subst hq
    clear HY hfl
    go_enter Tryd.func33, Tryd.ntmps33
    go_wp2_with fail
    have HF1 := Lib.hid (HF.out.go (below_new W (.cells #[.pointer (some ⟨g, 0, none⟩), .func (.func 51) #[] #[.pointer (some ⟨t, 0, none⟩)]] 73)))
    generalize W.alloc (.cells #[.pointer (some ⟨g, 0, none⟩), .func (.func 51) #[] #[.pointer (some ⟨t, 0, none⟩)]] 73) = w0 at *
    generalize W.heap.size = p at *
    with_reducible refine (HQ.out _ HF1.out).mono ?_
    rintro e w1 ⟨rfl, hb1⟩
    have HF2 := Lib.hid (HF1.out.go hb1)
    clear hb1 HF1
    go_wp2_with fail
    with_reducible refine (clone_any _ _ _ _ _ HF2.out.row (by omega)).mono ?_
    rintro e w2 ⟨A2, n2, c2, rfl, hr2, hb2⟩
    have HF3 := Lib.hid (HF2.out.go hb2)
    have HR2 := Lib.hid hr2
    clear hr2 hb2 HF2
    go_wp2
    go_ret
    exact ⟨A2, n2, c2, rfl, HR2.out, HF3.out.be⟩
  · have hq' : (q == 1) = false := by simpa using hq
    have HM : Hid (∀ w, FmAt W t g A n c l w → Calls Tryd.prog 36 #[formerV t g, .slice A n c] w (RowOut w (form5 l))) := Lib.hid fun w h => made_any w t g A n c l h.self HR.out hn
    clear hq HY
    go_enter Tryd.func33, Tryd.ntmps33
    go_wp2_with fail
    have HX : Hid (FmBlk (W.alloc (.cells #[.pointer (some ⟨g, 0, none⟩), .func (.func 51) #[] #[.pointer (some ⟨t, 0, none⟩)]] 73)) W.heap.size t g) := Lib.hid (Blk.new W 73 _)
    have HF1 := Lib.hid (HF.out.go (below_new W (.cells #[.pointer (some ⟨g, 0, none⟩), .func (.func 51) #[] #[.pointer (some ⟨t, 0, none⟩)]] 73)))
    generalize W.alloc (.cells #[.pointer (some ⟨g, 0, none⟩), .func (.func 51) #[] #[.pointer (some ⟨t, 0, none⟩)]] 73) = w0 at *
    generalize W.heap.size = p at HX ⊢
    with_reducible refine (HQ.out _ HF1.out).mono ?_
    rintro e w1 ⟨rfl, hb1⟩
    have HF2 := Lib.hid (HF1.out.go hb1)
    have HX1 := Lib.hid (HX.out.below hb1 HX.out.lt)
    have h0 : w1.cell? ⟨p, 0, none⟩ = some (.pointer (some ⟨g, 0, none⟩)) := HX1.out.cell 0
    have h1 : w1.cell? ⟨p, 1, none⟩ = some (.func (.func 51) #[] #[.pointer (some ⟨t, 0, none⟩)]) := HX1.out.cell 1
    clear hb1 HF1 HX
    go_wp2_with fail
    with_reducible refine (HM.out _ HF2.out).mono ?_
    rintro e w2 ⟨A2, n2, c2, rfl, hr2, hb2⟩
    have HF3 := Lib.hid (HF2.out.go hb2)
    have HR2 := Lib.hid hr2
    clear hr2 hb2 HF2
    go_wp2
    go_ret
    exact ⟨A2, n2, c2, rfl, HR2.out, HF3.out.be⟩

/-- what the exported calls have at hand -/
structure ExAt (W : World) (g : Nat) (A : Option Addr) (n c : Nat) (l : List Int) (w : World) : Prop where
  tb : TblAt w w.heap.size g C5 P5 S5
  row : RowIn w A n c l
  be : Below W.heap.size W w
theorem ExAt.go {W w w' : World} {g : Nat} {A : Option Addr} {n c : Nat} {l : List Int} (h : ExAt W g A n c l w) (hb : Below w.heap.size w w') : ExAt W g A n c l w' := ⟨h.tb.go hb, h.row.go hb, h.be.trans (hb.mono h.be.size)⟩
theorem ExAt.fm {W w : World} {t g : Nat} {A : Option Addr} {n c : Nat} {l : List Int} (h : ExAt W g A n c l w) (hk : LookAt w t g) : FmAt w t g A n c l w := ⟨h.tb, hk, h.row, Below.refl _ _⟩

set_option maxHeartbeats 4000000 in
theorem form_ok : FormOk := by
  intro W g A n c l hA hT hR hn
  have HE : Hid (ExAt W g A n c l W) := Lib.hid ⟨hT, hA, Below.refl _ _⟩
  have HR := Lib.hid hR
  clear hA hT hR
  go_enter Tryd.func12, Tryd.ntmps12
  go_wp2_with fail
  with_reducible refine (newFormer_any _ g).mono ?_
  rintro e w1 ⟨t, rfl, hlk, hb1⟩
  have HE1 := Lib.hid (HE.out.go hb1)
  have HK1 := Lib.hid hlk
  clear hlk hb1 HE
  go_wp2_with fail
  with_reducible refine (fform_any _ t g _ _ _ _ (HE1.out.fm HK1.out) HR.out hn).mono ?_
  rintro e w2 ⟨A2, n2, c2, rfl, hr2, hb2⟩
  have HE2 := Lib.hid (HE1.out.go hb2)
  have HR2 := Lib.hid hr2
  clear hr2 hb2 HE1
  go_wp2
  go_ret
  exact ⟨A2, n2, c2, rfl, HR2.out, HE2.out.be⟩

theorem field_look (w : World) (t g : Nat) : (Instr.field 73 (formerV t g) 1).run Tryd.prog w = .ok (.func (.func 51) #[] #[.pointer (some ⟨t, 0, none⟩)]) w := by kernel_rfl

set_option maxHeartbeats 4000000 in
theorem quick_okc : QuickOk := by
  intro W g A n c l hA hT hR hn
  have hfd := field_look
  have HE : Hid (ExAt W g A n c l W) := Lib.hid ⟨hT, hA, Below.refl _ _⟩
  have HR := Lib.hid hR
  clear hA hT hR
  go_enter Tryd.func16, Tryd.ntmps16
  go_wp2_with fail
  with_reducible refine (newFormer_any _ g).mono ?_
  rintro e w1 ⟨t, rfl, hlk, hb1⟩
  have HE1 := Lib.hid (HE.out.go hb1)
  have HK1 := Lib.hid hlk
  clear hlk hb1 HE
  go_wp2_with fail
  with_reducible refine (look_any _ t g _ _ _ _ HE1.out.row HE1.out.tb HK1.out HR.out (by omega)).mono ?_
  rintro e w2 ⟨rfl, hb2⟩
  have HE2 := Lib.hid (HE1.out.go hb2)
  clear hb2 HE1
  go_wp2
  go_ret
  exact ⟨rfl, HE2.out.be⟩

set_option maxHeartbeats 4000000 in
theorem is_ok : IsOk := by
  intro W g A n c l hA hT hR hn
  have HE : Hid (ExAt W g A n c l W) := Lib.hid ⟨hT, hA, Below.refl _ _⟩
  have HR := Lib.hid hR
  clear hA hT hR
  have HQ : Hid (∀ w t, ExAt W g A n c l w → LookAt w t g → Calls Tryd.prog 51 #[.slice A n c, .pointer (some ⟨t, 0, none⟩)] w fun e w' => e = .returned (.int .i64 (quickF l)) ∧ Below w.heap.size w w') := Lib.hid fun w t h hk => look_any w t g A n c l h.row h.tb hk HR.out (by omega)
  have HY := Lib.hid (quick_yes (l := l))
  have HN := Lib.hid (quick_no (l := l))
  have hsf := fun (a : Addr) (c : Array Value) (w : World) => run_store Tryd.prog w a (.func (.func 51) #[] c) .plain rfl
  generalize quickF l = q at *
  by_cases hq : q = 1
  · have hd : decide (form5 l = l) = true := decide_eq_true (HY.out hq)
    rw [hd]
    subst hq
    clear HY HN hd
    go_enter Tryd.func14, Tryd.ntmps14
    go_wp2_with fail
    with_reducible refine (newFormer_any _ g).mono ?_
    rintro e w1 ⟨t, rfl, hlk, hb1⟩
    have HE1 := Lib.hid (HE.out.go hb1)
    have HK1 := Lib.hid hlk
    clear hlk hb1 HE
    go_wp2_with fail
    have HX : Hid (FmBlk (w1.alloc (.cells #[.pointer (some ⟨g, 0, none⟩), .func (.func 51) #[] #[.pointer (some ⟨t, 0, none⟩)]] 73)) w1.heap.size t g) := Lib.hid (Blk.new w1 73 _)
    have HE2 := Lib.hid (HE1.out.go (below_new w1 (.cells #[.pointer (some ⟨g, 0, none⟩), .func (.func 51) #[] #[.pointer (some ⟨t, 0, none⟩)]] 73)))
    have HK2 : Hid (LookAt (w1.alloc (.cells #[.pointer (some ⟨g, 0, none⟩), .func (.func 51) #[] #[.pointer (some ⟨t, 0, none⟩)]] 73)) t g) := Lib.hid (HK1.out.alloc _)
    clear HE1 HK1
    generalize w1.alloc (.cells #[.pointer (some ⟨g, 0, none⟩), .func (.func 51) #[] #[.pointer (some ⟨t, 0, none⟩)]] 73) = w2 at *
    generalize w1.heap.size = p at *
    with_reducible refine (HQ.out _ t HE2.out HK2.out).mono ?_
    rintro e w3 ⟨rfl, hb3⟩
    have HE3 := Lib.hid (HE2.out.go hb3)
    have HK3 : Hid (LookAt w3 t g) := Lib.hid (HK2.out.below hb3 HK2.out.lt)
    have HX3 : Hid (FmBlk w3 p t g) := Lib.hid (HX.out.below hb3 HX.out.lt)
    have h0 : w3.cell? ⟨p, 0, none⟩ = some (.pointer (some ⟨g, 0, none⟩)) := HX3.out.cell 0
    have h1 : w3.cell? ⟨p, 1, none⟩ = some (.func (.func 51) #[] #[.pointer (some ⟨t, 0, none⟩)]) := HX3.out.cell 1
    clear hb3 HE2 HK2 HX
    go_wp2
    go_ret
    exact ⟨rfl, HE3.out.be⟩
  by_cases hq2 : q = 2
  · have hd : decide (form5 l = l) = false := decide_eq_false (HN.out hq2)
    rw [hd]
    subst hq2
    clear HY HN hd hq
    go_enter Tryd.func14, Tryd.ntmps14
    go_wp2_with fail
    with_reducible refine (newFormer_any _ g).mono ?_
    rintro e w1 ⟨t, rfl, hlk, hb1⟩
    have HE1 := Lib.hid (HE.out.go hb1)
    have HK1 := Lib.hid hlk
    clear hlk hb1 HE
    go_wp2_with fail
    have HX : Hid (FmBlk (w1.alloc (.cells #[.pointer (some ⟨g, 0, none⟩), .func (.func 51) #[] #[.pointer (some ⟨t, 0, none⟩)]] 73)) w1.heap.size t g) := Lib.hid (Blk.new w1 73 _)
    have HE2 := Lib.hid (HE1.out.go (below_new w1 (.cells #[.pointer (some ⟨g, 0, none⟩), .func (.func 51) #[] #[.pointer (some ⟨t, 0, none⟩)]] 73)))
    have HK2 : Hid (LookAt (w1.alloc (.cells #[.pointer (some ⟨g, 0, none⟩), .func (.func 51) #[] #[.pointer (some ⟨t, 0, none⟩)]] 73)) t g) := Lib.hid (HK1.out.alloc _)
    clear HE1 HK1
    generalize w1.alloc (.cells #[.pointer (some ⟨g, 0, none⟩), .func (.func 51) #[] #[.pointer (some ⟨t, 0, none⟩)]] 73) = w2 at *
    generalize w1.heap.size = p at *
    with_reducible refine (HQ.out _ t HE2.out HK2.out).mono ?_
    rintro e w3 ⟨rfl, hb3⟩
    have HE3 := Lib.hid (HE2.out.go hb3)
    have HK3 : Hid (LookAt w3 t g) := Lib.hid (HK2.out.below hb3 HK2.out.lt)
    have HX3 : Hid (FmBlk w3 p t g) := Lib.hid (HX.out.below hb3 HX.out.lt)
    have h0 : w3.cell? ⟨p, 0, none⟩ = some (.pointer (some ⟨g, 0, none⟩)) := HX3.out.cell 0
    have h1 : w3.cell? ⟨p, 1, none⟩ = some (.func (.func 51) #[] #[.pointer (some ⟨t, 0, none⟩)]) := HX3.out.cell 1
    clear hb3 HE2 HK2 HX
    go_wp2
    go_ret
    exact ⟨rfl, HE3.out.be⟩
  · have hq' : (q == 1) = false := by simpa using hq
    have hq2' : (q == 2) = false := by simpa using hq2
    clear hq hq2 HY HN
    go_enter Tryd.func14, Tryd.ntmps14
    go_wp2_with fail
    with_reducible refine (newFormer_any _ g).mono ?_
    rintro e w1 ⟨t, rfl, hlk, hb1⟩
    have HE1 := Lib.hid (HE.out.go hb1)
    have HK1 := Lib.hid hlk
    clear hlk hb1 HE
    go_wp2_with fail
    have HX : Hid (FmBlk (w1.alloc (.cells #[.pointer (some ⟨g, 0, none⟩), .func (.func 51) #[] #[.pointer (some ⟨t, 0, none⟩)]] 73)) w1.heap.size t g) := Lib.hid (Blk.new w1 73 _)
    have HE2 := Lib.hid (HE1.out.go (below_new w1 (.cells #[.pointer (some ⟨g, 0, none⟩), .func (.func 51) #[] #[.pointer (some ⟨t, 0, none⟩)]] 73)))
    have HK2 : Hid (LookAt (w1.alloc (.cells #[.pointer (some ⟨g, 0, none⟩), .func (.func 51) #[] #[.pointer (some ⟨t, 0, none⟩)]] 73)) t g) := Lib.hid (HK1.out.alloc _)
    clear HE1 HK1
    generalize w1.alloc (.cells #[.pointer (some ⟨g, 0, none⟩), .func (.func 51) #[] #[.pointer (some ⟨t, 0, none⟩)]] 73) = w2 at *
    generalize w1.heap.size = p at *
    with_reducible refine (HQ.out _ t HE2.out HK2.out).mono ?_
    rintro e w3 ⟨rfl, hb3⟩
    have HE3 := Lib.hid (HE2.out.go hb3)
    have HK3 : Hid (LookAt w3 t g) := Lib.hid (HK2.out.below hb3 HK2.out.lt)
    have HX3 : Hid (FmBlk w3 p t g) := Lib.hid (HX.out.below hb3 HX.out.lt)
    have h0 : w3.cell? ⟨p, 0, none⟩ = some (.pointer (some ⟨g, 0, none⟩)) := HX3.out.cell 0
    have h1 : w3.cell? ⟨p, 1, none⟩ = some (.func (.func 51) #[] #[.pointer (some ⟨t, 0, none⟩)]) := HX3.out.cell 1
    clear hb3 HE2 HK2 HX
    go_wp2_with fail
    with_reducible refine (made_any _ t g _ _ _ _ (HE3.out.fm HK3.out) HR.out hn).mono ?_
    rintro e w4 ⟨A4, n4, c4, rfl, hr4, hb4⟩
    have hle4 : n4 ≤ 1000000 := by
      have h1 := hr4.len
      have h2 := form_len l
      rw [HE3.out.row.len] at h2
      omega
    have HE4 := Lib.hid (HE3.out.go hb4)
    have HR4 := Lib.hid hr4
    clear hr4 hb4 HE3 HK3 HX3
    go_wp2_with fail
    with_reducible refine (equal_rows HR4.out HE4.out.row hle4 (by omega)).mono ?_
    rintro e w5 ⟨rfl, hs5⟩
    have HE5 := Lib.hid (HE4.out.go hs5.below)
    clear hs5 HE4 HR4
    go_wp2
    go_ret
    exact ⟨rfl, HE5.out.be⟩

set_option maxHeartbeats 4000000 in
theorem equal_ok : EqualOk := by
  intro W g A n c l B m d k hA hB hT hR hRk hn hm
  have HE : Hid (ExAt W g A n c l W) := Lib.hid ⟨hT, hA, Below.refl _ _⟩
  have HB := Lib.hid hB
  have HR := Lib.hid hR
  have HRK := Lib.hid hRk
  have hsf := fun (a : Addr) (c : Array Value) (w : World) => run_store Tryd.prog w a (.func (.func 51) #[] c) .plain rfl
  clear hA hT hR hB hRk
  go_enter Tryd.func18, Tryd.ntmps18
  go_wp2_with fail
  with_reducible refine (newFormer_any _ g).mono ?_
  rintro e wn ⟨t, rfl, hlk, hbn⟩
  have HE1 := Lib.hid (HE.out.go hbn)
  have HB1 := Lib.hid (HB.out.go hbn)
  have HK1 := Lib.hid hlk
  clear hlk hbn HE HB
  go_wp2_with fail
  have HX : Hid (FmBlk (wn.alloc (.cells #[.pointer (some ⟨g, 0, none⟩), .func (.func 51) #[] #[.pointer (some ⟨t, 0, none⟩)]] 73)) wn.heap.size t g) := Lib.hid (Blk.new wn 73 _)
  have HF0 : Hid (FmAt W t g A n c l wn) := Lib.hid ⟨HE1.out.tb, HK1.out, HE1.out.row, HE1.out.be⟩
  have HK0 : Hid (FmAt W t g B m d k wn) := Lib.hid ⟨HE1.out.tb, HK1.out, HB1.out, HE1.out.be⟩
  have HF1 := Lib.hid (HF0.out.go (below_new wn (.cells #[.pointer (some ⟨g, 0, none⟩), .func (.func 51) #[] #[.pointer (some ⟨t, 0, none⟩)]] 73)))
  clear HK1
  have HK1 := Lib.hid (HK0.out.go (below_new wn (.cells #[.pointer (some ⟨g, 0, none⟩), .func (.func 51) #[] #[.pointer (some ⟨t, 0, none⟩)]] 73)))
  clear HE1 HB1 HF0 HK0
  generalize wn.alloc (.cells #[.pointer (some ⟨g, 0, none⟩), .func (.func 51) #[] #[.pointer (some ⟨t, 0, none⟩)]] 73) = w0 at *
  have hlt : wn.heap.size < w0.heap.size := HX.out.lt
  generalize wn.heap.size = p at *
  have h0 : w0.cell? ⟨p, 0, none⟩ = some (.pointer (some ⟨g, 0, none⟩)) := HX.out.cell 0
  have h1 : w0.cell? ⟨p, 1, none⟩ = some (.func (.func 51) #[] #[.pointer (some ⟨t, 0, none⟩)]) := HX.out.cell 1
  refine wp_region_G (by kernel_rfl) ?_
  have hg1 := Grow.drew w0
  generalize w0.drew = w1 at hg1 ⊢
  have k0 : w1.cell? ⟨p, 0, none⟩ = some (.pointer (some ⟨g, 0, none⟩)) := (Below.cell hg1 (p := ⟨p, 0, none⟩) hlt).trans h0
  have k1 : w1.cell? ⟨p, 1, none⟩ = some (.func (.func 51) #[] #[.pointer (some ⟨t, 0, none⟩)]) := (Below.cell hg1 (p := ⟨p, 1, none⟩) hlt).trans h1
  have hlt1 : p < w1.heap.size := Nat.lt_of_lt_of_le hlt hg1.size
  have HF2 := Lib.hid (HF1.out.go hg1)
  have HK2 := Lib.hid (HK1.out.go hg1)
  clear hg1 h0 h1 hlt HF1 HK1
  refine wpG_take 0 10 (v := ?v0) rfl rfl (by kernel_rfl) (by kernel_rfl) (by kernel_rfl) (fun _ _ _ h => h) (Or.inl ⟨by rfl, ?y0⟩) ?r0
  case y0 => (intro W hW; have hc0 := (Below.cell hW (p := ⟨p, 0, none⟩) hlt1).trans k0; have hc1 := (Below.cell hW (p := ⟨p, 1, none⟩) hlt1).trans k1; (go_simp; try with_reducible rfl))
  simp only [Act.put, List.setIfInBounds_toArray, List.set_cons_zero, List.set_cons_succ]
  refine wpG_take 1 11 (v := ?v1) rfl rfl (by kernel_rfl) (by kernel_rfl) (by kernel_rfl) (fun _ _ _ h => h) (Or.inl ⟨by rfl, ?y1⟩) ?r1
  case y1 => (intro W hW; (go_simp; try with_reducible rfl))
  simp only [Act.put, List.setIfInBounds_toArray, List.set_cons_zero, List.set_cons_succ]
  refine wpG_take 3 13 (v := ?v3) rfl rfl (by kernel_rfl) (by kernel_rfl) (by kernel_rfl) (fun _ _ _ h => h) (Or.inl ⟨by rfl, ?y3⟩) ?r3
  case y3 => (intro W hW; have hc0 := (Below.cell hW (p := ⟨p, 0, none⟩) hlt1).trans k0; have hc1 := (Below.cell hW (p := ⟨p, 1, none⟩) hlt1).trans k1; (go_simp; try with_reducible rfl))
  simp only [Act.put, List.setIfInBounds_toArray, List.set_cons_zero, List.set_cons_succ]
  refine wpG_take 4 14 (v := ?v4) rfl rfl (by kernel_rfl) (by kernel_rfl) (by kernel_rfl) (fun _ _ _ h => h) (Or.inl ⟨by rfl, ?y4⟩) ?r4
  case y4 => (intro W hW; (go_simp; try with_reducible rfl))
  simp only [Act.put, List.setIfInBounds_toArray, List.set_cons_zero, List.set_cons_succ]
  refine wpG_call 2 (by kernel_rfl) rfl (fun K hK => ?_)
  go_simp
  with_reducible refine (fform_any _ t g _ _ _ _ HF2.out.self HR.out (by omega)).mono ?_
  rintro e w2 ⟨A2, n2, c2, rfl, hr2, hb2⟩
  have hle2 : n2 ≤ 1000000 := by
    have h1 := hr2.len
    have h2 := form_len l
    rw [HF2.out.row.len] at h2
    omega
  have HF3 := Lib.hid (HF2.out.go hb2)
  have HK3 := Lib.hid (HK2.out.go hb2)
  have HR2 := Lib.hid hr2
  clear hr2
  go_wp2_with fail
  refine hK.out _ _ ?_ ?_
  · exact hb2
  clear hK K
  refine wpG_call 5 (by kernel_rfl) rfl (fun K hK => ?_)
  go_simp
  with_reducible refine (fform_any _ t g _ _ _ _ HK3.out.self HRK.out (by omega)).mono ?_
  rintro e w3 ⟨A3, n3, c3, rfl, hr3, hb3⟩
  have hle3 : n3 ≤ 1000000 := by
    have h1 := hr3.len
    have h2 := form_len k
    rw [HK3.out.row.len] at h2
    omega
  have HF4 := Lib.hid (HF3.out.go hb3)
  have HR2' := Lib.hid (HR2.out.go hb3)
  have HR3 := Lib.hid hr3
  clear hr3
  go_wp2_with fail
  refine hK.out _ _ ?_ ?_
  · exact hb3
  clear hK K
  refine wpG_call 6 (by kernel_rfl) rfl (fun K hK => ?_)
  go_simp
  with_reducible refine (equal_rows HR2'.out HR3.out hle2 hle3).mono ?_
  rintro e w4 ⟨rfl, hs4⟩
  have HF5 := Lib.hid (HF4.out.go hs4.below)
  go_wp2_with fail
  refine hK.out _ _ ?_ ?_
  · exact hs4.below
  clear hK K
  refine wpG_take 7 6 (v := ?v7) rfl rfl (by kernel_rfl) (by kernel_rfl) (by kernel_rfl) (fun _ _ _ h => h) (Or.inl ⟨by rfl, ?y7⟩) ?r7
  case y7 => (intro W hW; (go_simp; try with_reducible rfl))
  simp only [Act.put, List.setIfInBounds_toArray, List.set_cons_zero, List.set_cons_succ]
  refine wpG_done (by kernel_rfl) ?_ _
  go_wp2
  go_ret
  exact ⟨rfl, HF5.out.be⟩
end Go.Proofs.YtdmcidljjfogjaaDoor

/- nfc.Text by its contract; all five of nfc. -/
namespace Go.Proofs.YtdmcidljjfogjaaDoor
set_option maxRecDepth 100000
open Go.ChangeShapes Go.WideShapes Go.ChangeAt Go.RowKit
set_option linter.unusedVariables false
set_option linter.unusedSimpArgs false
attribute [local irreducible] P5 S5 C5

set_option maxHeartbeats 4000000 in
theorem text_ok : TextOk := by
  intro W g xs hTab hT hB hx
  obtain ⟨A, c, w1, hrun, hcr⟩ := conv_bytes W xs hB (by omega)
  obtain ⟨hI, hc, hcm, hb⟩ := hcr
  have HA : Hid (Calls Tryd.prog 39 #[.slice A xs.length c] w1 (AllOut w1 xs)) := Lib.hid ((uall_any A c xs w1 (hTab.below' hb) hI hB (by omega) hc hcm).mono fun _ _ h => h.out)
  have HB1 := Lib.hid hb
  have HT1 := Lib.hid (hT.go hb)
  have HBK := Lib.hid (allS_back hB)
  have HLE := Lib.hid (allS_le9 xs)
  have HX := Lib.hid hx
  have HTF : Hid (textF xs = _) := Lib.hid (textF.eq_1 xs)
  have hsf := fun (a : Addr) (c : Array Value) (w : World) => run_store Tryd.prog w a (.func (.func 51) #[] c) .plain rfl
  clear hTab hT hI hc hcm hb hB hx
  generalize textF xs = tf at *
  unfold AllOut at HA
  generalize (allS xs).1 = l at *
  generalize ((allS xs).2.1 : Int) = m at *
  cases hok : (allS xs).2.2 with
  | false =>
    rw [hok] at HA HTF
    obtain rfl : tf = xs := HTF.out
    clear hok HTF HBK
    go_enter Tryd.func20, Tryd.ntmps20
    go_wp2_with fail
    with_reducible refine HA.out.mono ?_
    rintro e w2 ⟨A2, n2, c2, rfl, hr2, hb2⟩
    have HB2 := Lib.hid (HB1.out.trans (hb2.mono HB1.out.size))
    clear hr2 hb2
    go_wp2
    go_ret
    exact ⟨rfl, HB2.out⟩
  | true =>
    rw [hok] at HA HTF HBK
    have hR : ∀ x ∈ l, R32 x := fun x hx => isB_in (HBK.out.1 x hx)
    have HR := Lib.hid hR
    have HBT := Lib.hid (HBK.out.2 rfl)
    clear hok hR HBK
    have HY := Lib.hid (quick_yes (l := l))
    have HQ : Hid (∀ w t A2 n2 c2, n2 ≤ 10000 → ExAt W g A2 n2 c2 l w → LookAt w t g → Calls Tryd.prog 51 #[.slice A2 n2 c2, .pointer (some ⟨t, 0, none⟩)] w fun e w' => e = .returned (.int .i64 (quickF l)) ∧ Below w.heap.size w w') := Lib.hid fun w t A2 n2 c2 hn h hk => look_any w t g A2 n2 c2 l h.row h.tb hk HR.out (by omega)
    generalize quickF l = q at *
    by_cases hq : q = 1
    · have htf : tf = xs := by
        rw [HTF.out]
        show (if true = true then txt (form5 l) else xs) = xs
        rw [if_pos rfl, show form5 l = l from HY.out hq, HBT.out]
      subst htf
      subst hq
      clear HTF HY
      go_enter Tryd.func20, Tryd.ntmps20
      go_wp2_with fail
      with_reducible refine HA.out.mono ?_
      rintro e w2 ⟨A2, n2, c2, rfl, hr2, hb2⟩
      have hn2 : n2 ≤ 10000 := by
        have h1 := hr2.len
        have h3 := HLE.out
        have h4 := HX.out
        omega
      have HE2 : Hid (ExAt W g A2 n2 c2 l w2) := Lib.hid ⟨HT1.out.go hb2, hr2, HB1.out.trans (hb2.mono HB1.out.size)⟩
      clear hr2 hb2 HA HB1 HT1 hrun
      go_wp2_with fail
      with_reducible refine (newFormer_any _ g).mono ?_
      rintro e w3 ⟨t, rfl, hlk, hb3⟩
      have HE3 := Lib.hid (HE2.out.go hb3)
      have HK3 := Lib.hid hlk
      clear hlk hb3 HE2
      go_wp2_with fail
      have HX4 : Hid (FmBlk (w3.alloc (.cells #[.pointer (some ⟨g, 0, none⟩), .func (.func 51) #[] #[.pointer (some ⟨t, 0, none⟩)]] 73)) w3.heap.size t g) := Lib.hid (Blk.new w3 73 _)
      have HE4 := Lib.hid (HE3.out.go (below_new w3 (.cells #[.pointer (some ⟨g, 0, none⟩), .func (.func 51) #[] #[.pointer (some ⟨t, 0, none⟩)]] 73)))
      have HK4 : Hid (LookAt (w3.alloc (.cells #[.pointer (some ⟨g, 0, none⟩), .func (.func 51) #[] #[.pointer (some ⟨t, 0, none⟩)]] 73)) t g) := Lib.hid (HK3.out.alloc _)
      clear HE3 HK3
      generalize w3.alloc (.cells #[.pointer (some ⟨g, 0, none⟩), .func (.func 51) #[] #[.pointer (some ⟨t, 0, none⟩)]] 73) = w4 at *
      generalize w3.heap.size = p at *
      with_reducible refine (HQ.out _ t _ _ _ hn2 HE4.out HK4.out).mono ?_
      rintro e w5 ⟨rfl, hb5⟩
      have HE5 := Lib.hid (HE4.out.go hb5)
      have HK5 : Hid (LookAt w5 t g) := Lib.hid (HK4.out.below hb5 HK4.out.lt)
      have HX5 : Hid (FmBlk w5 p t g) := Lib.hid (HX4.out.below hb5 HX4.out.lt)
      have h0 : w5.cell? ⟨p, 0, none⟩ = some (.pointer (some ⟨g, 0, none⟩)) := HX5.out.cell 0
      have h1 : w5.cell? ⟨p, 1, none⟩ = some (.func (.func 51) #[] #[.pointer (some ⟨t, 0, none⟩)]) := HX5.out.cell 1
      clear hb5 HE4 HK4 HX4
      go_wp2
      go_ret
      exact ⟨rfl, HE5.out.be⟩
    · have hq' : (q == 1) = false := by simpa using hq
      have htf : tf = txt (form5 l) := HTF.out
      subst htf
      clear hq HTF HY
      go_enter Tryd.func20, Tryd.ntmps20
      go_wp2_with fail
      with_reducible refine HA.out.mono ?_
      rintro e w2 ⟨A2, n2, c2, rfl, hr2, hb2⟩
      have hn2 : n2 ≤ 10000 := by
        have h1 := hr2.len
        have h3 := HLE.out
        have h4 := HX.out
        omega
      have HE2 : Hid (ExAt W g A2 n2 c2 l w2) := Lib.hid ⟨HT1.out.go hb2, hr2, HB1.out.trans (hb2.mono HB1.out.size)⟩
      clear hr2 hb2 HA HB1 HT1 hrun
      go_wp2_with fail
      with_reducible refine (newFormer_any _ g).mono ?_
      rintro e w3 ⟨t, rfl, hlk, hb3⟩
      have HE3 := Lib.hid (HE2.out.go hb3)
      have HK3 := Lib.hid hlk
      clear hlk hb3 HE2
      go_wp2_with fail
      have HX4 : Hid (FmBlk (w3.alloc (.cells #[.pointer (some ⟨g, 0, none⟩), .func (.func 51) #[] #[.pointer (some ⟨t, 0, none⟩)]] 73)) w3.heap.size t g) := Lib.hid (Blk.new w3 73 _)
      have HE4 := Lib.hid (HE3.out.go (below_new w3 (.cells #[.pointer (some ⟨g, 0, none⟩), .func (.func 51) #[] #[.pointer (some ⟨t, 0, none⟩)]] 73)))
      have HK4 : Hid (LookAt (w3.alloc (.cells #[.pointer (some ⟨g, 0, none⟩), .func (.func 51) #[] #[.pointer (some ⟨t, 0, none⟩)]] 73)) t g) := Lib.hid (HK3.out.alloc _)
      clear HE3 HK3
      generalize w3.alloc (.cells #[.pointer (some ⟨g, 0, none⟩), .func (.func 51) #[] #[.pointer (some ⟨t, 0, none⟩)]] 73) = w4 at *
      generalize w3.heap.size = p at *
      with_reducible refine (HQ.out _ t _ _ _ hn2 HE4.out HK4.out).mono ?_
      rintro e w5 ⟨rfl, hb5⟩
      have HE5 := Lib.hid (HE4.out.go hb5)
      have HK5 : Hid (LookAt w5 t g) := Lib.hid (HK4.out.below hb5 HK4.out.lt)
      have HX5 : Hid (FmBlk w5 p t g) := Lib.hid (HX4.out.below hb5 HX4.out.lt)
      have h0 : w5.cell? ⟨p, 0, none⟩ = some (.pointer (some ⟨g, 0, none⟩)) := HX5.out.cell 0
      have h1 : w5.cell? ⟨p, 1, none⟩ = some (.func (.func 51) #[] #[.pointer (some ⟨t, 0, none⟩)]) := HX5.out.cell 1
      clear hb5 HE4 HK4 HX4
      go_wp2_with fail
      with_reducible refine (made_any _ t g _ _ _ _ (HE5.out.fm HK5.out) HR.out hn2).mono ?_
      rintro e w6 ⟨A6, n6, c6, rfl, hr6, hb6⟩
      have hle6 : n6 ≤ 65536 := by
        have h1 := hr6.len
        have h2 := form_len l
        have h3 := HLE.out
        have h4 := HX.out
        omega
      have HE6 := Lib.hid (HE5.out.go hb6)
      have HR6 := Lib.hid hr6
      clear hr6 hb6 HE5 HK5 HX5
      go_wp2_with fail
      with_reducible refine (Calls.mono (text_any _ _ _ _ _ HR6.out.len HR6.out.ints hle6) (fun _ _ h => RowRes.strOut h)).mono ?_
      rintro e w7 ⟨v7, rfl, hcv, hb7⟩
      have HE7 := Lib.hid (HE6.out.go hb7)
      clear hb7 HE6 HR6
      go_wp2
      go_ret
      exact ⟨rfl, HE7.out.be⟩
theorem nfc_ok : NfcOk := ⟨form_ok, is_ok, quick_okc, equal_ok, text_ok⟩
end Go.Proofs.YtdmcidljjfogjaaDoor
