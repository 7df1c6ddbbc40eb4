/- The walk of StageAll. -/
import Derived.Test.YtkkopgkeooaofaaSt4Awake
import Derived.Test.YtkkopgkeooaofaaArgE
namespace Go.Proofs.Ytkkopgkeooaofaa
open Go.ChangeShapes Go.WideShapes Go.ChangeAt Go.RowKit
set_option linter.unusedVariables false
set_option linter.unusedSimpArgs false

theorem quiet_still {P : Program} {f : FuncId} {args : Array Value} {w : World} {n : Nat} {v : Value}
    (h : Calls P f args (w.drewN n) fun e w' => e = .returned v ∧ Still (w.drewN n) w') : Calls P f args (w.drewN n) fun e w'' => e = .returned v ∧ ∃ m, w'' = w.drewN m :=
  h.mono fun _ _ ⟨he, m, hm⟩ => ⟨he, n + m, by rw [hm, World.drewN_drewN]⟩
theorem i32_bd {c : Int} (h : D32 c) : -2147483648 ≤ c ∧ c ≤ 2147483647 := by
  have h : (Lit.int .i32 c).wf = true := h
  simp [Lit.wf, IntKind.min, IntKind.max, IntKind.bits, IntKind.signed] at h
  omega
def LawPost (w : World) (e : Ending) (w' : World) : Prop := e = .returned (.bool true) ∧ Below w.heap.size w w'

set_option maxHeartbeats 2000000 in
theorem stageAll_walk (w : World) (A A2 : Option Addr) (n cap m cap2 : Nat) (l : List (Int × Int)) (cs : List Int) (hn : l.length = n) (hn2 : n ≤ maxLen) (hm2 : m ≤ maxLen) (hE : Ents w w.heap.size A l) (hf : FitE l) (hm : cs.length = m) (hI : Ints w w.heap.size .i32 A2 cs) (hw : ∀ x ∈ cs, D32 x) :
    Calls Try.prog 3 #[.slice A n cap, .slice A2 m cap2] w (LawPost w) := by
  unfold maxLen at hn2 hm2
  have HAW : Hid (∀ W, Calls Try.prog 6 #[] W fun e w' => e = .returned (.bool true) ∧ Below W.heap.size W w') := Lib.hid awake_true
  by_cases h1 : 400 < n
  · clear hn hE hf hm hI hw
    go_enter Try.func3, Try.ntmps3
    go_wp2_with fail
    with_reducible refine (HAW.out _).mono ?_
    rintro e w' ⟨rfl, hb⟩
    go_wp2
    go_ret
    exact ⟨rfl, hb⟩
  · by_cases h2 : 100 < m
    · clear hn hE hf hm hI hw
      go_enter Try.func3, Try.ntmps3
      go_wp2_with fail
      with_reducible refine (HAW.out _).mono ?_
      rintro e w' ⟨rfl, hb⟩
      go_wp2
      go_ret
      exact ⟨rfl, hb⟩
    · have HB1 := Lib.hid (build_any w A n cap l hn (by omega) hE hf)
      have HN := Lib.hid hn
      have HM := Lib.hid hm
      have HE := Lib.hid hE
      have HF := Lib.hid hf
      have HI := Lib.hid hI
      have HW := Lib.hid hw
      clear hn hE hf hm hI hw
      go_enter Try.func3, Try.ntmps3
      go_wp2_with fail
      with_reducible refine HB1.out.mono ?_
      rintro e w1 ⟨g, U, rfl, hd, ht, hb1⟩
      have HD := Lib.hid hd
      have HT := Lib.hid ht
      have HBL := Lib.hid hb1
      have hs1 := hb1.size
      have HE1 := Lib.hid ((HE.out.below hb1 (Nat.le_refl _)).more hs1)
      have HB2 := Lib.hid (r_build_any w1 A n cap l HN.out (by omega) HE1.out HF.out)
      clear hd ht hb1 HB1
      go_wp2_with fail
      with_reducible refine HB2.out.mono ?_
      rintro e w2 ⟨g2, m2, rfl, hr, hb2⟩
      have HR := Lib.hid hr
      have HT2 := Lib.hid ((HT.out.below hb2 (Nat.le_refl _)).more hb2.size)
      have HBL2 := Lib.hid (HBL.out.trans (hb2.mono hs1))
      have HE2 := Lib.hid ((HE1.out.below hb2 (Nat.le_refl _)).more hb2.size)
      have HI2 := Lib.hid (HI.out.below HBL2.out (Nat.le_refl _))
      have hs2 := hb2.size
      clear hr hb2 HB2 HT HBL HE1
      go_wp2_with fail
      go_loopw [7] (fun i wr => ∃ k : Nat, k ≤ n ∧ i = .int .i64 k ∧ Still w2 wr) (fun i _ => n - (intOf i).toNat)
      case atStart => exact ⟨0, by omega, rfl, Still.refl _⟩
      case round =>
        obtain ⟨k, hk, rfl, hst⟩ := hrel
        have HST := Lib.hid hst
        clear hst
        by_cases hlt : k < n
        · obtain ⟨b, o, rfl, hbl, hc⟩ := HE2.out.at (by rw [HN.out]; omega)
          obtain ⟨c0, c1⟩ := hc k (by rw [HN.out]; omega)
          clear hc c1
          have c0 : wr.cell? ⟨b, o + k * 2, none⟩ = _ := (HST.out.cell _).trans c0
          have HWC : Hid (D32 ((l.getD k (0, 0)).1)) := Lib.hid (HF.out _ (by rw [List.getD_eq_getElem?_getD, List.getElem?_eq_getElem (by rw [HN.out]; omega)]; exact List.getElem_mem _)).1
          generalize (l.getD k (0, 0)).1 = c at c0 HWC
          have htd : ∀ q, TabAt (wr.drewN q) w2.heap.size g (tab l) U.length := fun q => (HT2.out.still HST.out).still ⟨q, rfl⟩
          have hrd : ∀ q, RTab (wr.drewN q) w2.heap.size g2 m2 l := fun q => (HR.out.below (HST.out.lower _) (Nat.le_refl _)).below (below_drewN' (Below.refl _ _) q) (Nat.le_refl _)
          have HG0 : Hid (∀ q, Calls Try.prog 9 #[.pointer (some ⟨g, 0, none⟩), .int .i32 c] (wr.drewN q) fun e w'' => e = .returned (.int .i64 (tab l c)) ∧ ∃ m, w'' = wr.drewN m) := Lib.hid fun q => quiet_still (get_any c (tab l) g _ _ _ (tab_no l) (htd q))
          have HR0 : Hid (∀ q, Calls Try.prog 10 #[.pointer (some ⟨g2, 0, none⟩), .int .i32 c] (wr.drewN q) fun e w'' => e = .returned (.int .i64 (tab l c)) ∧ ∃ m, w'' = wr.drewN m) := Lib.hid fun q => quiet_left' (r_get_any c _ _ g2 m2 l HWC.out (hrd q))
          have hx0 : (tab l c != tab l c) = false := by simp
          by_cases hcl : c < 1114111
          · have hcl' : decide (c < 1114111) = true := by simpa using hcl
            have hwb : -2147483648 ≤ c := (i32_bd HWC.out).1
            have HG1 : Hid (∀ q, Calls Try.prog 9 #[.pointer (some ⟨g, 0, none⟩), .int .i32 (c + 1)] (wr.drewN q) fun e w'' => e = .returned (.int .i64 (tab l (c + 1))) ∧ ∃ m, w'' = wr.drewN m) := Lib.hid fun q => quiet_still (get_any (c + 1) (tab l) g _ _ _ (tab_no l) (htd q))
            have HR1 : Hid (∀ q, Calls Try.prog 10 #[.pointer (some ⟨g2, 0, none⟩), .int .i32 (c + 1)] (wr.drewN q) fun e w'' => e = .returned (.int .i64 (tab l (c + 1))) ∧ ∃ m, w'' = wr.drewN m) := Lib.hid fun q => quiet_left' (r_get_any (c + 1) _ _ g2 m2 l (WalkArith.wf_i32 (by omega)) (hrd q))
            have hx1 : (tab l (c + 1) != tab l (c + 1)) = false := by simp
            have hwr : IntKind.i32.wrap (c + 1) = c + 1 := IntWalk.i32_in _ (by omega)
            generalize tab l (c + 1) = y at HG1 HR1 hx1
            generalize tab l c = x at HG0 HR0 hx0
            clear htd hrd
            go_wp2_with fail
            go_quiet ((first | (go_at_call 9; first | with_reducible exact HG0.out _ | with_reducible exact HG1.out _) | (go_at_call 10; first | with_reducible exact HR0.out _ | with_reducible exact HR1.out _)))
            go_wp2
            go_roundw
            case rel => exact ⟨k + 1, by omega, by go_num, HST.out.drewN _⟩
            case measure => simp [intOf]; omega
          · have hcl' : decide (c < 1114111) = false := by simpa using hcl
            generalize tab l c = x at HG0 HR0 hx0
            clear htd hrd hcl
            go_wp2_with fail
            go_quiet ((first | (go_at_call 9; with_reducible exact HG0.out _) | (go_at_call 10; with_reducible exact HR0.out _)))
            go_wp2
            go_roundw
            case rel => exact ⟨k + 1, by omega, by go_num, HST.out.drewN _⟩
            case measure => simp [intOf]; omega
        · have hkk : k = n := by omega
          subst hkk
          have hlt' : ¬ (k : Int) < k := by omega
          generalize hwo : wr = wo at *
          clear hwo
          go_wp2_with fail
          go_loopw [8] (fun i wr => ∃ j : Nat, j ≤ m ∧ i = .int .i64 j ∧ Still w2 wr) (fun i _ => m - (intOf i).toNat)
          case atStart => exact ⟨0, by omega, rfl, HST.out⟩
          case round =>
            obtain ⟨j, hj, rfl, hst⟩ := hrel
            clear HST
            have HST := Lib.hid hst
            clear hst
            by_cases hlj : j < m
            · obtain ⟨b, o, rfl, hbl, hc⟩ := HI2.out.at (by rw [HM.out]; omega)
              have c0 := hc j (by rw [HM.out]; omega)
              clear hc
              have c0 : wr.cell? ⟨b, o + j, none⟩ = _ := (HST.out.cell _).trans c0
              have HWC : Hid (D32 (cs.getD j 0)) := Lib.hid (HW.out _ (by rw [List.getD_eq_getElem?_getD, List.getElem?_eq_getElem (by rw [HM.out]; omega)]; exact List.getElem_mem _))
              generalize cs.getD j 0 = c at c0 HWC
              have htd : ∀ q, TabAt (wr.drewN q) w2.heap.size g (tab l) U.length := fun q => (HT2.out.still HST.out).still ⟨q, rfl⟩
              have hrd : ∀ q, RTab (wr.drewN q) w2.heap.size g2 m2 l := fun q => (HR.out.below (HST.out.lower _) (Nat.le_refl _)).below (below_drewN' (Below.refl _ _) q) (Nat.le_refl _)
              have HG0 : Hid (∀ q, Calls Try.prog 9 #[.pointer (some ⟨g, 0, none⟩), .int .i32 c] (wr.drewN q) fun e w'' => e = .returned (.int .i64 (tab l c)) ∧ ∃ m, w'' = wr.drewN m) := Lib.hid fun q => quiet_still (get_any c (tab l) g _ _ _ (tab_no l) (htd q))
              have HR0 : Hid (∀ q, Calls Try.prog 10 #[.pointer (some ⟨g2, 0, none⟩), .int .i32 c] (wr.drewN q) fun e w'' => e = .returned (.int .i64 (tab l c)) ∧ ∃ m, w'' = wr.drewN m) := Lib.hid fun q => quiet_left' (r_get_any c _ _ g2 m2 l HWC.out (hrd q))
              have hx0 : (tab l c != tab l c) = false := by simp
              generalize tab l c = x at HG0 HR0 hx0
              clear htd hrd
              go_wp2_with fail
              go_quiet ((first | (go_at_call 9; with_reducible exact HG0.out _) | (go_at_call 10; with_reducible exact HR0.out _)))
              go_wp2
              go_roundw
              case rel => exact ⟨j + 1, by omega, by go_num, HST.out.drewN _⟩
              case measure => simp [intOf]; omega
            · have hjj : j = m := by omega
              subst hjj
              have hlj' : ¬ (j : Int) < j := by omega
              have hsz : wr.heap.size = w2.heap.size := by obtain ⟨q, hq⟩ := HST.out; rw [hq]; rfl
              have HE3 : Hid (Ents wr wr.heap.size A l) := Lib.hid (by rw [hsz]; exact HE2.out.below (HST.out.lower _) (Nat.le_refl _))
              have HT3 := Lib.hid (HT2.out.still HST.out)
              have HRB := Lib.hid (r_blocks_any wr A k cap l HN.out (by omega) HE3.out HF.out)
              have HL : Hid (U.length = (kinds (tab l) 4352).length) := Lib.hid (HD.out.len (kinds_dist (tab l)))
              have HBW : Hid (Below w.heap.size w wr) := Lib.hid (HBL2.out.trans (HST.out.lower _))
              go_wp2_with fail
              with_reducible refine (blocks_any (tab l) g _ _ _ HT3.out).mono ?_
              rintro e w' ⟨rfl, rfl⟩
              go_wp2_with fail
              with_reducible refine HRB.out.mono ?_
              rintro e w4 ⟨rfl, hb4⟩
              have HB4 := Lib.hid hb4
              have hs4 := hb4.size
              clear hb4
              rw [HL.out]
              generalize (kinds (tab l) 4352).length = q
              have hq : ((q : Int) == (q : Int)) = true := by simp
              go_wp2_with fail
              with_reducible refine (HAW.out _).mono ?_
              rintro e w5 ⟨rfl, hb5⟩
              have HB5 := Lib.hid hb5
              clear hb5
              go_wp2
              go_ret
              exact ⟨rfl, (HBW.out.trans (HB4.out.mono (by omega))).trans (HB5.out.mono (by omega))⟩
theorem law_out {P : Program} {f : FuncId} {args : Array Value} {w : World} (h : Calls P f args w (LawPost w)) : Calls P f args w fun e w' => e = .returned (.bool true) ∧ Below w.heap.size w w' := h
end Go.Proofs.Ytkkopgkeooaofaa
