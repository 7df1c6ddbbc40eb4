/- NumberHopeless: where a byte is not OK no number goes on so. -/
import Derived.Test.YtlnnaagdncpahaaDoorN11Rd
import Derived.Test.YtlnnaagdncpahaaDoorReg
namespace Go.Proofs.YtlnnaagdncpahaaDoor
set_option maxRecDepth 100000
open Go.ChangeShapes Go.WideShapes Go.ChangeAt Go.RowKit
set_option linter.unusedVariables false
set_option linter.unusedSimpArgs false

/-- an && of two, the second asked only behind a first that is true -/
theorem pre_of {s2 l : List UInt8} {a : List UInt8} {c : UInt8} {b : List UInt8} (h : l = a ++ c :: b) (h2 : s2 = a) : l.take s2.length = s2 ∧ l.take (s2.length + 1) = s2 ++ [c] ∧ s2.length < l.length := by
  subst h2
  subst h
  refine ⟨List.take_left, ?_, by simp⟩
  have e : s2 ++ c :: b = (s2 ++ [c]) ++ b := by simp
  rw [e]
  have : (s2 ++ [c]).length = s2.length + 1 := by simp
  rw [← this]
  exact List.take_left
set_option maxHeartbeats 8000000 in
theorem hopeless_walk (s m : ByteArray) (w : World) (hsz : s.size ≤ maxLen) (hmz : m.size ≤ maxLen) :
    Calls Tryd.prog 6 #[.string s, .string m] w fun e w' => e = .returned (.bool true) ∧ Below w.heap.size w w' := by
  have HAW := Lib.hid (fun W => awake_any W)
  unfold maxLen at hsz hmz
  go_enter Tryd.func6, Tryd.ntmps6
  go_wp2_with fail
  with_reducible refine (new_spec w.heap.size w).mono ?_
  rintro e1 w1 ⟨rfl, hn1, hb1⟩
  have HN1 := Lib.hid hn1
  have HB1 := Lib.hid hb1
  clear hn1 hb1
  by_cases hbig : 60 < s.size
  · have q0 : (60 : Int) < s.size := by omega
    go_wp2_with fail
    with_reducible refine (HAW.out _).mono ?_
    rintro e1 w2 ⟨rfl, hb2⟩
    have HB2 := Lib.hid (HB1.out.trans (hb2.mono (by have := HB1.out.size; omega)))
    clear hb2
    go_wp2
    go_ret
    exact ⟨rfl, HB2.out⟩
  have q0 : ¬ (60 : Int) < s.size := by omega
  by_cases hbig2 : 20 < m.size
  · have q1 : (20 : Int) < m.size := by omega
    go_wp2_with fail
    with_reducible refine (HAW.out _).mono ?_
    rintro e1 w2 ⟨rfl, hb2⟩
    have HB2 := Lib.hid (HB1.out.trans (hb2.mono (by have := HB1.out.size; omega)))
    clear hb2
    go_wp2
    go_ret
    exact ⟨rfl, HB2.out⟩
  have q1 : ¬ (20 : Int) < m.size := by omega
  obtain ⟨gN, hgN⟩ : ∃ gN, w.heap.size = gN := ⟨_, rfl⟩
  rw [hgN] at HN1 HB1 ⊢
  have hL : (L8 s).length = s.size := L8_len s
  have HST := Lib.hid (feed_stop (s := []) (l := L8 s))
  go_wp2_with fail
  refine Calls.mono (push_law gN gN (.slice none 0 0) [] s w1 HN1.out (by have := HB1.out.size; omega) (by simp; omega)) ?_
  rintro e1 w2 ⟨rfl, v2, hn, hf, hra⟩
  rw [new_len]
  have HB2 := Lib.hid (HB1.out.trans (hf.below (by have := HB1.out.size; omega) (Nat.le_refl _) HN1.out.low))
  have HN2 := Lib.hid hn
  clear hn hf hra HN1 HB1
  obtain ⟨s2, hs2⟩ : ∃ s2, (feedF [] (L8 s)).1 = s2 := ⟨_, rfl⟩
  obtain ⟨er, her⟩ : ∃ er, (feedF [] (L8 s)).2 = er := ⟨_, rfl⟩
  rw [hs2] at HN2
  rw [hs2, her] at HST
  rw [hs2, her]
  clear hs2 her
  by_cases h0 : er = 0
  · subst h0
    clear HST
    go_wp2_with fail
    with_reducible refine (HAW.out _).mono ?_
    rintro e1 w3 ⟨rfl, hb3⟩
    have HB3 := Lib.hid (HB2.out.trans (hb3.mono (by have := HB2.out.size; omega)))
    clear hb3
    go_wp2
    go_ret
    exact ⟨rfl, by rw [hgN]; exact HB3.out⟩
  have h0b : (er == 0) = false := by simpa using h0
  obtain ⟨a, c, b, hl1, hl2, hl3⟩ := HST.out h0
  rw [List.nil_append] at hl2 hl3
  obtain ⟨p1, p2, p3⟩ := pre_of hl1 hl2
  have hk : s2.length < s.size := by rw [← hL]; exact p3
  obtain ⟨k, hkk⟩ : ∃ k, s2.length = k := ⟨_, rfl⟩
  rw [hkk] at p1 p2 hk ⊢
  obtain ⟨X, hX⟩ : ∃ X, s.extract 0 (k + 1) = X := ⟨_, rfl⟩
  have hXL : L8 X = s2 ++ [c] := by rw [← hX, L8_cut, List.drop_zero]; exact p2
  have hXs : X.size = k + 1 := by rw [← L8_len, hXL, List.length_append, hkk]; rfl
  obtain ⟨Y, hY⟩ : ∃ Y, X ++ m = Y := ⟨_, rfl⟩
  have hYL : L8 Y = s2 ++ c :: L8 m := by rw [← hY, L8_app, hXL]; simp
  have hYs : Y.size = X.size + m.size := by rw [← hY, ByteArray.size_append]
  have hT : s.extract 0 k = bs s2 := L8_inj (by rw [L8_cut, List.drop_zero, L8_bs]; exact p1)
  have HRD := Lib.hid (fun W => rread_any Y W (by omega))
  have HRI := Lib.hid (fun x h => read_in (s := L8 Y) (x := x) (by rw [L8_len]; omega) h)
  have hno : ∀ x, readF (L8 Y) = some x → (intF x).2 ≠ 0 := fun x hr hi => by
    rw [hYL] at hr
    exact hl3 (by rw [← hl2]; exact push_of (by omega) hr hi)
  have hdoc : ∃ (x : Dc) (ok : Bool), readV (readF (L8 Y)) = .tuple #[dcV x, .bool ok] ∧ allD x.d ∧ x.d.length ≤ 1000000 ∧ -4000000000 ≤ x.e ∧ x.e ≤ 4000000000 ∧ (ok = false ∨ (ok = true ∧ (intF x).2 ≠ 0)) := by
    cases hrd : readF (L8 Y) with
    | none => exact ⟨zeroD, false, rfl, (fun c hc => by cases hc), by decide, by decide, by decide, .inl rfl⟩
    | some x =>
      obtain ⟨r1, r2, r3, r4⟩ := HRI.out x hrd
      exact ⟨x, true, rfl, r1, r2, r3, r4, .inr ⟨rfl, hno x hrd⟩⟩
  obtain ⟨x, ok, hrv, r1, r2, r3, r4, hcs⟩ := hdoc
  rw [hrv] at HRD
  have HI := Lib.hid (fun W => rint_any x W r1 r2 r3 r4)
  obtain ⟨y1, hy1⟩ : ∃ y1, (intF x).1 = y1 := ⟨_, rfl⟩
  obtain ⟨y2, hy2⟩ : ∃ y2, (intF x).2 = y2 := ⟨_, rfl⟩
  rw [hy1, hy2] at HI
  rw [hy2] at hcs
  clear hrv r1 r2 r3 r4 HRI HST hy1 hy2 hno hl1 hl2 hl3 p1 p2 p3 hXL hYL h0
  obtain ⟨xn, xd, xe⟩ := x
  unfold dcV at HRD HI
  dsimp only at HRD HI
  generalize bs xd = xs at *
  have hw1 : IntKind.i64.wrap ((k : Int) + 1) = (k : Int) + 1 := IntWalk.i64_in _ (by omega)
  have u0 : (0 : Int) ≤ (k : Int) := by omega
  have u1 : (k : Int) ≤ (s.size : Int) := by omega
  have u2 : (k : Int) + 1 ≤ (s.size : Int) := by omega
  have u3 : ((k : Int) + 1).toNat = k + 1 := by omega
  have u4 : ¬ (k : Int) < 0 := by omega
  have u5 : ¬ (s.size : Int) ≤ (k : Int) := by omega
  have u6 : (0 : Int) ≤ (k : Int) + 1 := by omega
  have hsum : ¬ X.size + m.size > 9223372036854775807 := by omega
  have HSZ := Lib.hid hXs
  clear hXs hYs
  go_wp2_with fail
  refine Calls.mono (HRD.out _) ?_
  rintro e1 w4 ⟨rfl, hb4⟩
  have HB4 := Lib.hid (HB2.out.trans (hb4.mono (by have := HB2.out.size; omega)))
  have HN4 := Lib.hid (HN2.out.go hb4 (Nat.le_refl _))
  clear hb4 HB2 HN2
  go_wp2_with fail
  refine Calls.mono (HI.out _) ?_
  rintro e1 w5 ⟨rfl, hb5⟩
  have HB5 : Hid (Below gN w w5) := Lib.hid ((HB4.out.alloc (by have := HB4.out.size; omega) _).trans (hb5.mono (by rw [World.size_alloc]; have := HB4.out.size; omega)))
  have HN5 : Hid (NumIs w5 gN gN v2 s2) := Lib.hid ((HN4.out.go ((Below.refl w4.heap.size w4).alloc (Nat.le_refl _) _) (Nat.le_refl _)).go hb5 (Nat.le_refl _))
  clear hb5 HB4 HI HRD HN4
  have HTX := Lib.hid (fun W h => text_spec gN gN v2 s2 W h)
  have hst : ((bs s2).toList == (bs s2).toList) = true := by simp
  rcases hcs with rfl | ⟨rfl, hy⟩
  · go_wp2_with fail
    refine wp_region_G (by kernel_rfl) ?_
    have HB6 : Hid (Below gN w w5.drew) := Lib.hid HB5.out.drew
    have HN6 : Hid (NumIs w5.drew gN gN v2 s2) := Lib.hid (HN5.out.go ((Below.refl w5.heap.size w5).drew) (Nat.le_refl _))
    clear HB5 HN5
    generalize w5.drew = w6 at *
    refine wpG_take 0 62 (v := ?v0a) rfl rfl (by kernel_rfl) (by kernel_rfl) (by kernel_rfl) (fun _ _ _ h => h) (Or.inl ⟨by rfl, ?y0a⟩) ?r0a
    case y0a => (intro W hW; (go_simp; try with_reducible rfl))
    simp only [Act.put, List.setIfInBounds_toArray, List.set_cons_zero, List.set_cons_succ]
    refine wpG_take 1 63 (v := ?v1a) rfl rfl (by kernel_rfl) (by kernel_rfl) (by kernel_rfl) (fun _ _ _ h => h) (Or.inl ⟨by rfl, ?y1a⟩) ?r1a
    case y1a => (intro W hW; (go_simp; try with_reducible rfl))
    simp only [Act.put, List.setIfInBounds_toArray, List.set_cons_zero, List.set_cons_succ]
    refine wpG_take 2 64 rfl rfl (by kernel_rfl) (by kernel_rfl) (by kernel_rfl) (fun _ _ _ h => h) (Or.inr ⟨by rfl, rfl⟩) ?_
    simp only [Act.put, List.setIfInBounds_toArray, List.set_cons_zero, List.set_cons_succ]
    refine wpG_take 3 65 rfl rfl (by kernel_rfl) (by kernel_rfl) (by kernel_rfl) (fun _ _ _ h => h) (Or.inr ⟨by rfl, rfl⟩) ?_
    simp only [Act.put, List.setIfInBounds_toArray, List.set_cons_zero, List.set_cons_succ]
    refine wpG_take 4 66 (v := ?v4a) rfl rfl (by kernel_rfl) (by kernel_rfl) (by kernel_rfl) (fun _ _ _ h => h) (Or.inl ⟨by rfl, ?y4a⟩) ?r4a
    case y4a => (intro W hW; (go_simp; try with_reducible rfl))
    simp only [Act.put, List.setIfInBounds_toArray, List.set_cons_zero, List.set_cons_succ]
    refine wpG_take 5 67 (v := ?v5a) rfl rfl (by kernel_rfl) (by kernel_rfl) (by kernel_rfl) (fun _ _ _ h => h) (Or.inl ⟨by rfl, ?y5a⟩) ?r5a
    case y5a => (intro W hW; (go_simp; try with_reducible rfl))
    simp only [Act.put, List.setIfInBounds_toArray, List.set_cons_zero, List.set_cons_succ]
    refine wpG_take 6 68 (v := ?v6a) rfl rfl (by kernel_rfl) (by kernel_rfl) (by kernel_rfl) (fun _ _ _ h => h) (Or.inl ⟨by rfl, ?y6a⟩) ?r6a
    case y6a => (intro W hW; (go_simp; try with_reducible rfl))
    simp only [Act.put, List.setIfInBounds_toArray, List.set_cons_zero, List.set_cons_succ]
    refine wpG_take 7 69 (v := ?v7a) rfl rfl (by kernel_rfl) (by kernel_rfl) (by kernel_rfl) (fun _ _ _ h => h) (Or.inl ⟨by rfl, ?y7a⟩) ?r7a
    case y7a => (intro W hW; (go_simp; try with_reducible rfl))
    simp only [Act.put, List.setIfInBounds_toArray, List.set_cons_zero, List.set_cons_succ]
    refine wpG_take 9 71 (v := ?v9a) rfl rfl (by kernel_rfl) (by kernel_rfl) (by kernel_rfl) (fun _ _ _ h => h) (Or.inl ⟨by rfl, ?y9a⟩) ?r9a
    case y9a => (intro W hW; (go_simp; try with_reducible rfl))
    simp only [Act.put, List.setIfInBounds_toArray, List.set_cons_zero, List.set_cons_succ]
    refine wpG_take 10 72 (v := ?v10a) rfl rfl (by kernel_rfl) (by kernel_rfl) (by kernel_rfl) (fun _ _ _ h => h) (Or.inl ⟨by rfl, ?y10a⟩) ?r10a
    case y10a => (intro W hW; (go_simp; try with_reducible rfl))
    simp only [Act.put, List.setIfInBounds_toArray, List.set_cons_zero, List.set_cons_succ]
    refine wpG_take 11 73 (v := ?v11a) rfl rfl (by kernel_rfl) (by kernel_rfl) (by kernel_rfl) (fun _ _ _ h => h) (Or.inl ⟨by rfl, ?y11a⟩) ?r11a
    case y11a => (intro W hW; (go_simp; try with_reducible rfl))
    simp only [Act.put, List.setIfInBounds_toArray, List.set_cons_zero, List.set_cons_succ]
    refine wpG_call 8 (by kernel_rfl) rfl (fun K hK => ?_)
    go_simp
    refine Calls.mono (HTX.out _ HN6.out) ?_
    rintro e1 w6' ⟨rfl, rfl⟩
    refine hK.out _ _ ?_ ?_
    · exact Grow.refl _
    clear hK K
    refine wpG_take 12 74 (v := ?v12a) rfl rfl (by kernel_rfl) (by kernel_rfl) (by kernel_rfl) (fun _ _ _ h => h) (Or.inl ⟨by rfl, ?y12a⟩) ?r12a
    case y12a => (intro W hW; (go_simp; try with_reducible rfl))
    simp only [Act.put, List.setIfInBounds_toArray, List.set_cons_zero, List.set_cons_succ]
    refine wpG_take 13 75 (v := ?v13a) rfl rfl (by kernel_rfl) (by kernel_rfl) (by kernel_rfl) (fun _ _ _ h => h) (Or.inl ⟨by rfl, ?y13a⟩) ?r13a
    case y13a => (intro W hW; (go_simp; try with_reducible rfl))
    simp only [Act.put, List.setIfInBounds_toArray, List.set_cons_zero, List.set_cons_succ]
    refine wpG_take 14 76 (v := ?v14a) rfl rfl (by kernel_rfl) (by kernel_rfl) (by kernel_rfl) (fun _ _ _ h => h) (Or.inl ⟨by rfl, ?y14a⟩) ?r14a
    case y14a => (intro W hW; (go_simp; try with_reducible rfl))
    simp only [Act.put, List.setIfInBounds_toArray, List.set_cons_zero, List.set_cons_succ]
    refine wpG_call 15 (by kernel_rfl) rfl (fun K hK => ?_)
    go_simp
    with_reducible refine (HAW.out _).mono ?_
    rintro e1 w7 ⟨rfl, hb7⟩
    have HB7 := Lib.hid (HB6.out.trans (hb7.mono (by have := HB6.out.size; omega)))
    refine hK.out _ _ ?_ ?_
    · exact hb7
    clear hK K
    refine wpG_take 16 78 (v := ?v16a) rfl rfl (by kernel_rfl) (by kernel_rfl) (by kernel_rfl) (fun _ _ _ h => h) (Or.inl ⟨by rfl, ?y16a⟩) ?r16a
    case y16a => (intro W hW; (go_simp; try with_reducible rfl))
    simp only [Act.put, List.setIfInBounds_toArray, List.set_cons_zero, List.set_cons_succ]
    refine wpG_take 17 4 (v := ?v17a) rfl rfl (by kernel_rfl) (by kernel_rfl) (by kernel_rfl) (fun _ _ _ h => h) (Or.inl ⟨by rfl, ?y17a⟩) ?r17a
    case y17a => (intro W hW; (go_simp; try with_reducible rfl))
    simp only [Act.put, List.setIfInBounds_toArray, List.set_cons_zero, List.set_cons_succ]
    refine wpG_done (by kernel_rfl) ?_ _
    go_wp2
    go_ret
    exact ⟨rfl, by rw [hgN]; exact HB7.out⟩
  · have hyb : (y2 == 0) = false := by simpa using hy
    clear hy
    go_wp2_with fail
    refine wp_region_G (by kernel_rfl) ?_
    have HB6 : Hid (Below gN w w5.drew) := Lib.hid HB5.out.drew
    have HN6 : Hid (NumIs w5.drew gN gN v2 s2) := Lib.hid (HN5.out.go ((Below.refl w5.heap.size w5).drew) (Nat.le_refl _))
    clear HB5 HN5
    generalize w5.drew = w6 at *
    refine wpG_take 0 62 (v := ?v0b) rfl rfl (by kernel_rfl) (by kernel_rfl) (by kernel_rfl) (fun _ _ _ h => h) (Or.inl ⟨by rfl, ?y0b⟩) ?r0b
    case y0b => (intro W hW; (go_simp; try with_reducible rfl))
    simp only [Act.put, List.setIfInBounds_toArray, List.set_cons_zero, List.set_cons_succ]
    refine wpG_take 1 63 (v := ?v1b) rfl rfl (by kernel_rfl) (by kernel_rfl) (by kernel_rfl) (fun _ _ _ h => h) (Or.inl ⟨by rfl, ?y1b⟩) ?r1b
    case y1b => (intro W hW; (go_simp; try with_reducible rfl))
    simp only [Act.put, List.setIfInBounds_toArray, List.set_cons_zero, List.set_cons_succ]
    refine wpG_take 2 64 (v := ?v2b) rfl rfl (by kernel_rfl) (by kernel_rfl) (by kernel_rfl) (fun _ _ _ h => h) (Or.inl ⟨by rfl, ?y2b⟩) ?r2b
    case y2b => (intro W hW; (go_simp; try with_reducible rfl))
    simp only [Act.put, List.setIfInBounds_toArray, List.set_cons_zero, List.set_cons_succ]
    refine wpG_take 3 65 (v := ?v3b) rfl rfl (by kernel_rfl) (by kernel_rfl) (by kernel_rfl) (fun _ _ _ h => h) (Or.inl ⟨by rfl, ?y3b⟩) ?r3b
    case y3b => (intro W hW; (go_simp; try with_reducible rfl))
    simp only [Act.put, List.setIfInBounds_toArray, List.set_cons_zero, List.set_cons_succ]
    refine wpG_take 4 66 (v := ?v4b) rfl rfl (by kernel_rfl) (by kernel_rfl) (by kernel_rfl) (fun _ _ _ h => h) (Or.inl ⟨by rfl, ?y4b⟩) ?r4b
    case y4b => (intro W hW; (go_simp; try with_reducible rfl))
    simp only [Act.put, List.setIfInBounds_toArray, List.set_cons_zero, List.set_cons_succ]
    refine wpG_take 5 67 (v := ?v5b) rfl rfl (by kernel_rfl) (by kernel_rfl) (by kernel_rfl) (fun _ _ _ h => h) (Or.inl ⟨by rfl, ?y5b⟩) ?r5b
    case y5b => (intro W hW; (go_simp; try with_reducible rfl))
    simp only [Act.put, List.setIfInBounds_toArray, List.set_cons_zero, List.set_cons_succ]
    refine wpG_take 6 68 (v := ?v6b) rfl rfl (by kernel_rfl) (by kernel_rfl) (by kernel_rfl) (fun _ _ _ h => h) (Or.inl ⟨by rfl, ?y6b⟩) ?r6b
    case y6b => (intro W hW; (go_simp; try with_reducible rfl))
    simp only [Act.put, List.setIfInBounds_toArray, List.set_cons_zero, List.set_cons_succ]
    refine wpG_take 7 69 (v := ?v7b) rfl rfl (by kernel_rfl) (by kernel_rfl) (by kernel_rfl) (fun _ _ _ h => h) (Or.inl ⟨by rfl, ?y7b⟩) ?r7b
    case y7b => (intro W hW; (go_simp; try with_reducible rfl))
    simp only [Act.put, List.setIfInBounds_toArray, List.set_cons_zero, List.set_cons_succ]
    refine wpG_take 9 71 (v := ?v9b) rfl rfl (by kernel_rfl) (by kernel_rfl) (by kernel_rfl) (fun _ _ _ h => h) (Or.inl ⟨by rfl, ?y9b⟩) ?r9b
    case y9b => (intro W hW; (go_simp; try with_reducible rfl))
    simp only [Act.put, List.setIfInBounds_toArray, List.set_cons_zero, List.set_cons_succ]
    refine wpG_take 10 72 (v := ?v10b) rfl rfl (by kernel_rfl) (by kernel_rfl) (by kernel_rfl) (fun _ _ _ h => h) (Or.inl ⟨by rfl, ?y10b⟩) ?r10b
    case y10b => (intro W hW; (go_simp; try with_reducible rfl))
    simp only [Act.put, List.setIfInBounds_toArray, List.set_cons_zero, List.set_cons_succ]
    refine wpG_take 11 73 (v := ?v11b) rfl rfl (by kernel_rfl) (by kernel_rfl) (by kernel_rfl) (fun _ _ _ h => h) (Or.inl ⟨by rfl, ?y11b⟩) ?r11b
    case y11b => (intro W hW; (go_simp; try with_reducible rfl))
    simp only [Act.put, List.setIfInBounds_toArray, List.set_cons_zero, List.set_cons_succ]
    refine wpG_call 8 (by kernel_rfl) rfl (fun K hK => ?_)
    go_simp
    refine Calls.mono (HTX.out _ HN6.out) ?_
    rintro e1 w6' ⟨rfl, rfl⟩
    refine hK.out _ _ ?_ ?_
    · exact Grow.refl _
    clear hK K
    refine wpG_take 12 74 (v := ?v12b) rfl rfl (by kernel_rfl) (by kernel_rfl) (by kernel_rfl) (fun _ _ _ h => h) (Or.inl ⟨by rfl, ?y12b⟩) ?r12b
    case y12b => (intro W hW; (go_simp; try with_reducible rfl))
    simp only [Act.put, List.setIfInBounds_toArray, List.set_cons_zero, List.set_cons_succ]
    refine wpG_take 13 75 (v := ?v13b) rfl rfl (by kernel_rfl) (by kernel_rfl) (by kernel_rfl) (fun _ _ _ h => h) (Or.inl ⟨by rfl, ?y13b⟩) ?r13b
    case y13b => (intro W hW; (go_simp; try with_reducible rfl))
    simp only [Act.put, List.setIfInBounds_toArray, List.set_cons_zero, List.set_cons_succ]
    refine wpG_take 14 76 (v := ?v14b) rfl rfl (by kernel_rfl) (by kernel_rfl) (by kernel_rfl) (fun _ _ _ h => h) (Or.inl ⟨by rfl, ?y14b⟩) ?r14b
    case y14b => (intro W hW; (go_simp; try with_reducible rfl))
    simp only [Act.put, List.setIfInBounds_toArray, List.set_cons_zero, List.set_cons_succ]
    refine wpG_call 15 (by kernel_rfl) rfl (fun K hK => ?_)
    go_simp
    with_reducible refine (HAW.out _).mono ?_
    rintro e1 w7 ⟨rfl, hb7⟩
    have HB7 := Lib.hid (HB6.out.trans (hb7.mono (by have := HB6.out.size; omega)))
    refine hK.out _ _ ?_ ?_
    · exact hb7
    clear hK K
    refine wpG_take 16 78 (v := ?v16b) rfl rfl (by kernel_rfl) (by kernel_rfl) (by kernel_rfl) (fun _ _ _ h => h) (Or.inl ⟨by rfl, ?y16b⟩) ?r16b
    case y16b => (intro W hW; (go_simp; try with_reducible rfl))
    simp only [Act.put, List.setIfInBounds_toArray, List.set_cons_zero, List.set_cons_succ]
    refine wpG_take 17 4 (v := ?v17b) rfl rfl (by kernel_rfl) (by kernel_rfl) (by kernel_rfl) (fun _ _ _ h => h) (Or.inl ⟨by rfl, ?y17b⟩) ?r17b
    case y17b => (intro W hW; (go_simp; try with_reducible rfl))
    simp only [Act.put, List.setIfInBounds_toArray, List.set_cons_zero, List.set_cons_succ]
    refine wpG_done (by kernel_rfl) ?_ _
    go_wp2
    go_ret
    exact ⟨rfl, by rw [hgN]; exact HB7.out⟩
end Go.Proofs.YtlnnaagdncpahaaDoor
