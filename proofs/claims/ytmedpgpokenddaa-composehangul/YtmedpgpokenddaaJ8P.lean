/- Joined of: C8HanM, C8HanWalk. -/
import Derived.Test.YtmedpgpokenddaaJ8O
import Derived.BigQuiet
import Derived.Deep.QuietTactic
/- Layer 8: rows of parts of syllables, as mathematics. -/
namespace Go.Proofs.Ytmedpgpokenddaa
set_option linter.unusedVariables false

theorem kJy : (P5.all fun p => Nat.blt p.y 4352 || Nat.blt 4607 p.y) = true := by kernel_rfl
attribute [local irreducible] P5 S5 C5 cl5 two5
/-- first, second and third parts; syllables -/
def Jm (x : Int) : Prop := 4352 ≤ x ∧ x ≤ 4607 ∧ kind6 x ≤ 3
def Sy (x : Int) : Prop := 44032 ≤ x ∧ x ≤ 55203
theorem two_sy {a b d : Int} (hb : Jm b) (h : two5 a b = some d) : Sy d := by
  rcases two5_cases h with h | h | ⟨p, hp, _, _, h2, _⟩
  · exact (join_syl (.inl h)).1
  · exact (join_syl (.inr h)).1
  · have := List.all_eq_true.1 kJy p hp
    simp [Nat.blt_eq] at this
    have := hb.1
    have := hb.2.1
    omega
theorem han_in {σ : CSt} {c : Int} (h : ∀ x ∈ crow σ, Jm x ∨ Sy x) (hc : Jm c) : ∀ x ∈ crow (cstep cl5 two5 σ c), Jm x ∨ Sy x := by
  obtain ⟨pre, o⟩ := σ
  have hap : ∀ l : List Int, (∀ x ∈ l, Jm x ∨ Sy x) → ∀ x ∈ l ++ [c], Jm x ∨ Sy x := fun l hl x hx => by
    rcases List.mem_append.1 hx with hx | hx
    · exact hl x hx
    · simp at hx; rw [hx]; exact .inl hc
  cases o with
  | none => rw [cstep_none]; exact hap pre h
  | some q =>
    obtain ⟨s, bs⟩ := q
    by_cases hput : two5 s c = none ∨ barred cl5 bs c = true
    · rw [cstep_put hput, crow_put]; exact hap _ h
    · have hbar : barred cl5 bs c = false := by
        cases hh : barred cl5 bs c with
        | false => rfl
        | true => exact absurd (.inr hh) hput
      cases hh : two5 s c with
      | none => exact absurd (.inl hh) hput
      | some d =>
        rw [cstep_two hh hbar]
        intro x hx
        simp only [crow, List.mem_append, List.mem_cons] at hx
        rcases hx with hx | rfl | hx
        · exact h x (by simp [crow, hx])
        · exact .inr (two_sy hc hh)
        · exact h x (by simp [crow, hx])
theorem han_comp {l : List Int} (h : ∀ x ∈ l, Jm x) : ∀ x ∈ comp cl5 two5 l, Jm x ∨ Sy x := by
  unfold comp
  revert h
  refine row_snoc (p := fun l => (∀ x ∈ l, Jm x) → ∀ x ∈ crow (cst cl5 two5 l), Jm x ∨ Sy x) (fun _ x hx => by cases hx) (fun l c ih h => ?_) l
  rw [cst_snoc]
  exact han_in (ih fun x hx => h x (by simp [hx])) (h c (by simp))
theorem jm_zero {x : Int} (h : Jm x) : cl5 x = 0 := cl_jamo h.1 h.2.1
theorem js_zero {x : Int} (h : Jm x ∨ Sy x) : cl5 x = 0 := by
  rcases h with h | h
  · exact jm_zero h
  · exact cl_syl h.1 h.2
theorem jm_plain {x : Int} (h : Jm x) : Plain T5 x := jamo_plain h.1 h.2.1
theorem js_full {x : Int} (h : Jm x ∨ Sy x) : (3 < kind6 x → fullF T5 x = split6 x) ∧ (¬ 3 < kind6 x → fullF T5 x = [x]) := by
  refine ⟨fun hk => full_sy (T := T5) (split6_some hk), fun hk => ?_⟩
  rcases h with h | h
  · exact full_no (jm_plain h)
  · exfalso
    by_cases h28 : (x - 44032) % 28 = 0
    · rw [kind6_at4 h.1 h.2 h28] at hk; omega
    · rw [kind6_at5 h.1 h.2 h28] at hk; omega
/-- what stands side by side can't be joined -/
theorem han_join {l : List Int} (h : ∀ x ∈ l, Jm x) {i : Nat} (hi : i + 1 < (comp cl5 two5 l).length) : joinOk ((comp cl5 two5 l).getD i 0) ((comp cl5 two5 l).getD (i + 1) 0) = false := by
  have hcn := (comp_zero cmp5 (fun x hx => jm_zero (h x hx)) (fun x hx => jm_plain (h x hx))).2
  have hz := han_comp h
  generalize comp cl5 two5 l = K at *
  have e : K = K.take i ++ K.getD i 0 :: ([] ++ K.getD (i + 1) 0 :: K.drop (i + 2)) := by
    have h1 : K.drop i = K.getD i 0 :: K.drop (i + 1) := by
      rw [List.drop_eq_getElem_cons (by omega)]
      simp [List.getD_eq_getElem?_getD, List.getElem?_eq_getElem (show i < K.length by omega)]
    have h2 : K.drop (i + 1) = K.getD (i + 1) 0 :: K.drop (i + 2) := by
      rw [List.drop_eq_getElem_cons (by omega)]
      simp [List.getD_eq_getElem?_getD, List.getElem?_eq_getElem hi]
    conv => lhs; rw [← List.take_append_drop i K, h1, h2]
    rfl
  have hm : K.getD i 0 ∈ K := by
    rw [List.getD_eq_getElem?_getD, List.getElem?_eq_getElem (show i < K.length by omega)]
    exact List.getElem_mem _
  have ht := hcn _ _ [] _ _ e (js_zero (hz _ hm)) (fun b hb => by cases hb) rfl
  cases hj : joinOk (K.getD i 0) (K.getD (i + 1) 0) with
  | false => rfl
  | true => rw [two_jo hj rfl] at ht; cases ht
theorem han_parts {l : List Int} (h : ∀ x ∈ l, Jm x) : partsF T5 (comp cl5 two5 l) = l := (comp_zero cmp5 (fun x hx => jm_zero (h x hx)) (fun x hx => jm_plain (h x hx))).1
theorem jm_at (j u : Int) (hj : j = 0 ∨ j = 1 ∨ j = 2) (h0 : 0 ≤ u) (h1 : u ≤ 18) : Jm ((if j = 0 then 4352 else if j = 1 then 4449 else 4520) + u) := by
  unfold Jm
  have hk : ∀ y : Int, 4352 ≤ y → y ≤ 4607 → kind6 y ≤ 3 := fun y a b => by
    apply Classical.byContradiction
    intro hk
    have := kind6_big (c := y) (by omega)
    omega
  rcases hj with rfl | rfl | rfl
  · exact ⟨by simp; omega, by simp; omega, hk _ (by simp; omega) (by simp; omega)⟩
  · exact ⟨by simp; omega, by simp; omega, hk _ (by simp; omega) (by simp; omega)⟩
  · exact ⟨by simp; omega, by simp; omega, hk _ (by simp; omega) (by simp; omega)⟩
end Go.Proofs.Ytmedpgpokenddaa

/- The walk of ComposeHangul. -/
namespace Go.Proofs.Ytmedpgpokenddaa
set_option maxRecDepth 100000
open Go.ChangeShapes Go.WideShapes Go.ChangeAt Go.RowKit
set_option linter.unusedVariables false
set_option linter.unusedSimpArgs false

theorem ixj0 (w : World) : (Instr.index 42 (.agg #[.int .i32 4352, .int .i32 4449, .int .i32 4520]) (.int .i64 0)).run Try.prog w = .ok (.int .i32 4352) w := by kernel_rfl
theorem ixj1 (w : World) : (Instr.index 42 (.agg #[.int .i32 4352, .int .i32 4449, .int .i32 4520]) (.int .i64 1)).run Try.prog w = .ok (.int .i32 4449) w := by kernel_rfl
theorem ixj2 (w : World) : (Instr.index 42 (.agg #[.int .i32 4352, .int .i32 4449, .int .i32 4520]) (.int .i64 2)).run Try.prog w = .ok (.int .i32 4520) w := by kernel_rfl
theorem ixj (j : Int) (hj : j = 0 ∨ j = 1 ∨ j = 2) (w : World) : (Instr.index 42 (.agg #[.int .i32 4352, .int .i32 4449, .int .i32 4520]) (.int .i64 j)).run Try.prog w = .ok (.int .i32 (if j = 0 then 4352 else if j = 1 then 4449 else 4520)) w := by
  rcases hj with rfl | rfl | rfl
  · exact ixj0 w
  · exact ixj1 w
  · exact ixj2 w
theorem jm_r32 {x : Int} (h : Jm x) : R32 x := by have := h.1; have := h.2.1; unfold R32; omega
theorem js_r32 {x : Int} (h : Jm x ∨ Sy x) : R32 x := by
  rcases h with h | h
  · exact jm_r32 h
  · have := h.1; have := h.2; unfold R32; omega
def HanL (w1 : World) (n : Nat) (s4 s5 : Value) (wr : World) : Prop := ∃ (k : Nat) (xs : List Int), k ≤ n ∧ k ≤ 20 ∧ xs.length = k ∧ s5 = .int .i64 k ∧ Own wr w1.heap.size 21 .i32 s4 xs ∧ (∀ x ∈ xs, Jm x) ∧ Below w1.heap.size w1 wr
def HanB (w2 : World) (K : List Int) (s8 s9 : Value) (wr : World) : Prop := ∃ i : Nat, i ≤ K.length ∧ s9 = .int .i64 i ∧ Own wr w2.heap.size 21 .i32 s8 (partsF T5 (K.take i)) ∧ Below w2.heap.size w2 wr
theorem join_quiet (a b : Int) (h : joinOk a b = false) (w : World) (q : Nat) : Calls Try.prog 21 #[.int .i32 a, .int .i32 b] (w.drewN q) fun e w'' => e = .returned (.tuple #[.int .i32 (joinC a b), .bool false]) ∧ ∃ m, w'' = w.drewN m := by
  refine (rjoin_any a b _).mono ?_
  rintro e w' ⟨rfl, rfl⟩
  exact ⟨by rw [h], q, rfl⟩

set_option maxHeartbeats 8000000 in
theorem chan_walk (HC : ComposeOk) (H2 : TwoOk) (a0 : Option Addr) (len0 cap0 : Nat) (z0 : List Int) (w : World) (r0 : ArgRow .i64 w a0 len0 cap0 z0) :
    Calls Try.prog 7 #[.slice a0 len0 cap0] w fun e w' => e = .returned (.bool true) ∧ Below w.heap.size w w' := by
  have HR0 := Lib.hid r0
  have HCO := Lib.hid HC
  have HAW := Lib.hid (awake8 HC H2)
  clear r0 HC H2
  go_enter Try.func7, Try.ntmps7
  go_wp2_with fail
  with_reducible refine (ubuild_any _).mono ?_
  rintro e w1 ⟨g, rfl, ht, hb⟩
  have HT := Lib.hid ht
  have HB := Lib.hid hb
  have HR1 := Lib.hid (HR0.out.go hb)
  clear ht hb HR0
  go_wp2_with fail
  go_loopw [4, 5] (fun s4 s5 wr => HanL w1 len0 s4 s5 wr) (fun _ i _ => len0 - (intOf i).toNat)
  case atStart => exact ⟨0, [], by omega, by omega, rfl, rfl, World.ownsRow_nil _ _ _ _, (fun x hx => by cases hx), Below.refl _ _⟩
  case round =>
    obtain ⟨k, xs, hk, hk20, hxl, rfl, hO, hJ, hb⟩ := hrel
    have HO := Lib.hid hO
    have HJ := Lib.hid hJ
    have HBE := Lib.hid hb
    have HXL := Lib.hid hxl
    have hgw : w1.heap.size ≤ wr.heap.size := hb.size
    by_cases hlt : k < len0 ∧ k < 20
    · obtain ⟨hlt, hlt20⟩ := hlt
      obtain ⟨b, o, rfl, hbl, hc⟩ := HR1.out.row.at (by rw [HR1.out.size]; omega)
      have h1 : wr.cell? ⟨b, o + k, none⟩ = some (.int .i64 (z0.getD k 0)) := (hb.cell (p := ⟨b, o + k, none⟩) hbl).trans (hc k (by rw [HR1.out.size]; exact hlt))
      have hlt' : (k : Int) < len0 := by omega
      have hlt20' : (k : Int) < 20 := by omega
      generalize z0.getD k 0 = x at *
      have HPL : Hid (∀ W, Calls Try.prog 19 #[.int .i64 x, .int .i64 1073741824] W fun e w' => e = .returned (.int .i64 (x % 1073741824)) ∧ W = w') := Lib.hid fun W => place_any x 1073741824 W (by omega) (by omega)
      have q0 : 0 ≤ x % 1073741824 := by omega
      have q1 : x % 1073741824 ≤ 1073741823 := by omega
      generalize x % 1073741824 = q at HPL q0 q1
      obtain ⟨j, hj⟩ : ∃ j, q % 3 = j := ⟨_, rfl⟩
      obtain ⟨u, hu⟩ : ∃ u, q / 3 % 19 = u := ⟨_, rfl⟩
      have hj3 : j = 0 ∨ j = 1 ∨ j = 2 := by omega
      have hu0 : 0 ≤ u := by omega
      have hu1 : u ≤ 18 := by omega
      have hix := ixj j hj3 wr
      have HJN := Lib.hid (jm_at j u hj3 hu0 hu1)
      have hy0 : 0 ≤ (if j = 0 then (4352 : Int) else if j = 1 then 4449 else 4520) ∧ (if j = 0 then (4352 : Int) else if j = 1 then 4449 else 4520) ≤ 5000 := by split <;> (try split) <;> omega
      generalize (if j = 0 then (4352 : Int) else if j = 1 then 4449 else 4520) = y at *
      obtain ⟨hy0, hy1⟩ := hy0
      clear hO hJ hb hc hxl hj3
      go_wp2_with fail
      with_reducible refine (HPL.out _).mono ?_
      rintro e w' ⟨rfl, rfl⟩
      go_wp2_with (at_builtin; refine wpList_appN rfl (.tmp 30) (.tmp 40) 22 rfl w1.heap.size 21 .i32 4 Try.underlying22 info_i32 (by omega) _ xs rfl (HO.out.alloc _) _ _ _ 1 [y + u] rfl rfl (fun h => by cases h) (Ints.lit wr 21 .i32 [y + u]) (by rw [HXL.out]; simp; omega) (by rw [World.size_alloc]; omega) ?_; intro A6 m6 c6 w6 hm6 hO6 hb6; have HO6 := Lib.hid hO6; have HB6 := Lib.hid ((HBE.out.trans ((below_new wr (.cells #[.int .i32 (y + u)] 21)).mono hgw)).trans hb6); clear hO6 hb6 hm6)
      go_wp2
      go_roundw
      case rel => exact ⟨k + 1, xs ++ [y + u], by omega, by omega, by rw [List.length_append, HXL.out]; rfl, by go_num, HO6.out, (fun z hz => by
        rcases List.mem_append.1 hz with hz | hz
        · exact HJ.out z hz
        · simp at hz; rw [hz]; exact HJN.out), HB6.out⟩
      case measure => simp [intOf]; omega
    · clear hO hJ hb hxl
      by_cases hlt1 : k < len0
      · have hd1 : decide ((k : Int) < len0) = true := decide_eq_true (by omega)
        have hd1' : (k : Int) < len0 := by omega
        have hd2 : decide ((k : Int) < 20) = false := decide_eq_false (by omega)
        obtain ⟨A4, n4, c4, hm4, rfl⟩ := own_num HO.out
        have HRX : Hid (RowIn wr A4 n4 c4 xs) := Lib.hid (by have h := HO.out; unfold Own at h; rw [hm4] at h; exact RowIn.ofOwn h)
        have hn4 : n4 ≤ 20 := by have := HXL.out; omega
        have HTr := Lib.hid (HT.out.go HBE.out)
        have HBw := Lib.hid (HB.out.trans (HBE.out.mono HB.out.size))
        have HCC := Lib.hid (HCO.out wr g A4 n4 c4 xs HRX.out HTr.out (fun x hx => jm_r32 (HJ.out x hx)) (by omega))
        have HKJ := Lib.hid (han_comp HJ.out)
        have HKP := Lib.hid (han_parts HJ.out)
        have HKO : Hid (∀ i, i + 1 < (comp cl5 two5 xs).length → joinOk ((comp cl5 two5 xs).getD i 0) ((comp cl5 two5 xs).getD (i + 1) 0) = false) := Lib.hid fun i hi => han_join HJ.out hi
        have HKLE := Lib.hid (comp_le xs)
        clear HO hm4
        generalize comp cl5 two5 xs = K at *
        go_wp2_with fail
        with_reducible refine HCC.out.mono ?_
        rintro e w2 ⟨A5, m, c5, rfl, hr5, hb5⟩
        have HR5 := Lib.hid hr5
        have HKL := Lib.hid hr5.len
        have HRX2 := Lib.hid (HRX.out.go hb5)
        have HT2 := Lib.hid (HTr.out.go hb5)
        have HBw2 := Lib.hid (HBw.out.trans (hb5.mono HBw.out.size))
        have hm20 : m ≤ 20 := by have h1 := HKLE.out; have h2 := HRX.out.len; rw [HKL.out, h2] at h1; omega
        clear hr5 hb5 HRX HTr HBw HCC
        go_wp2_with fail
        go_loopw [8, 9] (fun s8 s9 wr => HanB w2 K s8 s9 wr) (fun _ i _ => m - (intOf i).toNat)
        case atStart => exact ⟨0, by omega, rfl, World.ownsRow_nil _ _ _ _, Below.refl _ _⟩
        case round =>
          obtain ⟨i, hi, rfl, hO2, hb2⟩ := hrel
          rw [HKL.out] at hi
          have HO2 := Lib.hid hO2
          have HB2 := Lib.hid hb2
          have hg2 : w2.heap.size ≤ wr.heap.size := hb2.size
          have hpl := partsF_len sy5_len (K.take i)
          rw [List.length_take, HKL.out] at hpl
          by_cases hlt2 : i < m
          · obtain ⟨b5, o5, rfl, hbl5, hc5⟩ := HR5.out.first (by omega)
            have h5 : wr.cell? ⟨b5, o5 + i, none⟩ = some (.int .i32 (K.getD i 0)) := (hb2.cell (p := ⟨b5, o5 + i, none⟩) hbl5).trans (hc5 i hlt2)
            have hik : i < K.length := by rw [HKL.out]; exact hlt2
            have HTS := Lib.hid (take_snoc K i hik)
            have hmem : K.getD i 0 ∈ K := by
              rw [List.getD_eq_getElem?_getD, List.getElem?_eq_getElem hik]
              exact List.getElem_mem hik
            have HJF := Lib.hid (js_full (HKJ.out _ hmem))
            have HKI := Lib.hid (fun W => kind_any (K.getD i 0) W)
            have HCJ : Hid (∀ j, i = j + 1 → wr.cell? ⟨b5, o5 + j, none⟩ = some (.int .i32 (K.getD j 0)) ∧ joinOk (K.getD j 0) (K.getD i 0) = false) := Lib.hid fun j hj => by
              refine ⟨(hb2.cell (p := ⟨b5, o5 + j, none⟩) hbl5).trans (hc5 j (by omega)), ?_⟩
              subst hj
              exact HKO.out j (by rw [HKL.out]; exact hlt2)
            have hlt2' : (i : Int) < m := by omega
            clear hO2 hb2 hc5 hmem
            generalize K.getD i 0 = y at *
            by_cases hk3 : 3 < kind6 y
            · have hkd : decide (3 < kind6 y) = true := decide_eq_true hk3
              have HFU := Lib.hid (HJF.out.1 hk3)
              clear hk3 HJF
              generalize hkk : kind6 y = kk at HKI hkd
              clear hkk
              cases i with
              | zero =>
                rw [Nat.add_zero] at h5
                go_wp2_with fail
                with_reducible refine (HKI.out _).mono ?_
                rintro e w' ⟨rfl, rfl⟩
                have HSP := Lib.hid (rsplit_any y wr)
                go_wp2_with fail
                with_reducible refine HSP.out.mono ?_
                rintro e w7 hres
                obtain ⟨A7, n7, c7, rfl, hr7, hb7⟩ := hres.out
                have HR7 := Lib.hid hr7
                have HO7 := Lib.hid (own_below HO2.out hb7 (Nat.le_refl _))
                have HB7 := Lib.hid (HB2.out.trans (hb7.mono hg2))
                have hg7 : w2.heap.size ≤ w7.heap.size := HB7.out.size
                have hs3 := split6_len y
                clear hr7 hb7 hres HSP
                go_wp2_with (at_builtin; refine wpList_appN rfl (.tmp 73) (.tmp 78) 22 rfl w2.heap.size 21 .i32 4 Try.underlying22 info_i32 (by omega) _ _ rfl HO7.out _ _ _ _ _ HR7.out.len rfl HR7.out.nil HR7.out.ints (by omega) hg7 ?_; intro A8 m8 c8 w8 hm8 hO8 hb8; have HO8 := Lib.hid hO8; have HB8 := Lib.hid (HB7.out.trans hb8); clear hO8 hb8 hm8)
                go_wp2
                go_roundw
                case rel => exact ⟨0 + 1, by rw [HKL.out]; omega, by go_num, by rw [HTS.out, partsF_snoc, HFU.out]; exact HO8.out, HB8.out⟩
                case measure => simp [intOf]; omega
              | succ j =>
                obtain ⟨h6, hjo⟩ := HCJ.out j rfl
                have HJQ : Hid (∀ q, Calls Try.prog 21 #[.int .i32 (K.getD j 0), .int .i32 y] (wr.drewN q) fun e w'' => e = .returned (.tuple #[.int .i32 (joinC (K.getD j 0) y), .bool false]) ∧ ∃ m, w'' = wr.drewN m) := Lib.hid fun q => join_quiet _ _ hjo wr q
                clear HCJ hjo
                generalize K.getD j 0 = x at *
                have hjp : (0 : Int) < ((j + 1 : Nat) : Int) := by omega
                go_wp2_with fail
                go_quiet ((go_at_call 21; with_reducible exact HJQ.out _))
                have hb6 : Below wr.heap.size wr (wr.drewN nq) := below_drewN' (Below.refl _ _) nq
                have HO6 := Lib.hid (own_below HO2.out hb6 (Nat.le_refl _))
                have HB6 := Lib.hid (HB2.out.trans (hb6.mono hg2))
                clear h6
                have h5x : (wr.drewN nq).cell? ⟨b5, o5 + (j + 1), none⟩ = some (.int .i32 y) := h5
                clear h5 HO2 HB2 hb6
                generalize wr.drewN nq = wx at *
                have HO2 := HO6
                have HB2 := HB6
                have hg2 : w2.heap.size ≤ wx.heap.size := HB6.out.size
                clear HO6 HB6
                go_wp2_with fail
                with_reducible refine (HKI.out _).mono ?_
                rintro e w' ⟨rfl, rfl⟩
                have HSP := Lib.hid (rsplit_any y wx)
                go_wp2_with fail
                with_reducible refine HSP.out.mono ?_
                rintro e w7 hres
                obtain ⟨A7, n7, c7, rfl, hr7, hb7⟩ := hres.out
                have HR7 := Lib.hid hr7
                have HO7 := Lib.hid (own_below HO2.out hb7 (Nat.le_refl _))
                have HB7 := Lib.hid (HB2.out.trans (hb7.mono hg2))
                have hg7 : w2.heap.size ≤ w7.heap.size := HB7.out.size
                have hs3 := split6_len y
                clear hr7 hb7 hres HSP
                go_wp2_with (at_builtin; refine wpList_appN rfl (.tmp 73) (.tmp 78) 22 rfl w2.heap.size 21 .i32 4 Try.underlying22 info_i32 (by omega) _ _ rfl HO7.out _ _ _ _ _ HR7.out.len rfl HR7.out.nil HR7.out.ints (by omega) hg7 ?_; intro A8 m8 c8 w8 hm8 hO8 hb8; have HO8 := Lib.hid hO8; have HB8 := Lib.hid (HB7.out.trans hb8); clear hO8 hb8 hm8)
                go_wp2
                go_roundw
                case rel => exact ⟨(j + 1) + 1, by rw [HKL.out]; omega, by go_num, by rw [HTS.out, partsF_snoc, HFU.out]; exact HO8.out, HB8.out⟩
                case measure => simp [intOf]; omega
            · have hkd : decide (3 < kind6 y) = false := decide_eq_false hk3
              have HFU := Lib.hid (HJF.out.2 hk3)
              clear hk3 HJF
              generalize hkk : kind6 y = kk at HKI hkd
              clear hkk
              cases i with
              | zero =>
                rw [Nat.add_zero] at h5
                go_wp2_with fail
                with_reducible refine (HKI.out _).mono ?_
                rintro e w' ⟨rfl, rfl⟩
                go_wp2_with (at_builtin; refine wpList_appN rfl (.tmp 80) (.tmp 85) 22 rfl w2.heap.size 21 .i32 4 Try.underlying22 info_i32 (by omega) _ _ rfl (HO2.out.alloc _) _ _ _ 1 [y] rfl rfl (fun h => by cases h) (Ints.lit wr 21 .i32 [y]) (by simp only [List.length_cons, List.length_nil]; omega) (by rw [World.size_alloc]; omega) ?_; intro A8 m8 c8 w8 hm8 hO8 hb8; have HO8 := Lib.hid hO8; have HB8 := Lib.hid ((HB2.out.trans ((below_new wr (.cells #[.int .i32 y] 21)).mono hg2)).trans hb8); clear hO8 hb8 hm8)
                go_wp2
                go_roundw
                case rel => exact ⟨0 + 1, by rw [HKL.out]; omega, by go_num, by rw [HTS.out, partsF_snoc, HFU.out]; exact HO8.out, HB8.out⟩
                case measure => simp [intOf]; omega
              | succ j =>
                obtain ⟨h6, hjo⟩ := HCJ.out j rfl
                have HJQ : Hid (∀ q, Calls Try.prog 21 #[.int .i32 (K.getD j 0), .int .i32 y] (wr.drewN q) fun e w'' => e = .returned (.tuple #[.int .i32 (joinC (K.getD j 0) y), .bool false]) ∧ ∃ m, w'' = wr.drewN m) := Lib.hid fun q => join_quiet _ _ hjo wr q
                clear HCJ hjo
                generalize K.getD j 0 = x at *
                have hjp : (0 : Int) < ((j + 1 : Nat) : Int) := by omega
                go_wp2_with fail
                go_quiet ((go_at_call 21; with_reducible exact HJQ.out _))
                have hb6 : Below wr.heap.size wr (wr.drewN nq) := below_drewN' (Below.refl _ _) nq
                have HO6 := Lib.hid (own_below HO2.out hb6 (Nat.le_refl _))
                have HB6 := Lib.hid (HB2.out.trans (hb6.mono hg2))
                clear h6
                have h5x : (wr.drewN nq).cell? ⟨b5, o5 + (j + 1), none⟩ = some (.int .i32 y) := h5
                clear h5 HO2 HB2 hb6
                generalize wr.drewN nq = wx at *
                have HO2 := HO6
                have HB2 := HB6
                have hg2 : w2.heap.size ≤ wx.heap.size := HB6.out.size
                clear HO6 HB6
                go_wp2_with fail
                with_reducible refine (HKI.out _).mono ?_
                rintro e w' ⟨rfl, rfl⟩
                go_wp2_with (at_builtin; refine wpList_appN rfl (.tmp 80) (.tmp 85) 22 rfl w2.heap.size 21 .i32 4 Try.underlying22 info_i32 (by omega) _ _ rfl (HO2.out.alloc _) _ _ _ 1 [y] rfl rfl (fun h => by cases h) (Ints.lit wx 21 .i32 [y]) (by simp only [List.length_cons, List.length_nil]; omega) (by rw [World.size_alloc]; omega) ?_; intro A8 m8 c8 w8 hm8 hO8 hb8; have HO8 := Lib.hid hO8; have HB8 := Lib.hid ((HB2.out.trans ((below_new wx (.cells #[.int .i32 y] 21)).mono hg2)).trans hb8); clear hO8 hb8 hm8)
                go_wp2
                go_roundw
                case rel => exact ⟨(j + 1) + 1, by rw [HKL.out]; omega, by go_num, by rw [HTS.out, partsF_snoc, HFU.out]; exact HO8.out, HB8.out⟩
                case measure => simp [intOf]; omega
          · obtain rfl : i = m := by omega
            have hlt2' : ¬ (i : Int) < i := by omega
            have ht : K.take i = K := List.take_of_length_le (by rw [HKL.out]; exact Nat.le_refl _)
            rw [ht, HKP.out] at hO2
            obtain ⟨A8, n8, c8, hm8, rfl⟩ := own_num hO2
            have HR8 : Hid (RowIn wr A8 n8 c8 xs) := Lib.hid (by unfold Own at hO2; rw [hm8] at hO2; exact RowIn.ofOwn hO2)
            have HRX8 := Lib.hid (HRX2.out.go hb2)
            have HT8 := Lib.hid (HT2.out.go hb2)
            have HBw8 := Lib.hid (HBw2.out.trans (hb2.mono HBw2.out.size))
            have hn8 : n8 ≤ 1000000 := by have h1 := HR8.out.len; have h2 := HRX8.out.len; omega
            clear hO2 hb2 HO2 HB2 hm8
            go_wp2_with fail
            with_reducible refine (same_rows HR8.out HRX8.out rfl hn8).mono ?_
            rintro e w9 ⟨rfl, hs9⟩
            have HT9 := Lib.hid (HT8.out.go hs9.below)
            have HBw9 := Lib.hid (HBw8.out.trans (hs9.lower _))
            clear hs9
            go_wp2_with fail
            with_reducible refine (HAW.out _ _ HT9.out).mono ?_
            rintro e w12 ⟨rfl, hb12⟩
            have HB12 := Lib.hid (HBw9.out.trans (hb12.mono HBw9.out.size))
            clear hb12
            go_wp2
            go_ret
            exact ⟨rfl, HB12.out⟩
      · have hd1 : decide ((k : Int) < len0) = false := decide_eq_false (by omega)
        obtain ⟨A4, n4, c4, hm4, rfl⟩ := own_num HO.out
        have HRX : Hid (RowIn wr A4 n4 c4 xs) := Lib.hid (by have h := HO.out; unfold Own at h; rw [hm4] at h; exact RowIn.ofOwn h)
        have hn4 : n4 ≤ 20 := by have := HXL.out; omega
        have HTr := Lib.hid (HT.out.go HBE.out)
        have HBw := Lib.hid (HB.out.trans (HBE.out.mono HB.out.size))
        have HCC := Lib.hid (HCO.out wr g A4 n4 c4 xs HRX.out HTr.out (fun x hx => jm_r32 (HJ.out x hx)) (by omega))
        have HKJ := Lib.hid (han_comp HJ.out)
        have HKP := Lib.hid (han_parts HJ.out)
        have HKO : Hid (∀ i, i + 1 < (comp cl5 two5 xs).length → joinOk ((comp cl5 two5 xs).getD i 0) ((comp cl5 two5 xs).getD (i + 1) 0) = false) := Lib.hid fun i hi => han_join HJ.out hi
        have HKLE := Lib.hid (comp_le xs)
        clear HO hm4
        generalize comp cl5 two5 xs = K at *
        go_wp2_with fail
        with_reducible refine HCC.out.mono ?_
        rintro e w2 ⟨A5, m, c5, rfl, hr5, hb5⟩
        have HR5 := Lib.hid hr5
        have HKL := Lib.hid hr5.len
        have HRX2 := Lib.hid (HRX.out.go hb5)
        have HT2 := Lib.hid (HTr.out.go hb5)
        have HBw2 := Lib.hid (HBw.out.trans (hb5.mono HBw.out.size))
        have hm20 : m ≤ 20 := by have h1 := HKLE.out; have h2 := HRX.out.len; rw [HKL.out, h2] at h1; omega
        clear hr5 hb5 HRX HTr HBw HCC
        go_wp2_with fail
        go_loopw [8, 9] (fun s8 s9 wr => HanB w2 K s8 s9 wr) (fun _ i _ => m - (intOf i).toNat)
        case atStart => exact ⟨0, by omega, rfl, World.ownsRow_nil _ _ _ _, Below.refl _ _⟩
        case round =>
          obtain ⟨i, hi, rfl, hO2, hb2⟩ := hrel
          rw [HKL.out] at hi
          have HO2 := Lib.hid hO2
          have HB2 := Lib.hid hb2
          have hg2 : w2.heap.size ≤ wr.heap.size := hb2.size
          have hpl := partsF_len sy5_len (K.take i)
          rw [List.length_take, HKL.out] at hpl
          by_cases hlt2 : i < m
          · obtain ⟨b5, o5, rfl, hbl5, hc5⟩ := HR5.out.first (by omega)
            have h5 : wr.cell? ⟨b5, o5 + i, none⟩ = some (.int .i32 (K.getD i 0)) := (hb2.cell (p := ⟨b5, o5 + i, none⟩) hbl5).trans (hc5 i hlt2)
            have hik : i < K.length := by rw [HKL.out]; exact hlt2
            have HTS := Lib.hid (take_snoc K i hik)
            have hmem : K.getD i 0 ∈ K := by
              rw [List.getD_eq_getElem?_getD, List.getElem?_eq_getElem hik]
              exact List.getElem_mem hik
            have HJF := Lib.hid (js_full (HKJ.out _ hmem))
            have HKI := Lib.hid (fun W => kind_any (K.getD i 0) W)
            have HCJ : Hid (∀ j, i = j + 1 → wr.cell? ⟨b5, o5 + j, none⟩ = some (.int .i32 (K.getD j 0)) ∧ joinOk (K.getD j 0) (K.getD i 0) = false) := Lib.hid fun j hj => by
              refine ⟨(hb2.cell (p := ⟨b5, o5 + j, none⟩) hbl5).trans (hc5 j (by omega)), ?_⟩
              subst hj
              exact HKO.out j (by rw [HKL.out]; exact hlt2)
            have hlt2' : (i : Int) < m := by omega
            clear hO2 hb2 hc5 hmem
            generalize K.getD i 0 = y at *
            by_cases hk3 : 3 < kind6 y
            · have hkd : decide (3 < kind6 y) = true := decide_eq_true hk3
              have HFU := Lib.hid (HJF.out.1 hk3)
              clear hk3 HJF
              generalize hkk : kind6 y = kk at HKI hkd
              clear hkk
              cases i with
              | zero =>
                rw [Nat.add_zero] at h5
                go_wp2_with fail
                with_reducible refine (HKI.out _).mono ?_
                rintro e w' ⟨rfl, rfl⟩
                have HSP := Lib.hid (rsplit_any y wr)
                go_wp2_with fail
                with_reducible refine HSP.out.mono ?_
                rintro e w7 hres
                obtain ⟨A7, n7, c7, rfl, hr7, hb7⟩ := hres.out
                have HR7 := Lib.hid hr7
                have HO7 := Lib.hid (own_below HO2.out hb7 (Nat.le_refl _))
                have HB7 := Lib.hid (HB2.out.trans (hb7.mono hg2))
                have hg7 : w2.heap.size ≤ w7.heap.size := HB7.out.size
                have hs3 := split6_len y
                clear hr7 hb7 hres HSP
                go_wp2_with (at_builtin; refine wpList_appN rfl (.tmp 73) (.tmp 78) 22 rfl w2.heap.size 21 .i32 4 Try.underlying22 info_i32 (by omega) _ _ rfl HO7.out _ _ _ _ _ HR7.out.len rfl HR7.out.nil HR7.out.ints (by omega) hg7 ?_; intro A8 m8 c8 w8 hm8 hO8 hb8; have HO8 := Lib.hid hO8; have HB8 := Lib.hid (HB7.out.trans hb8); clear hO8 hb8 hm8)
                go_wp2
                go_roundw
                case rel => exact ⟨0 + 1, by rw [HKL.out]; omega, by go_num, by rw [HTS.out, partsF_snoc, HFU.out]; exact HO8.out, HB8.out⟩
                case measure => simp [intOf]; omega
              | succ j =>
                obtain ⟨h6, hjo⟩ := HCJ.out j rfl
                have HJQ : Hid (∀ q, Calls Try.prog 21 #[.int .i32 (K.getD j 0), .int .i32 y] (wr.drewN q) fun e w'' => e = .returned (.tuple #[.int .i32 (joinC (K.getD j 0) y), .bool false]) ∧ ∃ m, w'' = wr.drewN m) := Lib.hid fun q => join_quiet _ _ hjo wr q
                clear HCJ hjo
                generalize K.getD j 0 = x at *
                have hjp : (0 : Int) < ((j + 1 : Nat) : Int) := by omega
                go_wp2_with fail
                go_quiet ((go_at_call 21; with_reducible exact HJQ.out _))
                have hb6 : Below wr.heap.size wr (wr.drewN nq) := below_drewN' (Below.refl _ _) nq
                have HO6 := Lib.hid (own_below HO2.out hb6 (Nat.le_refl _))
                have HB6 := Lib.hid (HB2.out.trans (hb6.mono hg2))
                clear h6
                have h5x : (wr.drewN nq).cell? ⟨b5, o5 + (j + 1), none⟩ = some (.int .i32 y) := h5
                clear h5 HO2 HB2 hb6
                generalize wr.drewN nq = wx at *
                have HO2 := HO6
                have HB2 := HB6
                have hg2 : w2.heap.size ≤ wx.heap.size := HB6.out.size
                clear HO6 HB6
                go_wp2_with fail
                with_reducible refine (HKI.out _).mono ?_
                rintro e w' ⟨rfl, rfl⟩
                have HSP := Lib.hid (rsplit_any y wx)
                go_wp2_with fail
                with_reducible refine HSP.out.mono ?_
                rintro e w7 hres
                obtain ⟨A7, n7, c7, rfl, hr7, hb7⟩ := hres.out
                have HR7 := Lib.hid hr7
                have HO7 := Lib.hid (own_below HO2.out hb7 (Nat.le_refl _))
                have HB7 := Lib.hid (HB2.out.trans (hb7.mono hg2))
                have hg7 : w2.heap.size ≤ w7.heap.size := HB7.out.size
                have hs3 := split6_len y
                clear hr7 hb7 hres HSP
                go_wp2_with (at_builtin; refine wpList_appN rfl (.tmp 73) (.tmp 78) 22 rfl w2.heap.size 21 .i32 4 Try.underlying22 info_i32 (by omega) _ _ rfl HO7.out _ _ _ _ _ HR7.out.len rfl HR7.out.nil HR7.out.ints (by omega) hg7 ?_; intro A8 m8 c8 w8 hm8 hO8 hb8; have HO8 := Lib.hid hO8; have HB8 := Lib.hid (HB7.out.trans hb8); clear hO8 hb8 hm8)
                go_wp2
                go_roundw
                case rel => exact ⟨(j + 1) + 1, by rw [HKL.out]; omega, by go_num, by rw [HTS.out, partsF_snoc, HFU.out]; exact HO8.out, HB8.out⟩
                case measure => simp [intOf]; omega
            · have hkd : decide (3 < kind6 y) = false := decide_eq_false hk3
              have HFU := Lib.hid (HJF.out.2 hk3)
              clear hk3 HJF
              generalize hkk : kind6 y = kk at HKI hkd
              clear hkk
              cases i with
              | zero =>
                rw [Nat.add_zero] at h5
                go_wp2_with fail
                with_reducible refine (HKI.out _).mono ?_
                rintro e w' ⟨rfl, rfl⟩
                go_wp2_with (at_builtin; refine wpList_appN rfl (.tmp 80) (.tmp 85) 22 rfl w2.heap.size 21 .i32 4 Try.underlying22 info_i32 (by omega) _ _ rfl (HO2.out.alloc _) _ _ _ 1 [y] rfl rfl (fun h => by cases h) (Ints.lit wr 21 .i32 [y]) (by simp only [List.length_cons, List.length_nil]; omega) (by rw [World.size_alloc]; omega) ?_; intro A8 m8 c8 w8 hm8 hO8 hb8; have HO8 := Lib.hid hO8; have HB8 := Lib.hid ((HB2.out.trans ((below_new wr (.cells #[.int .i32 y] 21)).mono hg2)).trans hb8); clear hO8 hb8 hm8)
                go_wp2
                go_roundw
                case rel => exact ⟨0 + 1, by rw [HKL.out]; omega, by go_num, by rw [HTS.out, partsF_snoc, HFU.out]; exact HO8.out, HB8.out⟩
                case measure => simp [intOf]; omega
              | succ j =>
                obtain ⟨h6, hjo⟩ := HCJ.out j rfl
                have HJQ : Hid (∀ q, Calls Try.prog 21 #[.int .i32 (K.getD j 0), .int .i32 y] (wr.drewN q) fun e w'' => e = .returned (.tuple #[.int .i32 (joinC (K.getD j 0) y), .bool false]) ∧ ∃ m, w'' = wr.drewN m) := Lib.hid fun q => join_quiet _ _ hjo wr q
                clear HCJ hjo
                generalize K.getD j 0 = x at *
                have hjp : (0 : Int) < ((j + 1 : Nat) : Int) := by omega
                go_wp2_with fail
                go_quiet ((go_at_call 21; with_reducible exact HJQ.out _))
                have hb6 : Below wr.heap.size wr (wr.drewN nq) := below_drewN' (Below.refl _ _) nq
                have HO6 := Lib.hid (own_below HO2.out hb6 (Nat.le_refl _))
                have HB6 := Lib.hid (HB2.out.trans (hb6.mono hg2))
                clear h6
                have h5x : (wr.drewN nq).cell? ⟨b5, o5 + (j + 1), none⟩ = some (.int .i32 y) := h5
                clear h5 HO2 HB2 hb6
                generalize wr.drewN nq = wx at *
                have HO2 := HO6
                have HB2 := HB6
                have hg2 : w2.heap.size ≤ wx.heap.size := HB6.out.size
                clear HO6 HB6
                go_wp2_with fail
                with_reducible refine (HKI.out _).mono ?_
                rintro e w' ⟨rfl, rfl⟩
                go_wp2_with (at_builtin; refine wpList_appN rfl (.tmp 80) (.tmp 85) 22 rfl w2.heap.size 21 .i32 4 Try.underlying22 info_i32 (by omega) _ _ rfl (HO2.out.alloc _) _ _ _ 1 [y] rfl rfl (fun h => by cases h) (Ints.lit wx 21 .i32 [y]) (by simp only [List.length_cons, List.length_nil]; omega) (by rw [World.size_alloc]; omega) ?_; intro A8 m8 c8 w8 hm8 hO8 hb8; have HO8 := Lib.hid hO8; have HB8 := Lib.hid ((HB2.out.trans ((below_new wx (.cells #[.int .i32 y] 21)).mono hg2)).trans hb8); clear hO8 hb8 hm8)
                go_wp2
                go_roundw
                case rel => exact ⟨(j + 1) + 1, by rw [HKL.out]; omega, by go_num, by rw [HTS.out, partsF_snoc, HFU.out]; exact HO8.out, HB8.out⟩
                case measure => simp [intOf]; omega
          · obtain rfl : i = m := by omega
            have hlt2' : ¬ (i : Int) < i := by omega
            have ht : K.take i = K := List.take_of_length_le (by rw [HKL.out]; exact Nat.le_refl _)
            rw [ht, HKP.out] at hO2
            obtain ⟨A8, n8, c8, hm8, rfl⟩ := own_num hO2
            have HR8 : Hid (RowIn wr A8 n8 c8 xs) := Lib.hid (by unfold Own at hO2; rw [hm8] at hO2; exact RowIn.ofOwn hO2)
            have HRX8 := Lib.hid (HRX2.out.go hb2)
            have HT8 := Lib.hid (HT2.out.go hb2)
            have HBw8 := Lib.hid (HBw2.out.trans (hb2.mono HBw2.out.size))
            have hn8 : n8 ≤ 1000000 := by have h1 := HR8.out.len; have h2 := HRX8.out.len; omega
            clear hO2 hb2 HO2 HB2 hm8
            go_wp2_with fail
            with_reducible refine (same_rows HR8.out HRX8.out rfl hn8).mono ?_
            rintro e w9 ⟨rfl, hs9⟩
            have HT9 := Lib.hid (HT8.out.go hs9.below)
            have HBw9 := Lib.hid (HBw8.out.trans (hs9.lower _))
            clear hs9
            go_wp2_with fail
            with_reducible refine (HAW.out _ _ HT9.out).mono ?_
            rintro e w12 ⟨rfl, hb12⟩
            have HB12 := Lib.hid (HBw9.out.trans (hb12.mono HBw9.out.size))
            clear hb12
            go_wp2
            go_ret
            exact ⟨rfl, HB12.out⟩
end Go.Proofs.Ytmedpgpokenddaa
