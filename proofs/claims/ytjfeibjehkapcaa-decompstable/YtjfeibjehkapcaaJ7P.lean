/- Joined of: D7StabWalk. -/
import Derived.Test.YtjfeibjehkapcaaJ7N
/- The walk of DecompStable. -/
namespace Go.Proofs.Ytjfeibjehkapcaa
set_option maxRecDepth 100000
open Go.ChangeShapes Go.WideShapes Go.ChangeAt Go.RowKit
set_option linter.unusedVariables false
set_option linter.unusedSimpArgs false

/-- those of one class -/
def fq (cl : Int → Int) (q : Int) (l : List Int) : List Int := l.filter fun x => cl x == q
theorem fq_yes {cl : Int → Int} {q x : Int} (l : List Int) (h : cl x = q) : fq cl q (l ++ [x]) = fq cl q l ++ [x] := by simp [fq, List.filter_append, h]
theorem fq_no {cl : Int → Int} {q x : Int} (l : List Int) (h : cl x ≠ q) : fq cl q (l ++ [x]) = fq cl q l := by simp [fq, List.filter_append, h]
theorem fq_len {cl : Int → Int} (q : Int) (l : List Int) : (fq cl q l).length ≤ l.length := List.length_filter_le _ _
theorem fq_proj {cl : Int → Int} (q : Int) {l : List Int} (hp : ∀ x ∈ l, 0 < cl x) : fq cl q l = proj cl q l := by
  unfold fq proj
  refine List.filter_congr fun x hx => ?_
  have := hp x hx
  have h0 : (cl x == 0) = false := beq_eq_false_iff_ne.2 (by omega)
  rw [h0, Bool.false_or]
theorem fq_ord {cl : Int → Int} (q : Int) {l : List Int} (hp : ∀ x ∈ l, 0 < cl x) : fq cl q l = fq cl q (ordL cl l) := by
  rw [fq_proj q hp, fq_proj q (fun x hx => hp x (ordL_mem.1 hx))]
  exact ((ordL_sim l) q).symm
theorem drop_getD (l : List Int) (k j : Nat) : (l.drop k).getD j 0 = l.getD (k + j) 0 := by simp [List.getD_eq_getElem?_getD, List.getElem?_drop]
/-- a run, and what follows it -/
theorem run_ord {cl : Int → Int} (h0 : ∀ x, 0 ≤ cl x) {r1 r2 : List Int} (hr : r2 = ordL cl r1) {s : Nat} (hs : s ≤ r1.length) (hh : ∀ x ∈ (r1.drop s).head?, cl x = 0) : r2.take s = ordL cl (r1.take s) ∧ r2.drop s = ordL cl (r1.drop s) := by
  have e : r2 = ordL cl (r1.take s) ++ ordL cl (r1.drop s) := by
    rw [hr, ← ordL_cut h0 hh, List.take_append_drop]
  have hl : (ordL cl (r1.take s)).length = s := by rw [ordL_len, List.length_take]; omega
  constructor
  · rw [e, List.take_append_of_le_length (by omega), List.take_of_length_le (by omega)]
  · rw [e, List.drop_append_of_le_length (by omega), List.drop_of_length_le (by omega)]; rfl

/-- two rows of the call's own, apart -/
structure Own2 (w : World) (base : Nat) (a b : Value) (xs ys : List Int) : Prop where
  fa : Own w base 21 .i32 a xs
  fb : Own w base 21 .i32 b ys
  ne : ∀ g, a.ownBlock = some g → b.ownBlock ≠ some g
theorem Own2.keep {w w' : World} {base : Nat} {a b : Value} {xs ys : List Int} (h : Own2 w base a b xs ys) (hb : Below w.heap.size w w') : Own2 w' base a b xs ys := ⟨own_below h.fa hb (Nat.le_refl _), own_below h.fb hb (Nat.le_refl _), h.ne⟩
theorem Own2.putA {w w' : World} {base : Nat} {a a' b : Value} {xs xs' ys : List Int} (h : Own2 w base a b xs ys) (hO : Own w' base 21 .i32 a' xs') (hG : Grew w w' a a') : Own2 w' base a' b xs' ys := by
  refine ⟨hO, World.ownsRow.kept h.fb hG.1 ?_, fun g hg hb => ?_⟩
  · cases hbo : b.ownBlock with
    | none => exact .inl rfl
    | some g => exact .inr fun e => h.ne g e.symm hbo
  · rcases hG.2 g hg with h1 | h1
    · exact h.ne g h1 hb
    · have := (h.fb.lt g hb).2; omega
theorem Own2.putB {w w' : World} {base : Nat} {a b b' : Value} {xs ys ys' : List Int} (h : Own2 w base a b xs ys) (hO : Own w' base 21 .i32 b' ys') (hG : Grew w w' b b') : Own2 w' base a b' xs ys' := by
  refine ⟨World.ownsRow.kept h.fa hG.1 ?_, hO, fun g hg hb => ?_⟩
  · cases hao : a.ownBlock with
    | none => exact .inl rfl
    | some g => exact .inr fun e => h.ne g hao e.symm
  · rcases hG.2 g hb with h1 | h1
    · exact h.ne g hg h1
    · have := (h.fa.lt g hg).2; omega
/-- the tables and two rows -/
structure Si2 (w : World) (g : Nat) (A : Option Addr) (n c : Nat) (l : List Int) (B : Option Addr) (d : Nat) (m : List Int) (W : World) : Prop where
  t : TblAt W W.heap.size g C5 P5 S5
  r : RowIn W A n c l
  s : RowIn W B n d m
  be : Below w.heap.size w W
section
variable {w W W' : World} {g n c d : Nat} {A B : Option Addr} {l m : List Int}
theorem Si2.go (h : Si2 w g A n c l B d m W) (hb : Below W.heap.size W W') : Si2 w g A n c l B d m W' := ⟨h.t.go hb, h.r.go hb, h.s.go hb, h.be.trans (hb.mono h.be.size)⟩
end
def St1 (w : World) (g : Nat) (A : Option Addr) (n c : Nat) (l : List Int) (B : Option Addr) (d : Nat) (m : List Int) (i : Value) (wr : World) : Prop := ∃ k : Nat, k ≤ n ∧ i = .int .i64 k ∧ m.drop k = ordL cl5 (l.drop k) ∧ Si2 w g A n c l B d m wr
def St2 (w : World) (g : Nat) (A : Option Addr) (n c : Nat) (l : List Int) (B : Option Addr) (d : Nat) (m : List Int) (k : Nat) (i : Value) (wr : World) : Prop := ∃ s t : Nat, k + s = t ∧ t ≤ n ∧ i = .int .i64 t ∧ (∀ x ∈ (l.drop k).take s, 0 < cl5 x) ∧ Si2 w g A n c l B d m wr
def St3 (w : World) (g : Nat) (A : Option Addr) (n c : Nat) (l : List Int) (B : Option Addr) (d : Nat) (m : List Int) (i : Value) (wr : World) : Prop := ∃ q : Nat, (1 ≤ q ∧ q ≤ 256) ∧ i = .int .i64 q ∧ Si2 w g A n c l B d m wr
def St4 (wb : World) (l m : List Int) (k s q : Nat) (a b i : Value) (wr : World) : Prop := ∃ j p : Nat, k + j = p ∧ j ≤ s ∧ i = .int .i64 p ∧ Own2 wr wb.heap.size a b (fq cl5 q ((l.drop k).take j)) (fq cl5 q ((m.drop k).take j)) ∧ Below wb.heap.size wb wr

set_option maxHeartbeats 8000000 in
theorem stab_walk (a0 : Option Addr) (len0 cap0 : Nat) (z0 : List Int) (w : World) (r0 : ArgRow .i64 w a0 len0 cap0 z0) :
    Calls Try.prog 7 #[.slice a0 len0 cap0] w fun e w' => e = .returned (.bool true) ∧ Below w.heap.size w w' := by
  have HR0 := Lib.hid r0
  clear r0
  go_enter Try.func7, Try.ntmps7
  go_wp2_with fail
  with_reducible refine (ubuild_any _).mono ?_
  rintro e w1 ⟨g, rfl, ht, hb⟩
  have HT := Lib.hid ht
  have HB := Lib.hid hb
  clear ht hb
  have HRU := Lib.hid (runes7 (HR0.out.go HB.out))
  go_wp2_with fail
  with_reducible refine HRU.out.mono ?_
  rintro e w3 ⟨A, n, c, l, rfl, hr3, hR3, hn, hb3⟩
  have HS3 : Hid (Si1 w g A n c l w3) := Lib.hid ⟨HT.out.go hb3, hr3, HB.out.trans (hb3.mono HB.out.size)⟩
  have HLN := Lib.hid hr3.len
  clear hr3 hR3 hb3 HT HB HRU HR0
  go_wp2_with fail
  with_reducible refine (order_out _ g _ _ _ _ HS3.out.r HS3.out.t (by omega)).mono ?_
  rintro e w4 ⟨B, n4, d, rfl, hr4, hb4⟩
  obtain rfl : n4 = n := by
    have h1 := hr4.len
    rw [ordL_len, HLN.out] at h1
    exact h1.symm
  have HS4 : Hid (Si2 w g A n4 c l B d (ordL cl5 l) w4) := Lib.hid ⟨HS3.out.t.go hb4, HS3.out.r.go hb4, hr4, HS3.out.be.trans (hb4.mono HS3.out.be.size)⟩
  have HE0 : Hid ((ordL cl5 l).drop 0 = ordL cl5 (l.drop 0)) := Lib.hid (by simp)
  clear hr4 hb4 HS3
  generalize ordL cl5 l = M at *
  have hne : ((n4 : Int) != n4) = false := by simp
  go_wp2_with fail
  go_loopw [6] (fun i wr => St1 w g A n4 c l B d M i wr) (fun i _ => n4 - (intOf i).toNat)
  case atStart => exact ⟨0, by omega, rfl, HE0.out, HS4.out⟩
  case round =>
    obtain ⟨k, hk, rfl, hE, hS⟩ := hrel
    have HE := Lib.hid hE
    have HS := Lib.hid hS
    clear hE hS HS4 HE0
    by_cases hlt : k < n4
    · obtain ⟨b, o, rfl, hbl, hc⟩ := HS.out.r.first (by omega)
      obtain ⟨b2, o2, rfl, hbl2, hc2⟩ := HS.out.s.first (by omega)
      have hkl : k < l.length := by rw [HLN.out]; exact hlt
      have HCELL : Hid (∀ W, Si2 w g (some ⟨b, o, none⟩) n4 c l (some ⟨b2, o2, none⟩) d M W → ∀ j, j < n4 → W.cell? ⟨b, o + j, none⟩ = some (.int .i32 (l.getD j 0)) ∧ W.cell? ⟨b2, o2 + j, none⟩ = some (.int .i32 (M.getD j 0))) := Lib.hid fun W h j hj => by
        obtain ⟨b', o', e, _, hc'⟩ := h.r.first (by omega)
        injection e with e; injection e with e1 e2; subst e1; subst e2
        obtain ⟨b', o', e, _, hc2'⟩ := h.s.first (by omega)
        injection e with e; injection e with e1 e2; subst e1; subst e2
        exact ⟨hc' j hj, hc2' j hj⟩
      have h1 := (HCELL.out _ HS.out k hlt).1
      have hlt' : (k : Int) < n4 := by omega
      have HC := Lib.hid (class7 HS.out.t (l.getD k 0))
      have HX0 := Lib.hid (drop_head l k hkl)
      have HDC : Hid (l.drop k = l.getD k 0 :: l.drop (k + 1)) := Lib.hid (by
        rw [List.drop_eq_getElem_cons hkl]
        simp [List.getD_eq_getElem?_getD, List.getElem?_eq_getElem hkl])
      have hnn := cl5_nn (l.getD k 0)
      clear hc hc2
      by_cases hz : cl5 (l.getD k 0) = 0
      · have HMX : Hid (M.getD k 0 = l.getD k 0 ∧ M.drop (k + 1) = ordL cl5 (l.drop (k + 1))) := Lib.hid (by
          have h := HE.out
          rw [HDC.out, ordL_zero cl5_nn hz] at h
          have h2 := drop_getD M k 0
          rw [h, Nat.add_zero] at h2
          refine ⟨h2.symm, ?_⟩
          have h3 := congrArg (List.drop 1) h
          rw [List.drop_drop] at h3
          simpa using h3)
        have h2 := (HCELL.out _ HS.out k hlt).2
        rw [HMX.out.1] at h2
        rw [hz] at HC
        clear HX0 HDC HCELL
        generalize l.getD k 0 = x at *
        have hzz : ((0 : Int) == 0) = true := rfl
        have hxx : (x != x) = false := by simp
        go_wp2_with fail
        with_reducible refine HC.out.mono ?_
        rintro e w5 ⟨rfl, hs5⟩
        have HS5 := Lib.hid (HS.out.go hs5.below)
        have h1' : w5.cell? ⟨b, o + k, none⟩ = some (.int .i32 x) := (hs5.cell _).trans h1
        have h2' : w5.cell? ⟨b2, o2 + k, none⟩ = some (.int .i32 x) := (hs5.cell _).trans h2
        clear hs5 HS h1 h2
        go_wp2_with fail
        go_quiet (fail)
        go_wp2
        go_roundw
        case rel => exact ⟨k + 1, by omega, by go_num, HMX.out.2, HS5.out.go (below_drewN' (Below.refl _ _) _)⟩
        case measure => simp [intOf]; omega
      · have HP0 : Hid (0 < cl5 (l.getD k 0)) := Lib.hid (by omega)
        have hzz : (cl5 (l.getD k 0) == 0) = false := beq_eq_false_iff_ne.2 hz
        clear HDC hz hnn
        generalize hcx : cl5 (l.getD k 0) = cx at HC hzz
        clear hcx
        generalize hx : l.getD k 0 = x at HC h1
        clear hx
        go_wp2_with fail
        with_reducible refine HC.out.mono ?_
        rintro e w5 ⟨rfl, hs5⟩
        have HS5 := Lib.hid (HS.out.go hs5.below)
        clear hs5 HS h1 HC
        go_wp2_with fail
        go_loopw [7] (fun i wr => St2 w g (some ⟨b, o, none⟩) n4 c l (some ⟨b2, o2, none⟩) d M k i wr) (fun i _ => n4 - (intOf i).toNat)
        case atStart => exact ⟨0, k, rfl, by omega, rfl, by simp, HS5.out⟩
        case round =>
          obtain ⟨s, t, hst, htn, rfl, hP, hS⟩ := hrel
          have HP := Lib.hid hP
          have HS7 := Lib.hid hS
          clear hP hS HS5
          by_cases hlt2 : t < n4
          · have h3 := (HCELL.out _ HS7.out t hlt2).1
            have HC7 := Lib.hid (class7 HS7.out.t (l.getD t 0))
            have hlt2' : (t : Int) < n4 := by omega
            have HSN : Hid ((l.drop k).take (s + 1) = (l.drop k).take s ++ [l.getD t 0]) := Lib.hid (by rw [take_snoc _ _ (by rw [List.length_drop, HLN.out]; omega), drop_getD, hst])
            have HDH := Lib.hid (drop_head l t (by rw [HLN.out]; exact hlt2))
            have hny := cl5_nn (l.getD t 0)
            generalize l.getD t 0 = y at *
            by_cases hy : 0 < cl5 y
            · have hyd : decide (0 < cl5 y) = true := decide_eq_true hy
              have HY := Lib.hid hy
              generalize hcy : cl5 y = cy at HC7 hyd
              clear hcy hy hny
              go_wp2_with fail
              with_reducible refine HC7.out.mono ?_
              rintro e w6 ⟨rfl, hs6⟩
              have HS6 := Lib.hid (HS7.out.go hs6.below)
              clear hs6
              go_wp2
              go_roundw
              case rel => exact ⟨s + 1, t + 1, by omega, by omega, by go_num, by
                rw [HSN.out]; intro z hz
                rcases List.mem_append.1 hz with hz | hz
                · exact HP.out z hz
                · simp at hz; rw [hz]; exact HY.out, HS6.out⟩
              case measure => simp [intOf]; omega
            · have hyd : decide (0 < cl5 y) = false := decide_eq_false hy
              have HEND : Hid (∀ z ∈ (l.drop t).head?, cl5 z = 0) := Lib.hid (by rw [HDH.out]; intro z hz; simp at hz; rw [← hz]; omega)
              generalize hcy : cl5 y = cy at HC7 hyd
              clear hcy hy hny HDH HSN
              go_wp2_with fail
              with_reducible refine HC7.out.mono ?_
              rintro e w6 ⟨rfl, hs6⟩
              have HS8 : Hid (Si2 w g (some ⟨b, o, none⟩) n4 c l (some ⟨b2, o2, none⟩) d M w6) := Lib.hid (HS7.out.go hs6.below)
              clear hs6 HS7 HC7 h3
              have hs1 : 1 ≤ s := by
                apply Classical.byContradiction
                intro h
                obtain rfl : s = 0 := by omega
                have ht : t = k := by omega
                have h := HEND.out (l.getD k 0) (by rw [ht]; exact HX0.out)
                have := HP0.out
                omega
              have HRO : Hid ((M.drop k).take s = ordL cl5 ((l.drop k).take s) ∧ M.drop t = ordL cl5 (l.drop t)) := Lib.hid (by
                obtain ⟨e1, e2⟩ := run_ord cl5_nn HE.out (s := s) (by rw [List.length_drop, HLN.out]; omega) (by rw [List.drop_drop, hst]; exact HEND.out)
                rw [List.drop_drop, List.drop_drop, hst] at e2
                exact ⟨e1, e2⟩)
              have HFQ : Hid (∀ q : Nat, fq cl5 q ((l.drop k).take s) = fq cl5 q ((M.drop k).take s)) := Lib.hid fun q => by rw [HRO.out.1]; exact fq_ord q HP.out
              clear HEND HP HP0 HX0 HE
              go_wp2_with fail
              go_loopw [8] (fun i wr => St3 w g (some ⟨b, o, none⟩) n4 c l (some ⟨b2, o2, none⟩) d M i wr) (fun i _ => 256 - (intOf i).toNat)
              case atStart => exact ⟨1, by omega, rfl, HS8.out⟩
              case round =>
                obtain ⟨q, ⟨hq1, hq2⟩, rfl, hSq⟩ := hrel
                have HS9 := Lib.hid hSq
                clear hSq HS8
                generalize wr = wq at *
                by_cases hq : q < 256
                · have hq' : (q : Int) < 256 := by omega
                  have HN2 : Hid (Own2 wq wq.heap.size (.slice none 0 0) (.slice none 0 0) [] []) := Lib.hid ⟨World.ownsRow_nil _ _ _ _, World.ownsRow_nil _ _ _ _, fun g h => by cases h⟩
                  go_wp2_with fail
                  go_loopw [9, 10, 11] (fun a b i wr => St4 wq l M k s q a b i wr) (fun _ _ i _ => t - (intOf i).toNat)
                  case atStart => exact ⟨0, k, by omega, by omega, rfl, by simpa [fq] using HN2.out, Below.refl _ _⟩
                  case round =>
                    obtain ⟨j, p, hjp, hj, rfl, hO, hb⟩ := hrel
                    have HO := Lib.hid hO
                    have HBE := Lib.hid hb
                    have HS10 : Hid (Si2 w g (some ⟨b, o, none⟩) n4 c l (some ⟨b2, o2, none⟩) d M wr) := Lib.hid (HS9.out.go hb)
                    clear hO hb HN2
                    have hfa := fq_len (cl := cl5) (q : Int) ((l.drop k).take j)
                    have hfb := fq_len (cl := cl5) (q : Int) ((M.drop k).take j)
                    rw [List.length_take] at hfa hfb
                    by_cases hjs : j < s
                    · have hpn : p < n4 := by omega
                      have hpt' : (p : Int) < t := by omega
                      have hpn' : (p : Int) < n4 := by omega
                      have h3 := (HCELL.out _ HS10.out p hpn).1
                      have HCLP : Hid (∀ W, Si2 w g (some ⟨b, o, none⟩) n4 c l (some ⟨b2, o2, none⟩) d M W → W.cell? ⟨b, o + p, none⟩ = some (.int .i32 (l.getD p 0)) ∧ W.cell? ⟨b2, o2 + p, none⟩ = some (.int .i32 (M.getD p 0))) := Lib.hid fun W h => HCELL.out W h p hpn
                      have HCx := Lib.hid (class7 HS10.out.t (l.getD p 0))
                      have HCy : Hid (∀ W, Si2 w g (some ⟨b, o, none⟩) n4 c l (some ⟨b2, o2, none⟩) d M W → Calls Try.prog 23 #[.pointer (some ⟨g, 0, none⟩), .int .i32 (M.getD p 0)] W fun e w' => e = .returned (.int .i64 (cl5 (M.getD p 0))) ∧ Still W w') := Lib.hid fun W h => class7 h.t _
                      have hta : (l.drop k).take (j + 1) = (l.drop k).take j ++ [l.getD p 0] := by rw [take_snoc _ _ (by rw [List.length_drop, HLN.out]; omega), drop_getD, hjp]
                      have htb : (M.drop k).take (j + 1) = (M.drop k).take j ++ [M.getD p 0] := by rw [take_snoc _ _ (by rw [List.length_drop, HS9.out.s.len]; omega), drop_getD, hjp]
                      have HYA : Hid (cl5 (l.getD p 0) = q → fq cl5 q ((l.drop k).take (j + 1)) = fq cl5 q ((l.drop k).take j) ++ [l.getD p 0]) := Lib.hid fun h => by rw [hta, fq_yes _ h]
                      have HNA : Hid (cl5 (l.getD p 0) ≠ q → fq cl5 q ((l.drop k).take (j + 1)) = fq cl5 q ((l.drop k).take j)) := Lib.hid fun h => by rw [hta, fq_no _ h]
                      have HYB : Hid (cl5 (M.getD p 0) = q → fq cl5 q ((M.drop k).take (j + 1)) = fq cl5 q ((M.drop k).take j) ++ [M.getD p 0]) := Lib.hid fun h => by rw [htb, fq_yes _ h]
                      have HNB : Hid (cl5 (M.getD p 0) ≠ q → fq cl5 q ((M.drop k).take (j + 1)) = fq cl5 q ((M.drop k).take j)) := Lib.hid fun h => by rw [htb, fq_no _ h]
                      clear hta htb
                      generalize l.getD p 0 = x at *
                      generalize M.getD p 0 = y at *
                      generalize cl5 x = cx at *
                      generalize cl5 y = cy at *
                      generalize fq cl5 q ((l.drop k).take j) = fx at *
                      generalize fq cl5 q ((M.drop k).take j) = fy at *
                      by_cases hx : cx = q
                      · by_cases hy : cy = q
                        · have ex : (cx == (q : Int)) = true := beq_iff_eq.2 hx
                          have ey : (cy == (q : Int)) = true := beq_iff_eq.2 hy
                          have HFA := Lib.hid (HYA.out hx)
                          have HFB := Lib.hid (HYB.out hy)
                          clear HYA HNA HYB HNB hx hy
                          go_wp2_with fail
                          with_reducible refine HCx.out.mono ?_
                          rintro e w11 ⟨rfl, hs11⟩
                          have HO11 := Lib.hid (HO.out.keep hs11.below)
                          have HS11 := Lib.hid (HS10.out.go hs11.below)
                          have HB11 := Lib.hid (HBE.out.trans (hs11.lower _))
                          have hgw11 : wq.heap.size ≤ w11.heap.size := HB11.out.size
                          clear hs11 HO HS10 HBE h3
                          have h3 := (HCLP.out _ HS11.out).1
                          go_wp2_with (at_builtin; refine wpList_appL rfl (.tmp 81) (.tmp 86) 22 rfl wq.heap.size 21 .i32 4 Try.underlying22 info_i32 (by omega) u9 _ rfl (HO11.out.fa.alloc _) _ _ _ 1 [x] rfl rfl (fun h => by cases h) (Ints.lit w11 21 .i32 [x]) (by simp; omega) (by rw [World.size_alloc]; omega) ?_; intro v12 w12 hO12 hG12; have hn12 := below_new w11 (.cells #[.int .i32 x] 21); have HO12 := Lib.hid ((HO11.out.keep hn12).putA hO12 hG12); have HB12 := Lib.hid ((HB11.out.trans (hn12.mono hgw11)).trans (hG12.below (HO11.out.keep hn12).fa (by rw [World.size_alloc]; omega))); have HS12 : Hid (Si2 w g (some ⟨b, o, none⟩) n4 c l (some ⟨b2, o2, none⟩) d M w12) := Lib.hid (HS9.out.go HB12.out); have h4 := (HCLP.out _ HS12.out).2; clear hn12 hO12 hG12)
                          have hgw12 : wq.heap.size ≤ w12.heap.size := HB12.out.size
                          clear HO11 HB11 HS11 h3
                          have HCy12 := Lib.hid (HCy.out _ HS12.out)
                          with_reducible refine HCy12.out.mono ?_
                          rintro e w13 ⟨rfl, hs13⟩
                          have HO13 := Lib.hid (HO12.out.keep hs13.below)
                          have HB13 := Lib.hid (HB12.out.trans (hs13.lower _))
                          have HS13 : Hid (Si2 w g (some ⟨b, o, none⟩) n4 c l (some ⟨b2, o2, none⟩) d M w13) := Lib.hid (HS9.out.go HB13.out)
                          have hgw13 : wq.heap.size ≤ w13.heap.size := HB13.out.size
                          clear hs13 HO12 HB12 HS12 h4
                          have h4 := (HCLP.out _ HS13.out).2
                          go_wp2_with (at_builtin; refine wpList_appL rfl (.tmp 96) (.tmp 101) 22 rfl wq.heap.size 21 .i32 4 Try.underlying22 info_i32 (by omega) u10 _ rfl (HO13.out.fb.alloc _) _ _ _ 1 [y] rfl rfl (fun h => by cases h) (Ints.lit w13 21 .i32 [y]) (by simp; omega) (by rw [World.size_alloc]; omega) ?_; intro v14 w14 hO14 hG14)
                          have hn14 := below_new w13 (.cells #[.int .i32 y] 21)
                          have HO14 := Lib.hid ((HO13.out.keep hn14).putB hO14 hG14)
                          have HB14 := Lib.hid ((HB13.out.trans (hn14.mono hgw13)).trans (hG14.below (HO13.out.keep hn14).fb (by rw [World.size_alloc]; omega)))
                          clear hn14 hO14 hG14 HO13 HB13 HS13 h4
                          go_wp2
                          go_roundw
                          case rel => exact ⟨j + 1, p + 1, by omega, by omega, by go_num, by rw [HFA.out, HFB.out]; exact HO14.out, HB14.out⟩
                          case measure => simp [intOf]; omega
                        · have ex : (cx == (q : Int)) = true := beq_iff_eq.2 hx
                          have ey : (cy == (q : Int)) = false := beq_eq_false_iff_ne.2 hy
                          have HFA := Lib.hid (HYA.out hx)
                          have HFB := Lib.hid (HNB.out hy)
                          clear HYA HNA HYB HNB hx hy
                          go_wp2_with fail
                          with_reducible refine HCx.out.mono ?_
                          rintro e w11 ⟨rfl, hs11⟩
                          have HO11 := Lib.hid (HO.out.keep hs11.below)
                          have HS11 := Lib.hid (HS10.out.go hs11.below)
                          have HB11 := Lib.hid (HBE.out.trans (hs11.lower _))
                          have hgw11 : wq.heap.size ≤ w11.heap.size := HB11.out.size
                          clear hs11 HO HS10 HBE h3
                          have h3 := (HCLP.out _ HS11.out).1
                          go_wp2_with (at_builtin; refine wpList_appL rfl (.tmp 81) (.tmp 86) 22 rfl wq.heap.size 21 .i32 4 Try.underlying22 info_i32 (by omega) u9 _ rfl (HO11.out.fa.alloc _) _ _ _ 1 [x] rfl rfl (fun h => by cases h) (Ints.lit w11 21 .i32 [x]) (by simp; omega) (by rw [World.size_alloc]; omega) ?_; intro v12 w12 hO12 hG12; have hn12 := below_new w11 (.cells #[.int .i32 x] 21); have HO12 := Lib.hid ((HO11.out.keep hn12).putA hO12 hG12); have HB12 := Lib.hid ((HB11.out.trans (hn12.mono hgw11)).trans (hG12.below (HO11.out.keep hn12).fa (by rw [World.size_alloc]; omega))); have HS12 : Hid (Si2 w g (some ⟨b, o, none⟩) n4 c l (some ⟨b2, o2, none⟩) d M w12) := Lib.hid (HS9.out.go HB12.out); have h4 := (HCLP.out _ HS12.out).2; clear hn12 hO12 hG12)
                          have hgw12 : wq.heap.size ≤ w12.heap.size := HB12.out.size
                          clear HO11 HB11 HS11 h3
                          have HCy12 := Lib.hid (HCy.out _ HS12.out)
                          with_reducible refine HCy12.out.mono ?_
                          rintro e w13 ⟨rfl, hs13⟩
                          have HO13 := Lib.hid (HO12.out.keep hs13.below)
                          have HB13 := Lib.hid (HB12.out.trans (hs13.lower _))
                          have HS13 : Hid (Si2 w g (some ⟨b, o, none⟩) n4 c l (some ⟨b2, o2, none⟩) d M w13) := Lib.hid (HS9.out.go HB13.out)
                          have hgw13 : wq.heap.size ≤ w13.heap.size := HB13.out.size
                          clear hs13 HO12 HB12 HS12 h4
                          go_wp2
                          go_roundw
                          case rel => exact ⟨j + 1, p + 1, by omega, by omega, by go_num, by rw [HFA.out, HFB.out]; exact HO13.out, HB13.out⟩
                          case measure => simp [intOf]; omega
                      · by_cases hy : cy = q
                        · have ex : (cx == (q : Int)) = false := beq_eq_false_iff_ne.2 hx
                          have ey : (cy == (q : Int)) = true := beq_iff_eq.2 hy
                          have HFA := Lib.hid (HNA.out hx)
                          have HFB := Lib.hid (HYB.out hy)
                          clear HYA HNA HYB HNB hx hy
                          go_wp2_with fail
                          with_reducible refine HCx.out.mono ?_
                          rintro e w11 ⟨rfl, hs11⟩
                          have HO11 := Lib.hid (HO.out.keep hs11.below)
                          have HS11 := Lib.hid (HS10.out.go hs11.below)
                          have HB11 := Lib.hid (HBE.out.trans (hs11.lower _))
                          have hgw11 : wq.heap.size ≤ w11.heap.size := HB11.out.size
                          clear hs11 HO HS10 HBE h3
                          have h4 := (HCLP.out _ HS11.out).2
                          have HCy11 := Lib.hid (HCy.out _ HS11.out)
                          go_wp2_with fail
                          with_reducible refine HCy11.out.mono ?_
                          rintro e w13 ⟨rfl, hs13⟩
                          have HO13 := Lib.hid (HO11.out.keep hs13.below)
                          have HB13 := Lib.hid (HB11.out.trans (hs13.lower _))
                          have HS13 : Hid (Si2 w g (some ⟨b, o, none⟩) n4 c l (some ⟨b2, o2, none⟩) d M w13) := Lib.hid (HS9.out.go HB13.out)
                          have hgw13 : wq.heap.size ≤ w13.heap.size := HB13.out.size
                          clear hs13 HO11 HB11 HS11 h4
                          have h4 := (HCLP.out _ HS13.out).2
                          go_wp2_with (at_builtin; refine wpList_appL rfl (.tmp 96) (.tmp 101) 22 rfl wq.heap.size 21 .i32 4 Try.underlying22 info_i32 (by omega) u10 _ rfl (HO13.out.fb.alloc _) _ _ _ 1 [y] rfl rfl (fun h => by cases h) (Ints.lit w13 21 .i32 [y]) (by simp; omega) (by rw [World.size_alloc]; omega) ?_; intro v14 w14 hO14 hG14)
                          have hn14 := below_new w13 (.cells #[.int .i32 y] 21)
                          have HO14 := Lib.hid ((HO13.out.keep hn14).putB hO14 hG14)
                          have HB14 := Lib.hid ((HB13.out.trans (hn14.mono hgw13)).trans (hG14.below (HO13.out.keep hn14).fb (by rw [World.size_alloc]; omega)))
                          clear hn14 hO14 hG14 HO13 HB13 HS13 h4
                          go_wp2
                          go_roundw
                          case rel => exact ⟨j + 1, p + 1, by omega, by omega, by go_num, by rw [HFA.out, HFB.out]; exact HO14.out, HB14.out⟩
                          case measure => simp [intOf]; omega
                        · have ex : (cx == (q : Int)) = false := beq_eq_false_iff_ne.2 hx
                          have ey : (cy == (q : Int)) = false := beq_eq_false_iff_ne.2 hy
                          have HFA := Lib.hid (HNA.out hx)
                          have HFB := Lib.hid (HNB.out hy)
                          clear HYA HNA HYB HNB hx hy
                          go_wp2_with fail
                          with_reducible refine HCx.out.mono ?_
                          rintro e w11 ⟨rfl, hs11⟩
                          have HO11 := Lib.hid (HO.out.keep hs11.below)
                          have HS11 := Lib.hid (HS10.out.go hs11.below)
                          have HB11 := Lib.hid (HBE.out.trans (hs11.lower _))
                          have hgw11 : wq.heap.size ≤ w11.heap.size := HB11.out.size
                          clear hs11 HO HS10 HBE h3
                          have h4 := (HCLP.out _ HS11.out).2
                          have HCy11 := Lib.hid (HCy.out _ HS11.out)
                          go_wp2_with fail
                          with_reducible refine HCy11.out.mono ?_
                          rintro e w13 ⟨rfl, hs13⟩
                          have HO13 := Lib.hid (HO11.out.keep hs13.below)
                          have HB13 := Lib.hid (HB11.out.trans (hs13.lower _))
                          have HS13 : Hid (Si2 w g (some ⟨b, o, none⟩) n4 c l (some ⟨b2, o2, none⟩) d M w13) := Lib.hid (HS9.out.go HB13.out)
                          have hgw13 : wq.heap.size ≤ w13.heap.size := HB13.out.size
                          clear hs13 HO11 HB11 HS11 h4
                          go_wp2
                          go_roundw
                          case rel => exact ⟨j + 1, p + 1, by omega, by omega, by go_num, by rw [HFA.out, HFB.out]; exact HO13.out, HB13.out⟩
                          case measure => simp [intOf]; omega
                    · obtain rfl : j = s := by omega
                      have hpt' : ¬ (p : Int) < t := by omega
                      have hOa := HO.out.fa
                      have hOb := HO.out.fb
                      obtain ⟨Aa, ca, rfl, _, _⟩ := own_form hOa
                      obtain ⟨Ab, cb, rfl, _, _⟩ := own_form hOb
                      have HRa := Lib.hid (RowIn.ofOwn hOa)
                      have HRb := Lib.hid (RowIn.ofOwn hOb)
                      have HFE := Lib.hid (HFQ.out q)
                      clear hOa hOb HO
                      generalize fq cl5 q ((l.drop k).take j) = fx at *
                      generalize fq cl5 q ((M.drop k).take j) = fy at *
                      generalize fx.length = na at *
                      generalize fy.length = nb at *
                      go_wp2_with fail
                      with_reducible refine (same_rows HRa.out HRb.out HFE.out (by omega)).mono ?_
                      rintro e w11 ⟨rfl, hs11⟩
                      have HS11 : Hid (Si2 w g (some ⟨b, o, none⟩) n4 c l (some ⟨b2, o2, none⟩) d M w11) := Lib.hid (HS10.out.go hs11.below)
                      clear hs11
                      go_wp2
                      go_roundw
                      case rel => exact ⟨q + 1, by omega, by go_num, HS11.out⟩
                      case measure => simp [intOf]; omega
                · obtain rfl : q = 256 := by omega
                  have hq' : ¬ (((256 : Nat) : Int)) < 256 := by omega
                  go_wp2
                  go_roundw
                  case rel => exact ⟨t, by omega, by go_num, HRO.out.2, HS9.out⟩
                  case measure => simp [intOf]; omega
          · obtain rfl : t = n4 := by omega
            have hlt2' : decide ((t : Int) < t) = false := decide_eq_false (by omega)
            have HEND : Hid (∀ z ∈ (l.drop t).head?, cl5 z = 0) := Lib.hid fun z hz => by
              rw [List.drop_eq_nil_of_le (by rw [HLN.out]; exact Nat.le_refl _)] at hz
              cases hz
            have HS8 := HS7
            clear HS7
            have hs1 : 1 ≤ s := by
              apply Classical.byContradiction
              intro h
              obtain rfl : s = 0 := by omega
              have ht : t = k := by omega
              have h := HEND.out (l.getD k 0) (by rw [ht]; exact HX0.out)
              have := HP0.out
              omega
            have HRO : Hid ((M.drop k).take s = ordL cl5 ((l.drop k).take s) ∧ M.drop t = ordL cl5 (l.drop t)) := Lib.hid (by
              obtain ⟨e1, e2⟩ := run_ord cl5_nn HE.out (s := s) (by rw [List.length_drop, HLN.out]; omega) (by rw [List.drop_drop, hst]; exact HEND.out)
              rw [List.drop_drop, List.drop_drop, hst] at e2
              exact ⟨e1, e2⟩)
            have HFQ : Hid (∀ q : Nat, fq cl5 q ((l.drop k).take s) = fq cl5 q ((M.drop k).take s)) := Lib.hid fun q => by rw [HRO.out.1]; exact fq_ord q HP.out
            clear HEND HP HP0 HX0 HE
            go_wp2_with fail
            go_loopw [8] (fun i wr => St3 w g (some ⟨b, o, none⟩) t c l (some ⟨b2, o2, none⟩) d M i wr) (fun i _ => 256 - (intOf i).toNat)
            case atStart => exact ⟨1, by omega, rfl, HS8.out⟩
            case round =>
              obtain ⟨q, ⟨hq1, hq2⟩, rfl, hSq⟩ := hrel
              have HS9 := Lib.hid hSq
              clear hSq HS8
              generalize wr = wq at *
              by_cases hq : q < 256
              · have hq' : (q : Int) < 256 := by omega
                have HN2 : Hid (Own2 wq wq.heap.size (.slice none 0 0) (.slice none 0 0) [] []) := Lib.hid ⟨World.ownsRow_nil _ _ _ _, World.ownsRow_nil _ _ _ _, fun g h => by cases h⟩
                go_wp2_with fail
                go_loopw [9, 10, 11] (fun a b i wr => St4 wq l M k s q a b i wr) (fun _ _ i _ => t - (intOf i).toNat)
                case atStart => exact ⟨0, k, by omega, by omega, rfl, by simpa [fq] using HN2.out, Below.refl _ _⟩
                case round =>
                  obtain ⟨j, p, hjp, hj, rfl, hO, hb⟩ := hrel
                  have HO := Lib.hid hO
                  have HBE := Lib.hid hb
                  have HS10 : Hid (Si2 w g (some ⟨b, o, none⟩) t c l (some ⟨b2, o2, none⟩) d M wr) := Lib.hid (HS9.out.go hb)
                  clear hO hb HN2
                  have hfa := fq_len (cl := cl5) (q : Int) ((l.drop k).take j)
                  have hfb := fq_len (cl := cl5) (q : Int) ((M.drop k).take j)
                  rw [List.length_take] at hfa hfb
                  by_cases hjs : j < s
                  · have hpn : p < t := by omega
                    have hpt' : (p : Int) < t := by omega
                    have hpn' : (p : Int) < t := by omega
                    have h3 := (HCELL.out _ HS10.out p hpn).1
                    have HCLP : Hid (∀ W, Si2 w g (some ⟨b, o, none⟩) t c l (some ⟨b2, o2, none⟩) d M W → W.cell? ⟨b, o + p, none⟩ = some (.int .i32 (l.getD p 0)) ∧ W.cell? ⟨b2, o2 + p, none⟩ = some (.int .i32 (M.getD p 0))) := Lib.hid fun W h => HCELL.out W h p hpn
                    have HCx := Lib.hid (class7 HS10.out.t (l.getD p 0))
                    have HCy : Hid (∀ W, Si2 w g (some ⟨b, o, none⟩) t c l (some ⟨b2, o2, none⟩) d M W → Calls Try.prog 23 #[.pointer (some ⟨g, 0, none⟩), .int .i32 (M.getD p 0)] W fun e w' => e = .returned (.int .i64 (cl5 (M.getD p 0))) ∧ Still W w') := Lib.hid fun W h => class7 h.t _
                    have hta : (l.drop k).take (j + 1) = (l.drop k).take j ++ [l.getD p 0] := by rw [take_snoc _ _ (by rw [List.length_drop, HLN.out]; omega), drop_getD, hjp]
                    have htb : (M.drop k).take (j + 1) = (M.drop k).take j ++ [M.getD p 0] := by rw [take_snoc _ _ (by rw [List.length_drop, HS9.out.s.len]; omega), drop_getD, hjp]
                    have HYA : Hid (cl5 (l.getD p 0) = q → fq cl5 q ((l.drop k).take (j + 1)) = fq cl5 q ((l.drop k).take j) ++ [l.getD p 0]) := Lib.hid fun h => by rw [hta, fq_yes _ h]
                    have HNA : Hid (cl5 (l.getD p 0) ≠ q → fq cl5 q ((l.drop k).take (j + 1)) = fq cl5 q ((l.drop k).take j)) := Lib.hid fun h => by rw [hta, fq_no _ h]
                    have HYB : Hid (cl5 (M.getD p 0) = q → fq cl5 q ((M.drop k).take (j + 1)) = fq cl5 q ((M.drop k).take j) ++ [M.getD p 0]) := Lib.hid fun h => by rw [htb, fq_yes _ h]
                    have HNB : Hid (cl5 (M.getD p 0) ≠ q → fq cl5 q ((M.drop k).take (j + 1)) = fq cl5 q ((M.drop k).take j)) := Lib.hid fun h => by rw [htb, fq_no _ h]
                    clear hta htb
                    generalize l.getD p 0 = x at *
                    generalize M.getD p 0 = y at *
                    generalize cl5 x = cx at *
                    generalize cl5 y = cy at *
                    generalize fq cl5 q ((l.drop k).take j) = fx at *
                    generalize fq cl5 q ((M.drop k).take j) = fy at *
                    by_cases hx : cx = q
                    · by_cases hy : cy = q
                      · have ex : (cx == (q : Int)) = true := beq_iff_eq.2 hx
                        have ey : (cy == (q : Int)) = true := beq_iff_eq.2 hy
                        have HFA := Lib.hid (HYA.out hx)
                        have HFB := Lib.hid (HYB.out hy)
                        clear HYA HNA HYB HNB hx hy
                        go_wp2_with fail
                        with_reducible refine HCx.out.mono ?_
                        rintro e w11 ⟨rfl, hs11⟩
                        have HO11 := Lib.hid (HO.out.keep hs11.below)
                        have HS11 := Lib.hid (HS10.out.go hs11.below)
                        have HB11 := Lib.hid (HBE.out.trans (hs11.lower _))
                        have hgw11 : wq.heap.size ≤ w11.heap.size := HB11.out.size
                        clear hs11 HO HS10 HBE h3
                        have h3 := (HCLP.out _ HS11.out).1
                        go_wp2_with (at_builtin; refine wpList_appL rfl (.tmp 81) (.tmp 86) 22 rfl wq.heap.size 21 .i32 4 Try.underlying22 info_i32 (by omega) u9 _ rfl (HO11.out.fa.alloc _) _ _ _ 1 [x] rfl rfl (fun h => by cases h) (Ints.lit w11 21 .i32 [x]) (by simp; omega) (by rw [World.size_alloc]; omega) ?_; intro v12 w12 hO12 hG12; have hn12 := below_new w11 (.cells #[.int .i32 x] 21); have HO12 := Lib.hid ((HO11.out.keep hn12).putA hO12 hG12); have HB12 := Lib.hid ((HB11.out.trans (hn12.mono hgw11)).trans (hG12.below (HO11.out.keep hn12).fa (by rw [World.size_alloc]; omega))); have HS12 : Hid (Si2 w g (some ⟨b, o, none⟩) t c l (some ⟨b2, o2, none⟩) d M w12) := Lib.hid (HS9.out.go HB12.out); have h4 := (HCLP.out _ HS12.out).2; clear hn12 hO12 hG12)
                        have hgw12 : wq.heap.size ≤ w12.heap.size := HB12.out.size
                        clear HO11 HB11 HS11 h3
                        have HCy12 := Lib.hid (HCy.out _ HS12.out)
                        with_reducible refine HCy12.out.mono ?_
                        rintro e w13 ⟨rfl, hs13⟩
                        have HO13 := Lib.hid (HO12.out.keep hs13.below)
                        have HB13 := Lib.hid (HB12.out.trans (hs13.lower _))
                        have HS13 : Hid (Si2 w g (some ⟨b, o, none⟩) t c l (some ⟨b2, o2, none⟩) d M w13) := Lib.hid (HS9.out.go HB13.out)
                        have hgw13 : wq.heap.size ≤ w13.heap.size := HB13.out.size
                        clear hs13 HO12 HB12 HS12 h4
                        have h4 := (HCLP.out _ HS13.out).2
                        go_wp2_with (at_builtin; refine wpList_appL rfl (.tmp 96) (.tmp 101) 22 rfl wq.heap.size 21 .i32 4 Try.underlying22 info_i32 (by omega) u10 _ rfl (HO13.out.fb.alloc _) _ _ _ 1 [y] rfl rfl (fun h => by cases h) (Ints.lit w13 21 .i32 [y]) (by simp; omega) (by rw [World.size_alloc]; omega) ?_; intro v14 w14 hO14 hG14)
                        have hn14 := below_new w13 (.cells #[.int .i32 y] 21)
                        have HO14 := Lib.hid ((HO13.out.keep hn14).putB hO14 hG14)
                        have HB14 := Lib.hid ((HB13.out.trans (hn14.mono hgw13)).trans (hG14.below (HO13.out.keep hn14).fb (by rw [World.size_alloc]; omega)))
                        clear hn14 hO14 hG14 HO13 HB13 HS13 h4
                        go_wp2
                        go_roundw
                        case rel => exact ⟨j + 1, p + 1, by omega, by omega, by go_num, by rw [HFA.out, HFB.out]; exact HO14.out, HB14.out⟩
                        case measure => simp [intOf]; omega
                      · have ex : (cx == (q : Int)) = true := beq_iff_eq.2 hx
                        have ey : (cy == (q : Int)) = false := beq_eq_false_iff_ne.2 hy
                        have HFA := Lib.hid (HYA.out hx)
                        have HFB := Lib.hid (HNB.out hy)
                        clear HYA HNA HYB HNB hx hy
                        go_wp2_with fail
                        with_reducible refine HCx.out.mono ?_
                        rintro e w11 ⟨rfl, hs11⟩
                        have HO11 := Lib.hid (HO.out.keep hs11.below)
                        have HS11 := Lib.hid (HS10.out.go hs11.below)
                        have HB11 := Lib.hid (HBE.out.trans (hs11.lower _))
                        have hgw11 : wq.heap.size ≤ w11.heap.size := HB11.out.size
                        clear hs11 HO HS10 HBE h3
                        have h3 := (HCLP.out _ HS11.out).1
                        go_wp2_with (at_builtin; refine wpList_appL rfl (.tmp 81) (.tmp 86) 22 rfl wq.heap.size 21 .i32 4 Try.underlying22 info_i32 (by omega) u9 _ rfl (HO11.out.fa.alloc _) _ _ _ 1 [x] rfl rfl (fun h => by cases h) (Ints.lit w11 21 .i32 [x]) (by simp; omega) (by rw [World.size_alloc]; omega) ?_; intro v12 w12 hO12 hG12; have hn12 := below_new w11 (.cells #[.int .i32 x] 21); have HO12 := Lib.hid ((HO11.out.keep hn12).putA hO12 hG12); have HB12 := Lib.hid ((HB11.out.trans (hn12.mono hgw11)).trans (hG12.below (HO11.out.keep hn12).fa (by rw [World.size_alloc]; omega))); have HS12 : Hid (Si2 w g (some ⟨b, o, none⟩) t c l (some ⟨b2, o2, none⟩) d M w12) := Lib.hid (HS9.out.go HB12.out); have h4 := (HCLP.out _ HS12.out).2; clear hn12 hO12 hG12)
                        have hgw12 : wq.heap.size ≤ w12.heap.size := HB12.out.size
                        clear HO11 HB11 HS11 h3
                        have HCy12 := Lib.hid (HCy.out _ HS12.out)
                        with_reducible refine HCy12.out.mono ?_
                        rintro e w13 ⟨rfl, hs13⟩
                        have HO13 := Lib.hid (HO12.out.keep hs13.below)
                        have HB13 := Lib.hid (HB12.out.trans (hs13.lower _))
                        have HS13 : Hid (Si2 w g (some ⟨b, o, none⟩) t c l (some ⟨b2, o2, none⟩) d M w13) := Lib.hid (HS9.out.go HB13.out)
                        have hgw13 : wq.heap.size ≤ w13.heap.size := HB13.out.size
                        clear hs13 HO12 HB12 HS12 h4
                        go_wp2
                        go_roundw
                        case rel => exact ⟨j + 1, p + 1, by omega, by omega, by go_num, by rw [HFA.out, HFB.out]; exact HO13.out, HB13.out⟩
                        case measure => simp [intOf]; omega
                    · by_cases hy : cy = q
                      · have ex : (cx == (q : Int)) = false := beq_eq_false_iff_ne.2 hx
                        have ey : (cy == (q : Int)) = true := beq_iff_eq.2 hy
                        have HFA := Lib.hid (HNA.out hx)
                        have HFB := Lib.hid (HYB.out hy)
                        clear HYA HNA HYB HNB hx hy
                        go_wp2_with fail
                        with_reducible refine HCx.out.mono ?_
                        rintro e w11 ⟨rfl, hs11⟩
                        have HO11 := Lib.hid (HO.out.keep hs11.below)
                        have HS11 := Lib.hid (HS10.out.go hs11.below)
                        have HB11 := Lib.hid (HBE.out.trans (hs11.lower _))
                        have hgw11 : wq.heap.size ≤ w11.heap.size := HB11.out.size
                        clear hs11 HO HS10 HBE h3
                        have h4 := (HCLP.out _ HS11.out).2
                        have HCy11 := Lib.hid (HCy.out _ HS11.out)
                        go_wp2_with fail
                        with_reducible refine HCy11.out.mono ?_
                        rintro e w13 ⟨rfl, hs13⟩
                        have HO13 := Lib.hid (HO11.out.keep hs13.below)
                        have HB13 := Lib.hid (HB11.out.trans (hs13.lower _))
                        have HS13 : Hid (Si2 w g (some ⟨b, o, none⟩) t c l (some ⟨b2, o2, none⟩) d M w13) := Lib.hid (HS9.out.go HB13.out)
                        have hgw13 : wq.heap.size ≤ w13.heap.size := HB13.out.size
                        clear hs13 HO11 HB11 HS11 h4
                        have h4 := (HCLP.out _ HS13.out).2
                        go_wp2_with (at_builtin; refine wpList_appL rfl (.tmp 96) (.tmp 101) 22 rfl wq.heap.size 21 .i32 4 Try.underlying22 info_i32 (by omega) u10 _ rfl (HO13.out.fb.alloc _) _ _ _ 1 [y] rfl rfl (fun h => by cases h) (Ints.lit w13 21 .i32 [y]) (by simp; omega) (by rw [World.size_alloc]; omega) ?_; intro v14 w14 hO14 hG14)
                        have hn14 := below_new w13 (.cells #[.int .i32 y] 21)
                        have HO14 := Lib.hid ((HO13.out.keep hn14).putB hO14 hG14)
                        have HB14 := Lib.hid ((HB13.out.trans (hn14.mono hgw13)).trans (hG14.below (HO13.out.keep hn14).fb (by rw [World.size_alloc]; omega)))
                        clear hn14 hO14 hG14 HO13 HB13 HS13 h4
                        go_wp2
                        go_roundw
                        case rel => exact ⟨j + 1, p + 1, by omega, by omega, by go_num, by rw [HFA.out, HFB.out]; exact HO14.out, HB14.out⟩
                        case measure => simp [intOf]; omega
                      · have ex : (cx == (q : Int)) = false := beq_eq_false_iff_ne.2 hx
                        have ey : (cy == (q : Int)) = false := beq_eq_false_iff_ne.2 hy
                        have HFA := Lib.hid (HNA.out hx)
                        have HFB := Lib.hid (HNB.out hy)
                        clear HYA HNA HYB HNB hx hy
                        go_wp2_with fail
                        with_reducible refine HCx.out.mono ?_
                        rintro e w11 ⟨rfl, hs11⟩
                        have HO11 := Lib.hid (HO.out.keep hs11.below)
                        have HS11 := Lib.hid (HS10.out.go hs11.below)
                        have HB11 := Lib.hid (HBE.out.trans (hs11.lower _))
                        have hgw11 : wq.heap.size ≤ w11.heap.size := HB11.out.size
                        clear hs11 HO HS10 HBE h3
                        have h4 := (HCLP.out _ HS11.out).2
                        have HCy11 := Lib.hid (HCy.out _ HS11.out)
                        go_wp2_with fail
                        with_reducible refine HCy11.out.mono ?_
                        rintro e w13 ⟨rfl, hs13⟩
                        have HO13 := Lib.hid (HO11.out.keep hs13.below)
                        have HB13 := Lib.hid (HB11.out.trans (hs13.lower _))
                        have HS13 : Hid (Si2 w g (some ⟨b, o, none⟩) t c l (some ⟨b2, o2, none⟩) d M w13) := Lib.hid (HS9.out.go HB13.out)
                        have hgw13 : wq.heap.size ≤ w13.heap.size := HB13.out.size
                        clear hs13 HO11 HB11 HS11 h4
                        go_wp2
                        go_roundw
                        case rel => exact ⟨j + 1, p + 1, by omega, by omega, by go_num, by rw [HFA.out, HFB.out]; exact HO13.out, HB13.out⟩
                        case measure => simp [intOf]; omega
                  · obtain rfl : j = s := by omega
                    have hpt' : ¬ (p : Int) < t := by omega
                    have hOa := HO.out.fa
                    have hOb := HO.out.fb
                    obtain ⟨Aa, ca, rfl, _, _⟩ := own_form hOa
                    obtain ⟨Ab, cb, rfl, _, _⟩ := own_form hOb
                    have HRa := Lib.hid (RowIn.ofOwn hOa)
                    have HRb := Lib.hid (RowIn.ofOwn hOb)
                    have HFE := Lib.hid (HFQ.out q)
                    clear hOa hOb HO
                    generalize fq cl5 q ((l.drop k).take j) = fx at *
                    generalize fq cl5 q ((M.drop k).take j) = fy at *
                    generalize fx.length = na at *
                    generalize fy.length = nb at *
                    go_wp2_with fail
                    with_reducible refine (same_rows HRa.out HRb.out HFE.out (by omega)).mono ?_
                    rintro e w11 ⟨rfl, hs11⟩
                    have HS11 : Hid (Si2 w g (some ⟨b, o, none⟩) t c l (some ⟨b2, o2, none⟩) d M w11) := Lib.hid (HS10.out.go hs11.below)
                    clear hs11
                    go_wp2
                    go_roundw
                    case rel => exact ⟨q + 1, by omega, by go_num, HS11.out⟩
                    case measure => simp [intOf]; omega
              · obtain rfl : q = 256 := by omega
                have hq' : ¬ (((256 : Nat) : Int)) < 256 := by omega
                go_wp2
                go_roundw
                case rel => exact ⟨t, by omega, by go_num, HRO.out.2, HS9.out⟩
                case measure => simp [intOf]; omega
    · have hkk : k = n4 := by omega
      subst hkk
      have hlt' : ¬ (k : Int) < k := by omega
      go_wp2_with fail
      with_reducible refine (awake_any _ _ HS.out.t).mono ?_
      rintro e w12 ⟨rfl, hb12⟩
      have HB12 := Lib.hid (HS.out.go hb12).be
      clear hb12
      go_wp2
      go_ret
      exact ⟨rfl, HB12.out⟩
end Go.Proofs.Ytjfeibjehkapcaa
