/- The walk of Utf16Lone. -/
import Derived.Test.YtmidoopapfkilaaU16OrdWalk
import Derived.Test.YtmidoopapfkilaaReg
namespace Go.Proofs.Ytmidoopapfkilaa
open Go.ChangeShapes Go.WideShapes Go.ChangeAt Go.RowKit
set_option linter.unusedVariables false

theorem first_unit {c : Int} (h : isB c = true) : ∃ x r, un1 c = x :: r ∧ lowB x = false := by
  rcases un1_cases c with ⟨hi, e⟩ | ⟨hi, hx, e⟩ | ⟨hx, hg, e⟩
  · rw [h] at hi; cases hi
  · have := of_decide_eq_true hi
    exact ⟨c, [], e, decide_eq_false (by omega)⟩
  · exact ⟨_, _, e, decide_eq_false (by omega)⟩
theorem U16s.one {h : Int} (h0 : 0 ≤ h) (h1 : h ≤ 65535) : U16s [h] := fun x hx => by simp at hx; omega
theorem Scals.take {l : List Int} (h : Scals l) (k : Nat) : Scals (l.take k) := fun c hc => h c (List.mem_of_mem_take hc)
theorem Scals.drop {l : List Int} (h : Scals l) (k : Nat) : Scals (l.drop k) := fun c hc => h c (List.mem_of_mem_drop hc)
theorem lone {a b : List Int} (ha : Scals a) (hb : Scals b) {h : Int} (h0 : 55296 ≤ h) (h1 : h ≤ 57343) : scS (uns a ++ ([h] ++ uns b)) = ([], (uns a).length, false) := by
  have hs := ScAt.uns ha ([h] ++ uns b) a.length (Nat.le_refl _)
  rw [List.take_length] at hs
  have g : (uns a ++ ([h] ++ uns b)).getD (uns a).length 0 = h := getD_mid _ _ _
  refine hs.fail (by simp) (by rw [g]; exact decide_eq_false (by omega)) fun hl => ?_
  rw [g]
  cases b with
  | nil => simp [uns_nil] at hl
  | cons c b =>
    obtain ⟨x, r, e, hx⟩ := first_unit (hb c (by simp))
    have g1 : (uns a ++ ([h] ++ uns (c :: b))).getD ((uns a).length + 1) 0 = x := by
      rw [uns_cons, e]; exact getD_mid1 _ _ _ _
    rw [g1]
    have := of_decide_eq_false hx
    exact decide_eq_false (by omega)

theorem Ints.tail {w : World} {B : Nat} {kd : IntKind} {A : Option Addr} {xs : List Int} (h : Ints w B kd A xs) (n c : Nat) (hc : c = n → xs.length ≤ n) : Ints w B kd (if c = n then A else Option.map (fun x => x.add n) A) (xs.drop n) := by
  by_cases e : c = n
  · rw [List.drop_eq_nil_of_le (hc e)]; exact .inl rfl
  · rw [if_neg e]
    rcases h with h | ⟨b, o, rfl, hl, hcl⟩
    · subst h; exact .inl (by simp)
    · have ha : (⟨b, o, none⟩ : Addr).add n = ⟨b, o + n, none⟩ := by unfold Addr.add; split <;> simp_all
      rw [Option.map_some, ha]
      exact Ints.drop (.inr ⟨b, o, rfl, hl, hcl⟩) n

/-- a row, told by its cells, its length by a letter -/
def RowSn (k : IntKind) (w : World) (zs : List Int) (e : Ending) (w' : World) : Prop :=
  ∃ A n c, e = .returned (.slice A n c) ∧ zs.length = n ∧ Ints w' w'.heap.size k A zs ∧ (A = none → c = 0) ∧ Grow w w'
theorem RowRes.sn {t : TypeId} {k : IntKind} {w w' : World} {zs : List Int} {e : Ending} (h : RowRes t k w zs e w') : RowSn k w zs e w' := by
  obtain ⟨v, rfl, hO, hb⟩ := h
  obtain ⟨A, c, rfl, hc, hcm⟩ := own_form hO
  exact ⟨A, _, c, rfl, rfl, Ints.own hO, own_nil hO, hb⟩

set_option maxHeartbeats 4000000 in
theorem lone_walk (a0 : Option Addr) (len0 cap0 : Nat) (z0 : List Int) (p u : Int) (w : World) (r0 : ArgRow .i64 w a0 len0 cap0 z0) (u0 : 0 ≤ u) (u1 : u ≤ 65535) :
    Calls Try.prog 7 #[.slice a0 len0 cap0, .int .i64 p, .int .u16 u] w fun e w' => e = .returned (.bool true) ∧ Below w.heap.size w w' := by
  go_enter Try.func7, Try.ntmps7
  go_wp2_with fail
  with_reducible refine (Calls.mono (runes_any a0 len0 cap0 z0 w r0) (fun _ _ h => SomeRow.sl h)).mono ?_
  rintro e w1 ⟨A, n, c, l, rfl, hl, hI, hz, hc, hS, hl60, hb1⟩
  have HL := Lib.hid hl
  have HI := Lib.hid hI
  have HZ := Lib.hid hz
  have HS := Lib.hid hS
  clear hl hI hz hS r0
  go_wp2_with fail
  with_reducible refine (place_any p (n + 1) w1 (by omega) (by omega)).mono ?_
  rintro e w' ⟨rfl, rfl⟩
  obtain ⟨k, hk⟩ : ∃ k : Nat, p % ((n : Int) + 1) = k := Int.eq_ofNat_of_zero_le (Int.emod_nonneg _ (by omega))
  have hkn : k ≤ n := by have := Int.emod_lt_of_pos p (by omega : (0 : Int) < n + 1); omega
  rw [hk]
  clear hk
  have hcm := hc.2
  have hcn := hc.1
  unfold maxLen at hcm
  clear hc
  have hkc : k ≤ c := by omega
  have HD := Lib.hid (HI.out.tail k c (by rw [HL.out]; omega))
  have hh : ∃ h, 55296 + u % 2048 = h ∧ 55296 ≤ h ∧ h ≤ 57343 := ⟨_, rfl, by omega, by omega⟩
  obtain ⟨h, hh, hh0, hh1⟩ := hh
  have HH := Lib.hid hh
  clear hh
  by_cases hck : c = k
  · rw [if_pos hck] at HD
    obtain rfl : k = c := hck.symm
    go_wp2_with fail
    rw [HH.out]
    refine wp_region_G (by kernel_rfl) ?_
    have hg4 := Grow.drew w1
    generalize w1.drew = w4 at hg4 ⊢
    refine wpG_take 0 26 (v := ?v0) rfl rfl (by kernel_rfl) (by kernel_rfl) (by kernel_rfl) (fun _ _ _ h => h) (Or.inl ⟨by rfl, ?y0⟩) ?r0
    case y0 => (intro W hW; (go_simp; try with_reducible rfl))
    simp only [Act.put, List.setIfInBounds_toArray, List.set_cons_zero, List.set_cons_succ]
    refine wpG_take 1 27 (v := ?v1) rfl rfl (by kernel_rfl) (by kernel_rfl) (by kernel_rfl) (fun _ _ _ h => h) (Or.inl ⟨by rfl, ?y1⟩) ?r1
    case y1 => (intro W hW; (go_simp; try with_reducible rfl))
    simp only [Act.put, List.setIfInBounds_toArray, List.set_cons_zero, List.set_cons_succ]
    refine wpG_take 2 28 (v := ?v2) rfl rfl (by kernel_rfl) (by kernel_rfl) (by kernel_rfl) (fun _ _ _ h => h) (Or.inl ⟨by rfl, ?y2⟩) ?r2
    case y2 => (intro W hW; (go_simp; try with_reducible rfl))
    simp only [Act.put, List.setIfInBounds_toArray, List.set_cons_zero, List.set_cons_succ]
    refine wpG_take 4 30 (v := ?v4) rfl rfl (by kernel_rfl) (by kernel_rfl) (by kernel_rfl) (fun _ _ _ h => h) (Or.inl ⟨by rfl, ?y4⟩) ?r4
    case y4 => (intro W hW; (go_simp; try with_reducible rfl))
    simp only [Act.put, List.setIfInBounds_toArray, List.set_cons_zero, List.set_cons_succ]
    refine wpG_take 5 31 (v := ?v5) rfl rfl (by kernel_rfl) (by kernel_rfl) (by kernel_rfl) (fun _ _ _ h => h) (Or.inl ⟨by rfl, ?y5⟩) ?r5
    case y5 => (intro W hW; (go_simp; try with_reducible rfl))
    simp only [Act.put, List.setIfInBounds_toArray, List.set_cons_zero, List.set_cons_succ]
    refine wpG_take 6 32 (v := ?v6) rfl rfl (by kernel_rfl) (by kernel_rfl) (by kernel_rfl) (fun _ _ _ h => h) (Or.inl ⟨by rfl, ?y6⟩) ?r6
    case y6 => (intro W hW; (go_simp; try with_reducible rfl))
    simp only [Act.put, List.setIfInBounds_toArray, List.set_cons_zero, List.set_cons_succ]
    refine wpG_call 3 (by kernel_rfl) rfl (fun K hK => ?_)
    go_simp
    with_reducible refine (Calls.mono (r_unitsL_any A k k (l.take k) w4 (by rw [List.length_take, HL.out]; omega) ((HI.out.take k).grow hg4) (by omega)) (fun _ _ h => RowRes.sn h)).mono ?_
    rintro e w5 ⟨A5, n5, c5, rfl, hn5, hI5, hz5, hg45⟩
    have hg5 := hg4.trans hg45
    have HI5 := Lib.hid hI5
    have HN5 := Lib.hid hn5
    have HZ5 := Lib.hid hz5
    clear hI5 hn5 hz5
    go_wp2_with fail
    refine hK.out _ _ ?_ ?_
    · exact hg45
    clear hK K
    refine wpG_call 7 (by kernel_rfl) rfl (fun K hK => ?_)
    go_simp
    with_reducible refine (Calls.mono (r_unitsL_any A 0 0 (l.drop k) w5 (by rw [List.length_drop, HL.out]; omega) (HD.out.grow hg5) (by omega)) (fun _ _ h => RowRes.sn h)).mono ?_
    rintro e w6 ⟨A6, n6, c6, rfl, hn6, hI6, hz6, hg56⟩
    have hg6 := hg5.trans hg56
    have HI6 := Lib.hid hI6
    have HN6 := Lib.hid hn6
    have HZ6 := Lib.hid hz6
    clear hI6 hn6 hz6
    go_wp2_with fail
    refine hK.out _ _ ?_ ?_
    · exact hg56
    clear hK K
    refine wpG_take 8 10 (v := ?v8) rfl rfl (by kernel_rfl) (by kernel_rfl) (by kernel_rfl) (fun _ _ _ h => h) (Or.inl ⟨by rfl, ?y8⟩) ?r8
    case y8 => (intro W hW; (go_simp; try with_reducible rfl))
    simp only [Act.put, List.setIfInBounds_toArray, List.set_cons_zero, List.set_cons_succ]
    refine wpG_take 9 11 (v := ?v9) rfl rfl (by kernel_rfl) (by kernel_rfl) (by kernel_rfl) (fun _ _ _ h => h) (Or.inl ⟨by rfl, ?y9⟩) ?r9
    case y9 => (intro W hW; (go_simp; try with_reducible rfl))
    simp only [Act.put, List.setIfInBounds_toArray, List.set_cons_zero, List.set_cons_succ]
    refine wpG_done (by kernel_rfl) ?_ _
    have hb6 := hb1.trans (hg6.below.mono hb1.size)
    have HJ5 := Lib.hid (HI5.out.grow hg56)
    have HLO := Lib.hid (lone (Scals.take HS.out k) (Scals.drop HS.out k) hh0 hh1)
    have hl5 := uns_len (l.take k)
    have hl6 := uns_len (l.drop k)
    rw [HN5.out, List.length_take, HL.out] at hl5
    rw [HN6.out, List.length_drop, HL.out] at hl6
    have hU5 := uns_u16 (l.take k)
    have hU6 := uns_u16 (l.drop k)
    have HUU : Hid (U16s (uns (l.take k) ++ ([h] ++ uns (l.drop k)))) := hU5.app ((U16s.one (by omega) (by omega)).app hU6)
    clear hU5 hU6 HI5 HI HD HH hg56 hg45 hg4 hg5 hg6
    generalize uns (l.take k) = ua at *
    generalize uns (l.drop k) = ub at *
    have hk5 : n5 ≤ 120 := by omega
    have hk6 : n6 ≤ 120 := by omega
    have hla : ua.length ≤ 120 := by rw [HN5.out]; exact hk5
    clear hl5 hl6
    go_wp2_with (first
      | (at_builtin; refine wpList_app_n rfl (.tmp 34) (.tmp 35) 23 rfl w6.heap.size 43 .u16 2 Try.underlying23 info_u16 (by omega) _ _ rfl (own_empty w6 _ 43 .u16 (Nat.le_refl _)) _ A5 n5 c5 ua HN5.out rfl HZ5.out (HJ5.out.below (B' := w6.heap.size) ((Below.refl _ _).alloc (Nat.le_refl _) _) (Nat.le_refl _)) (by simp; omega) (by simp) ?_; intro v7 w7 hO7 hg7
         have hb67 : Below w6.heap.size w6 w7 := ((Below.refl _ w6).alloc (Nat.le_refl _) _).trans (own_grown_below (own_empty w6 _ 43 .u16 (Nat.le_refl _)) hg7 (by simp))
         have HO7 := Lib.hid hO7
         clear hO7 hg7)
      | (at_builtin; refine wpList_app_n rfl (.tmp 36) (.tmp 38) 23 rfl w6.heap.size 43 .u16 2 Try.underlying23 info_u16 (by omega) _ _ rfl (HO7.out.alloc _) _ (some ⟨w7.heap.size, 0, none⟩) 1 1 [h] rfl rfl (fun h => by cases h) (Ints.lit w7 43 .u16 [h]) (by simp; omega) (by simp; have := hb67.size; omega) ?_; intro v8 w8 hO8 hg8
         have hb68 : Below w6.heap.size w6 w8 := (hb67.alloc hb67.size _).trans (own_grown_below (HO7.out.alloc _) hg8 (by simp; have := hb67.size; omega))
         have HO8 := Lib.hid hO8
         clear hO8 hg8)
      | (at_builtin; refine wpList_app_n rfl (.tmp 39) (.tmp 40) 23 rfl w6.heap.size 43 .u16 2 Try.underlying23 info_u16 (by omega) _ _ rfl HO8.out _ A6 n6 c6 ub HN6.out rfl HZ6.out (HI6.out.below hb68 (Nat.le_refl _)) (by simp; omega) hb68.size ?_; intro v9 w9 hO9 hg9
         have hb69 : Below w6.heap.size w6 w9 := hb68.trans (own_grown_below HO8.out hg9 hb68.size)
         clear hg9
         have e9 : [] ++ ua ++ [h] ++ ub = ua ++ ([h] ++ ub) := by simp
         rw [e9] at hO9
         obtain ⟨A9, c9, rfl, h9c, h9m⟩ := own_form hO9
         have HI9 := Lib.hid (Ints.own hO9)
         clear e9 hO9
         generalize hL9 : (ua ++ ([h] ++ ub)).length = k9 at h9c ⊢
         have HK9 := Lib.hid hL9
         clear hL9))
    have hb9 := hb6.trans (hb69.mono hb6.size)
    have hl9 : k9 ≤ 262144 := by rw [← HK9.out, List.length_append, List.length_append, HN5.out, HN6.out]; simp; omega
    clear hb69 hb68 hb67 HO7 HO8
    with_reducible refine (Calls.mono (scalars_any A9 k9 c9 (ua ++ ([h] ++ ub)) w9 HK9.out HI9.out HUU.out hl9 h9c h9m) (fun _ _ h => ScRes.sl h)).mono ?_
    rintro e w10 ⟨A10, c10, rfl, _, hb10'⟩
    rw [HLO.out]
    have hb10 := hb9.trans (hb10'.mono hb9.size)
    clear hb10' hl9 h9c h9m HI9
    have en : (([] : List Int), ua.length, false).2.1 = n5 := HN5.out
    rw [en]
    have hnn : ((n5 : Int) == n5) = true := by simp
    go_wp2_with fail
    with_reducible refine (awake_any _).mono ?_
    rintro e w11 ⟨rfl, hb11'⟩
    have hb11 := hb10.trans (hb11'.mono hb10.size)
    go_wp2
    go_ret
    exact ⟨rfl, hb11⟩
  · rw [if_neg hck] at HD
    go_wp2_with fail
    rw [HH.out]
    refine wp_region_G (by kernel_rfl) ?_
    have hg4 := Grow.drew w1
    generalize w1.drew = w4 at hg4 ⊢
    refine wpG_take 0 26 (v := ?vb0) rfl rfl (by kernel_rfl) (by kernel_rfl) (by kernel_rfl) (fun _ _ _ h => h) (Or.inl ⟨by rfl, ?yb0⟩) ?rb0
    case yb0 => (intro W hW; (go_simp; try with_reducible rfl))
    simp only [Act.put, List.setIfInBounds_toArray, List.set_cons_zero, List.set_cons_succ]
    refine wpG_take 1 27 (v := ?vb1) rfl rfl (by kernel_rfl) (by kernel_rfl) (by kernel_rfl) (fun _ _ _ h => h) (Or.inl ⟨by rfl, ?yb1⟩) ?rb1
    case yb1 => (intro W hW; (go_simp; try with_reducible rfl))
    simp only [Act.put, List.setIfInBounds_toArray, List.set_cons_zero, List.set_cons_succ]
    refine wpG_take 2 28 (v := ?vb2) rfl rfl (by kernel_rfl) (by kernel_rfl) (by kernel_rfl) (fun _ _ _ h => h) (Or.inl ⟨by rfl, ?yb2⟩) ?rb2
    case yb2 => (intro W hW; (go_simp; try with_reducible rfl))
    simp only [Act.put, List.setIfInBounds_toArray, List.set_cons_zero, List.set_cons_succ]
    refine wpG_take 4 30 (v := ?vb4) rfl rfl (by kernel_rfl) (by kernel_rfl) (by kernel_rfl) (fun _ _ _ h => h) (Or.inl ⟨by rfl, ?yb4⟩) ?rb4
    case yb4 => (intro W hW; (go_simp; try with_reducible rfl))
    simp only [Act.put, List.setIfInBounds_toArray, List.set_cons_zero, List.set_cons_succ]
    refine wpG_take 5 31 (v := ?vb5) rfl rfl (by kernel_rfl) (by kernel_rfl) (by kernel_rfl) (fun _ _ _ h => h) (Or.inl ⟨by rfl, ?yb5⟩) ?rb5
    case yb5 => (intro W hW; (go_simp; try with_reducible rfl))
    simp only [Act.put, List.setIfInBounds_toArray, List.set_cons_zero, List.set_cons_succ]
    refine wpG_take 6 32 (v := ?vb6) rfl rfl (by kernel_rfl) (by kernel_rfl) (by kernel_rfl) (fun _ _ _ h => h) (Or.inl ⟨by rfl, ?yb6⟩) ?rb6
    case yb6 => (intro W hW; (go_simp; try with_reducible rfl))
    simp only [Act.put, List.setIfInBounds_toArray, List.set_cons_zero, List.set_cons_succ]
    refine wpG_call 3 (by kernel_rfl) rfl (fun K hK => ?_)
    go_simp
    with_reducible refine (Calls.mono (r_unitsL_any A k c (l.take k) w4 (by rw [List.length_take, HL.out]; omega) ((HI.out.take k).grow hg4) (by omega)) (fun _ _ h => RowRes.sn h)).mono ?_
    rintro e w5 ⟨A5, n5, c5, rfl, hn5, hI5, hz5, hg45⟩
    have hg5 := hg4.trans hg45
    have HI5 := Lib.hid hI5
    have HN5 := Lib.hid hn5
    have HZ5 := Lib.hid hz5
    clear hI5 hn5 hz5
    go_wp2_with fail
    refine hK.out _ _ ?_ ?_
    · exact hg45
    clear hK K
    refine wpG_call 7 (by kernel_rfl) rfl (fun K hK => ?_)
    go_simp
    with_reducible refine (Calls.mono (r_unitsL_any (Option.map (fun x => x.add k) A) (n - k) (c - k) (l.drop k) w5 (by rw [List.length_drop, HL.out]) (HD.out.grow hg5) (by omega)) (fun _ _ h => RowRes.sn h)).mono ?_
    rintro e w6 ⟨A6, n6, c6, rfl, hn6, hI6, hz6, hg56⟩
    have hg6 := hg5.trans hg56
    have HI6 := Lib.hid hI6
    have HN6 := Lib.hid hn6
    have HZ6 := Lib.hid hz6
    clear hI6 hn6 hz6
    go_wp2_with fail
    refine hK.out _ _ ?_ ?_
    · exact hg56
    clear hK K
    refine wpG_take 8 10 (v := ?vb8) rfl rfl (by kernel_rfl) (by kernel_rfl) (by kernel_rfl) (fun _ _ _ h => h) (Or.inl ⟨by rfl, ?yb8⟩) ?rb8
    case yb8 => (intro W hW; (go_simp; try with_reducible rfl))
    simp only [Act.put, List.setIfInBounds_toArray, List.set_cons_zero, List.set_cons_succ]
    refine wpG_take 9 11 (v := ?vb9) rfl rfl (by kernel_rfl) (by kernel_rfl) (by kernel_rfl) (fun _ _ _ h => h) (Or.inl ⟨by rfl, ?yb9⟩) ?rb9
    case yb9 => (intro W hW; (go_simp; try with_reducible rfl))
    simp only [Act.put, List.setIfInBounds_toArray, List.set_cons_zero, List.set_cons_succ]
    refine wpG_done (by kernel_rfl) ?_ _
    have hb6 := hb1.trans (hg6.below.mono hb1.size)
    have HJ5 := Lib.hid (HI5.out.grow hg56)
    have HLO := Lib.hid (lone (Scals.take HS.out k) (Scals.drop HS.out k) hh0 hh1)
    have hl5 := uns_len (l.take k)
    have hl6 := uns_len (l.drop k)
    rw [HN5.out, List.length_take, HL.out] at hl5
    rw [HN6.out, List.length_drop, HL.out] at hl6
    have hU5 := uns_u16 (l.take k)
    have hU6 := uns_u16 (l.drop k)
    have HUU : Hid (U16s (uns (l.take k) ++ ([h] ++ uns (l.drop k)))) := hU5.app ((U16s.one (by omega) (by omega)).app hU6)
    clear hU5 hU6 HI5 HI HD HH hg56 hg45 hg4 hg5 hg6
    generalize uns (l.take k) = ua at *
    generalize uns (l.drop k) = ub at *
    have hk5 : n5 ≤ 120 := by omega
    have hk6 : n6 ≤ 120 := by omega
    have hla : ua.length ≤ 120 := by rw [HN5.out]; exact hk5
    clear hl5 hl6
    go_wp2_with (first
      | (at_builtin; refine wpList_app_n rfl (.tmp 34) (.tmp 35) 23 rfl w6.heap.size 43 .u16 2 Try.underlying23 info_u16 (by omega) _ _ rfl (own_empty w6 _ 43 .u16 (Nat.le_refl _)) _ A5 n5 c5 ua HN5.out rfl HZ5.out (HJ5.out.below (B' := w6.heap.size) ((Below.refl _ _).alloc (Nat.le_refl _) _) (Nat.le_refl _)) (by simp; omega) (by simp) ?_; intro v7 w7 hO7 hg7
         have hb67 : Below w6.heap.size w6 w7 := ((Below.refl _ w6).alloc (Nat.le_refl _) _).trans (own_grown_below (own_empty w6 _ 43 .u16 (Nat.le_refl _)) hg7 (by simp))
         have HO7 := Lib.hid hO7
         clear hO7 hg7)
      | (at_builtin; refine wpList_app_n rfl (.tmp 36) (.tmp 38) 23 rfl w6.heap.size 43 .u16 2 Try.underlying23 info_u16 (by omega) _ _ rfl (HO7.out.alloc _) _ (some ⟨w7.heap.size, 0, none⟩) 1 1 [h] rfl rfl (fun h => by cases h) (Ints.lit w7 43 .u16 [h]) (by simp; omega) (by simp; have := hb67.size; omega) ?_; intro v8 w8 hO8 hg8
         have hb68 : Below w6.heap.size w6 w8 := (hb67.alloc hb67.size _).trans (own_grown_below (HO7.out.alloc _) hg8 (by simp; have := hb67.size; omega))
         have HO8 := Lib.hid hO8
         clear hO8 hg8)
      | (at_builtin; refine wpList_app_n rfl (.tmp 39) (.tmp 40) 23 rfl w6.heap.size 43 .u16 2 Try.underlying23 info_u16 (by omega) _ _ rfl HO8.out _ A6 n6 c6 ub HN6.out rfl HZ6.out (HI6.out.below hb68 (Nat.le_refl _)) (by simp; omega) hb68.size ?_; intro v9 w9 hO9 hg9
         have hb69 : Below w6.heap.size w6 w9 := hb68.trans (own_grown_below HO8.out hg9 hb68.size)
         clear hg9
         have e9 : [] ++ ua ++ [h] ++ ub = ua ++ ([h] ++ ub) := by simp
         rw [e9] at hO9
         obtain ⟨A9, c9, rfl, h9c, h9m⟩ := own_form hO9
         have HI9 := Lib.hid (Ints.own hO9)
         clear e9 hO9
         generalize hL9 : (ua ++ ([h] ++ ub)).length = k9 at h9c ⊢
         have HK9 := Lib.hid hL9
         clear hL9))
    have hb9 := hb6.trans (hb69.mono hb6.size)
    have hl9 : k9 ≤ 262144 := by rw [← HK9.out, List.length_append, List.length_append, HN5.out, HN6.out]; simp; omega
    clear hb69 hb68 hb67 HO7 HO8
    with_reducible refine (Calls.mono (scalars_any A9 k9 c9 (ua ++ ([h] ++ ub)) w9 HK9.out HI9.out HUU.out hl9 h9c h9m) (fun _ _ h => ScRes.sl h)).mono ?_
    rintro e w10 ⟨A10, c10, rfl, _, hb10'⟩
    rw [HLO.out]
    have hb10 := hb9.trans (hb10'.mono hb9.size)
    clear hb10' hl9 h9c h9m HI9
    have en : (([] : List Int), ua.length, false).2.1 = n5 := HN5.out
    rw [en]
    have hnn : ((n5 : Int) == n5) = true := by simp
    go_wp2_with fail
    with_reducible refine (awake_any _).mono ?_
    rintro e w11 ⟨rfl, hb11'⟩
    have hb11 := hb10.trans (hb11'.mono hb10.size)
    go_wp2
    go_ret
    exact ⟨rfl, hb11⟩
end Go.Proofs.Ytmidoopapfkilaa
