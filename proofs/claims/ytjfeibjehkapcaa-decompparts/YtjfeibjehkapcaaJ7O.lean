/- Joined of: D7PartWalk. -/
import Derived.Test.YtjfeibjehkapcaaJ7N
import Derived.Deep.CutRange
/- The walk of DecompParts. -/
namespace Go.Proofs.Ytjfeibjehkapcaa
set_option maxRecDepth 100000
open Go.ChangeShapes Go.WideShapes Go.ChangeAt Go.RowKit
set_option linter.unusedVariables false
set_option linter.unusedSimpArgs false

theorem wp_appL {P : Program} {w : World} {o : Oper} {a : Act} {K : Act → World → Prop} {Q : Exit → Act → World → Prop} (s x : Operand) (t : TypeId)
    (ho : o.op = .call { callee := .builtin .append, args := #[s, x], argTypes := #[t, t] })
    (base : Nat) (e : TypeId) (k : IntKind) (bytes : Nat) (ht : P.underlying t = some (.slice e)) (hi : (P.info? e).map (fun i => (i.zero, i.size, i.bytes)) = some (some (.int k 0), 1, bytes)) (h8 : bytes ≤ 8)
    (v : Value) (xs : List Int) (hs : a.eval s = v) (hown : Own w base e k v xs) (B : Nat) (A : Option Addr) (n c : Nat) (ys : List Int) (hn : ys.length = n) (hx : a.eval x = .slice A n c) (hA : A = none → c = 0) (hr : Ints w B k A ys)
    (hlen : xs.length + ys.length ≤ 1099511627776) (hbase : base ≤ w.heap.size)
    (h : ∀ v' w', Own w' base e k v' (xs ++ ys) → Grew w w' v v' → K (a.put o.dst v') w') : o.wp P a w K Q := by
  subst hn
  obtain ⟨v', w', hrun, h2, h3⟩ := app_runL (P := P) w base t o.type e k bytes ht hi h8 v xs hown B A c ys hA hr hlen hbase
  unfold Oper.wp execOp
  simp only [ho, resolve, invoke, builtin, Sem.run_bind, Sem.run_pure, Result.andThen_ok, List.map_toArray, List.map_cons, List.map_nil, hs, hx, hrun]
  exact h v' w' h2 h3

def PartRel (w : World) (g : Nat) (A : Option Addr) (n c : Nat) (l : List Int) (k : Nat) (v : Value) (W : World) : Prop := ∃ S0, Own W S0 21 .i32 v (allF T5 cl5 (l.take k) ++ allF T5 cl5 (l.drop k)) ∧ Si1 w g A n c l W
set_option maxHeartbeats 8000000 in
theorem parts_walk (a0 : Option Addr) (len0 cap0 : Nat) (z0 : List Int) (a1 : Int) (w : World) (r0 : ArgRow .i64 w a0 len0 cap0 z0) :
    Calls Try.prog 6 #[.slice a0 len0 cap0, .int .i64 a1] w fun e w' => e = .returned (.bool true) ∧ Below w.heap.size w w' := by
  have HR0 := Lib.hid r0
  clear r0
  go_enter Try.func6, Try.ntmps6
  go_wp2_with fail
  with_reducible refine (ubuild_any _).mono ?_
  rintro e w1 ⟨g, rfl, ht, hb⟩
  have HT := Lib.hid ht
  have HB := Lib.hid hb
  clear ht hb
  have HRU := Lib.hid (runes7 (HR0.out.go HB.out))
  go_wp2_with fail
  with_reducible refine HRU.out.mono ?_
  rintro e w3 ⟨A, n, c, l, rfl, hr3, hR3, hn, hb3⟩
  have HS3 : Hid (Si1 w g A n c l w3) := Lib.hid ⟨HT.out.go hb3, hr3, HB.out.trans (hb3.mono HB.out.size)⟩
  have HRR := Lib.hid hR3
  have HLN := Lib.hid hr3.len
  have hnc := hr3.le
  have hcm := hr3.cap
  unfold maxLen at hcm
  clear hr3 hR3 hb3 HT HB HRU HR0
  go_wp2_with fail
  with_reducible refine (place_any a1 ((n : Int) + 1) _ (by omega) (by omega)).mono ?_
  rintro e w4 ⟨rfl, rfl⟩
  have hk0 : 0 ≤ a1 % ((n : Int) + 1) := Int.emod_nonneg _ (by omega)
  have hk1 : a1 % ((n : Int) + 1) < (n : Int) + 1 := Int.emod_lt_of_pos _ (by omega)
  generalize a1 % ((n : Int) + 1) = kk at *
  obtain ⟨k, rfl⟩ := Int.eq_ofNat_of_zero_le hk0
  have hkn0 : k ≤ n := by omega
  have hkc : (k : Int) ≤ c := by omega
  have hkn : (k : Int) ≤ n := by omega
  have hkc' : (0 : Int) ≤ (k : Int) ∧ (k : Int) ≤ c := by omega
  have hkn' : (0 : Int) ≤ (k : Int) ∧ (k : Int) ≤ n := by omega
  clear hk0 hk1
  have HALL1 : Hid (∀ W, Si1 w g A n c l W → Calls Try.prog 17 #[.pointer (some ⟨g, 0, none⟩), .slice A k c] W (RowOut W (allF T5 cl5 (l.take k)))) := Lib.hid fun W h => all_any W g A k c _ (h.r.take k hkn0) h.t (fun x hx => HRR.out x (List.mem_of_mem_take hx)) (by omega)
  have HALL2 : Hid (∀ W, Si1 w g A n c l W → Calls Try.prog 17 #[.pointer (some ⟨g, 0, none⟩), .slice (if c = k then A else Option.map (fun x => x.add k) A) (n - k) (c - k)] W (RowOut W (allF T5 cl5 (l.drop k)))) := Lib.hid fun W h => all_any W g _ (n - k) (c - k) _ (h.r.tail k hkn0) h.t (fun x hx => HRR.out x (List.mem_of_mem_drop hx)) (by omega)
  have HALL : Hid (∀ W, Si1 w g A n c l W → Calls Try.prog 17 #[.pointer (some ⟨g, 0, none⟩), .slice A n c] W (RowOut W (allF T5 cl5 l))) := Lib.hid fun W h => all_any W g A n c _ h.r h.t HRR.out (by omega)
  go_wp2_with fail
  generalize hA2 : (if c = k then A else Option.map (fun x => x.add k) A) = A2 at *
  go_cut [8] from 21 to 33 (fun v W => PartRel w g A n c l k v W)
  case first =>
    refine wp_region_A (by kernel_rfl) ?_
    have HS5 : Hid (Si1 w g A n c l w3.drew) := Lib.hid (HS3.out.go (Below.refl _ _).drew)
    clear HS3
    generalize w3.drew = w5 at *
    obtain ⟨S0, hS0⟩ : ∃ S0, w5.heap.size = S0 := ⟨_, rfl⟩
    have HSZ := Lib.hid hS0
    have HSG : Hid (∀ W, Below S0 w5 W → Si1 w g A n c l W) := Lib.hid fun W h => HS5.out.go (by rw [hS0]; exact h)
    clear hS0
    have hlta : (allF T5 cl5 (l.take k)).length ≤ 1000000 := by have h2 := allF_len (cl := cl5) sy5_len (l.take k); rw [List.length_take, HLN.out] at h2; omega
    refine wpA_take 1 22 (v := ?v1) rfl rfl (by kernel_rfl) (by kernel_rfl) (by kernel_rfl) (fun _ _ _ h => h) (Or.inl ⟨by rfl, ?y1⟩) ?r1
    case y1 => (intro W; go_simp; try with_reducible rfl)
    simp only [Act.put, List.setIfInBounds_toArray, List.set_cons_zero, List.set_cons_succ]
    refine wpA_take 2 23 (v := ?v2) rfl rfl (by kernel_rfl) (by kernel_rfl) (by kernel_rfl) (fun _ _ _ h => h) (Or.inl ⟨by rfl, ?y2⟩) ?r2
    case y2 => (intro W; go_simp; try with_reducible rfl)
    simp only [Act.put, List.setIfInBounds_toArray, List.set_cons_zero, List.set_cons_succ]
    refine wpA_take 3 24 (v := ?v3) rfl rfl (by kernel_rfl) (by kernel_rfl) (by kernel_rfl) (fun _ _ _ h => h) (Or.inl ⟨by rfl, ?y3⟩) ?r3
    case y3 => (intro W; go_simp; try with_reducible rfl)
    simp only [Act.put, List.setIfInBounds_toArray, List.set_cons_zero, List.set_cons_succ]
    refine wpA_take 4 25 (v := ?v4) rfl rfl (by kernel_rfl) (by kernel_rfl) (by kernel_rfl) (fun _ _ _ h => h) (Or.inl ⟨by rfl, ?y4⟩) ?r4
    case y4 => (intro W; go_simp; first | rw [if_pos hkc] | rw [if_pos hkc'] | skip; try with_reducible rfl)
    simp only [Act.put, List.setIfInBounds_toArray, List.set_cons_zero, List.set_cons_succ]
    refine wpA_take 7 28 (v := ?v7) rfl rfl (by kernel_rfl) (by kernel_rfl) (by kernel_rfl) (fun _ _ _ h => h) (Or.inl ⟨by rfl, ?y7⟩) ?r7
    case y7 => (intro W; go_simp; try with_reducible rfl)
    simp only [Act.put, List.setIfInBounds_toArray, List.set_cons_zero, List.set_cons_succ]
    refine wpA_take 8 29 (v := ?v8) rfl rfl (by kernel_rfl) (by kernel_rfl) (by kernel_rfl) (fun _ _ _ h => h) (Or.inl ⟨by rfl, ?y8⟩) ?r8
    case y8 => (intro W; go_simp; try with_reducible rfl)
    simp only [Act.put, List.setIfInBounds_toArray, List.set_cons_zero, List.set_cons_succ]
    refine wpA_take 9 30 (v := ?v9) rfl rfl (by kernel_rfl) (by kernel_rfl) (by kernel_rfl) (fun _ _ _ h => h) (Or.inl ⟨by rfl, ?y9⟩) ?r9
    case y9 => (intro W; go_simp; try with_reducible rfl)
    simp only [Act.put, List.setIfInBounds_toArray, List.set_cons_zero, List.set_cons_succ]
    refine wpA_take 10 31 (v := ?v10) rfl rfl (by kernel_rfl) (by kernel_rfl) (by kernel_rfl) (fun _ _ _ h => h) (Or.inl ⟨by rfl, ?y10⟩) ?r10
    case y10 => (intro W; go_simp; first | rw [if_pos hkn] | rw [if_pos hkn'] | skip; try with_reducible rfl)
    simp only [Act.put, List.setIfInBounds_toArray, List.set_cons_zero, List.set_cons_succ]
    refine wpA_two 0 5 (by kernel_rfl) rfl rfl (fun K hK => ?_) (fun K hK => ?_)
    · go_simp
      have HO6 : Hid (Own (w5.alloc (.cells #[] 21)) S0 21 .i32 (.slice (some ⟨S0, 0, none⟩) 0 0) []) := Lib.hid (by rw [← HSZ.out]; exact own_empty w5 w5.heap.size 21 .i32 (Nat.le_refl _))
      have HB56 : Hid (Below S0 w5 (w5.alloc (.cells #[] 21))) := Lib.hid (by rw [← HSZ.out]; exact below_new w5 _)
      rw [HSZ.out]
      refine hK.out _ _ ?_
      clear hK K
      try simp only [Act.put, List.getElem_toArray, List.getElem_cons_succ, List.getElem_cons_zero, List.setIfInBounds_toArray, List.set_cons_zero, List.set_cons_succ]
      generalize hw6 : w5.alloc (.cells #[] 21) = w6 at *
      clear hw6
      have HS6 : Hid (Si1 w g A n c l w6) := Lib.hid (HSG.out _ HB56.out)
      have hsz6 : S0 ≤ w6.heap.size := by have := HB56.out.size; rw [HSZ.out] at this; exact this
      refine wpA_one 5 (by kernel_rfl) rfl (fun K hK => ?_)
      go_simp
      refine (HALL1.out w6 HS6.out).mono ?_
      rintro e w7 ⟨A6, n6, c6, rfl, hr6, hb6⟩
      have HO7 : Hid (Own w7 S0 21 .i32 (.slice (some ⟨S0, 0, none⟩) 0 0) []) := Lib.hid (own_below HO6.out hb6 (Nat.le_refl _))
      have HR7 := Lib.hid hr6
      have HS7 := Lib.hid (HS6.out.go hb6)
      have HB57 : Hid (Below S0 w5 w7) := Lib.hid (HB56.out.trans (hb6.mono hsz6))
      have hsz7 : S0 ≤ w7.heap.size := Nat.le_trans hsz6 hb6.size
      have hln6 : n6 ≤ 1000000 := by have h1 := hr6.len; have h2 := allF_len (cl := cl5) sy5_len (l.take k); rw [List.length_take, HLN.out] at h2; omega
      refine hK.out _ _ ?_
      clear hK K
      try simp only [Act.put, List.getElem_toArray, List.getElem_cons_succ, List.getElem_cons_zero, List.setIfInBounds_toArray, List.set_cons_zero, List.set_cons_succ]
      clear hr6 hb6 HO6 HS6 HB56
      refine wpA_one 6 (by kernel_rfl) rfl (fun K hK => ?_)
      refine wpA_if (by rfl) ?_
      refine wp_appL (.tmp 21) (.tmp 26) 22 rfl S0 21 .i32 4 Try.underlying22 info_i32 (by omega) _ [] rfl HO7.out _ A6 n6 c6 _ HR7.out.len rfl HR7.out.nil HR7.out.ints (by rw [HR7.out.len, List.length_nil]; omega) hsz7 ?_
      intro v8 w8 hO8 hG8
      have hb8 : Below S0 w7 w8 := hG8.below HO7.out hsz7
      have HO8 := Lib.hid hO8
      rw [List.nil_append] at HO8
      have HS8 : Hid (Si1 w g A n c l w8) := Lib.hid (HSG.out _ (HB57.out.trans hb8))
      have HB58 := Lib.hid (HB57.out.trans hb8)
      have hsz8 : S0 ≤ w8.heap.size := Nat.le_trans hsz7 hG8.1.size
      refine hK.out _ _ ?_
      clear hK K
      try simp only [Act.put, List.getElem_toArray, List.getElem_cons_succ, List.getElem_cons_zero, List.setIfInBounds_toArray, List.set_cons_zero, List.set_cons_succ]
      clear hO8 hG8 hb8 HO7 HR7 HS7 HB57
      refine wpA_one 11 (by kernel_rfl) rfl (fun K hK => ?_)
      go_simp
      refine (HALL2.out w8 HS8.out).mono ?_
      rintro e w9 ⟨A9, n9, c9, rfl, hr9, hb9⟩
      have HO9 : Hid (Own w9 S0 21 .i32 v8 (allF T5 cl5 (l.take k))) := Lib.hid (own_below HO8.out hb9 (Nat.le_refl _))
      have HR9 := Lib.hid hr9
      have HB59 := Lib.hid (HB58.out.trans (hb9.mono hsz8))
      have hsz9 : S0 ≤ w9.heap.size := Nat.le_trans hsz8 hb9.size
      have hln9 : n9 ≤ 1000000 := by have h1 := hr9.len; have h2 := allF_len (cl := cl5) sy5_len (l.drop k); rw [List.length_drop, HLN.out] at h2; omega
      refine hK.out _ _ ?_
      clear hK K
      try simp only [Act.put, List.getElem_toArray, List.getElem_cons_succ, List.getElem_cons_zero, List.setIfInBounds_toArray, List.set_cons_zero, List.set_cons_succ]
      clear hr9 hb9 HO8 HS8 HB58
      refine wpA_one 12 (by kernel_rfl) rfl (fun K hK => ?_)
      refine wpA_if (by rfl) ?_
      refine wp_appL (.tmp 27) (.tmp 32) 22 rfl S0 21 .i32 4 Try.underlying22 info_i32 (by omega) v8 _ rfl HO9.out _ A9 n9 c9 _ HR9.out.len rfl HR9.out.nil HR9.out.ints (by rw [HR9.out.len]; omega) hsz9 ?_
      intro v10 w10 hO10 hG10
      have HO10 := Lib.hid hO10
      have HB510 := Lib.hid (HB59.out.trans (hG10.below HO9.out hsz9))
      refine hK.out _ _ ?_
      clear hK K
      try simp only [Act.put, List.getElem_toArray, List.getElem_cons_succ, List.getElem_cons_zero, List.setIfInBounds_toArray, List.set_cons_zero, List.set_cons_succ]
      clear hO10 hG10 HO9 HR9 HB59
      refine wpA_take 13 8 (v := ?v13a) rfl rfl (by kernel_rfl) (by kernel_rfl) (by kernel_rfl) (fun _ _ _ h => h) (Or.inl ⟨by rfl, ?y13a⟩) ?r13a
      case y13a => (intro W; go_simp; try with_reducible rfl)
      simp only [Act.put, List.setIfInBounds_toArray, List.set_cons_zero, List.set_cons_succ]
      refine wpA_done (by kernel_rfl) ?_ _
      go_wp2_with fail
      go_meet
      case rel => exact ⟨S0, HO10.out, HSG.out _ HB510.out⟩
    · go_simp
      refine (HALL1.out w5 HS5.out).mono ?_
      rintro e w6 ⟨A6, n6, c6, rfl, hr6, hb6⟩
      have hsz6 : S0 ≤ w6.heap.size := by rw [← HSZ.out]; exact hb6.size
      have hln6 : n6 ≤ 1000000 := by have h1 := hr6.len; have h2 := allF_len (cl := cl5) sy5_len (l.take k); rw [List.length_take, HLN.out] at h2; omega
      have HR6 := Lib.hid hr6
      have HB56 : Hid (Below S0 w5 w6) := Lib.hid (by rw [← HSZ.out]; exact hb6)
      refine hK.out _ _ ?_
      clear hK K
      try simp only [Act.put, List.getElem_toArray, List.getElem_cons_succ, List.getElem_cons_zero, List.setIfInBounds_toArray, List.set_cons_zero, List.set_cons_succ]
      clear hr6 hb6
      refine wpA_one 0 (by kernel_rfl) rfl (fun K hK => ?_)
      go_simp
      have HO7 : Hid (Own (w6.alloc (.cells #[] 21)) S0 21 .i32 (.slice (some ⟨w6.heap.size, 0, none⟩) 0 0) []) := Lib.hid (own_empty w6 S0 21 .i32 hsz6)
      have HR7 := Lib.hid (HR6.out.go (below_new w6 (.cells #[] 21)))
      have HB57 : Hid (Below S0 w5 (w6.alloc (.cells #[] 21))) := Lib.hid (HB56.out.trans ((below_new w6 _).mono hsz6))
      have hsz7 : S0 ≤ (w6.alloc (.cells #[] 21)).heap.size := by rw [World.size_alloc]; omega
      have HS7 : Hid (Si1 w g A n c l (w6.alloc (.cells #[] 21))) := Lib.hid (HSG.out _ HB57.out)
      refine hK.out _ _ ?_
      clear hK K
      try simp only [Act.put, List.getElem_toArray, List.getElem_cons_succ, List.getElem_cons_zero, List.setIfInBounds_toArray, List.set_cons_zero, List.set_cons_succ]
      generalize hw7 : w6.alloc (.cells #[] 21) = w7 at *
      clear hw7 HR6 HB56
      refine wpA_one 6 (by kernel_rfl) rfl (fun K hK => ?_)
      refine wpA_if (by rfl) ?_
      refine wp_appL (.tmp 21) (.tmp 26) 22 rfl S0 21 .i32 4 Try.underlying22 info_i32 (by omega) _ [] rfl HO7.out _ A6 n6 c6 _ HR7.out.len rfl HR7.out.nil HR7.out.ints (by rw [HR7.out.len, List.length_nil]; omega) hsz7 ?_
      intro v8 w8 hO8 hG8
      have hb8 : Below S0 w7 w8 := hG8.below HO7.out hsz7
      have HO8 := Lib.hid hO8
      rw [List.nil_append] at HO8
      have HS8 : Hid (Si1 w g A n c l w8) := Lib.hid (HSG.out _ (HB57.out.trans hb8))
      have HB58 := Lib.hid (HB57.out.trans hb8)
      have hsz8 : S0 ≤ w8.heap.size := Nat.le_trans hsz7 hG8.1.size
      refine hK.out _ _ ?_
      clear hK K
      try simp only [Act.put, List.getElem_toArray, List.getElem_cons_succ, List.getElem_cons_zero, List.setIfInBounds_toArray, List.set_cons_zero, List.set_cons_succ]
      clear hO8 hG8 hb8 HO7 HR7 HS7 HB57
      refine wpA_one 11 (by kernel_rfl) rfl (fun K hK => ?_)
      go_simp
      refine (HALL2.out w8 HS8.out).mono ?_
      rintro e w9 ⟨A9, n9, c9, rfl, hr9, hb9⟩
      have HO9 : Hid (Own w9 S0 21 .i32 v8 (allF T5 cl5 (l.take k))) := Lib.hid (own_below HO8.out hb9 (Nat.le_refl _))
      have HR9 := Lib.hid hr9
      have HB59 := Lib.hid (HB58.out.trans (hb9.mono hsz8))
      have hsz9 : S0 ≤ w9.heap.size := Nat.le_trans hsz8 hb9.size
      have hln9 : n9 ≤ 1000000 := by have h1 := hr9.len; have h2 := allF_len (cl := cl5) sy5_len (l.drop k); rw [List.length_drop, HLN.out] at h2; omega
      refine hK.out _ _ ?_
      clear hK K
      try simp only [Act.put, List.getElem_toArray, List.getElem_cons_succ, List.getElem_cons_zero, List.setIfInBounds_toArray, List.set_cons_zero, List.set_cons_succ]
      clear hr9 hb9 HO8 HS8 HB58
      refine wpA_one 12 (by kernel_rfl) rfl (fun K hK => ?_)
      refine wpA_if (by rfl) ?_
      refine wp_appL (.tmp 27) (.tmp 32) 22 rfl S0 21 .i32 4 Try.underlying22 info_i32 (by omega) v8 _ rfl HO9.out _ A9 n9 c9 _ HR9.out.len rfl HR9.out.nil HR9.out.ints (by rw [HR9.out.len]; omega) hsz9 ?_
      intro v10 w10 hO10 hG10
      have HO10 := Lib.hid hO10
      have HB510 := Lib.hid (HB59.out.trans (hG10.below HO9.out hsz9))
      refine hK.out _ _ ?_
      clear hK K
      try simp only [Act.put, List.getElem_toArray, List.getElem_cons_succ, List.getElem_cons_zero, List.setIfInBounds_toArray, List.set_cons_zero, List.set_cons_succ]
      clear hO10 hG10 HO9 HR9 HB59
      refine wpA_take 13 8 (v := ?v13b) rfl rfl (by kernel_rfl) (by kernel_rfl) (by kernel_rfl) (fun _ _ _ h => h) (Or.inl ⟨by rfl, ?y13b⟩) ?r13b
      case y13b => (intro W; go_simp; try with_reducible rfl)
      simp only [Act.put, List.setIfInBounds_toArray, List.set_cons_zero, List.set_cons_succ]
      refine wpA_done (by kernel_rfl) ?_ _
      go_wp2_with fail
      go_meet
      case rel => exact ⟨S0, HO10.out, HSG.out _ HB510.out⟩
  case rest =>
    obtain ⟨S0, hO, hS⟩ := hcut
    obtain ⟨B, d, hv, _, _⟩ := own_form hO
    subst hv
    have HRB := Lib.hid (RowIn.ofOwn hO)
    have HS5 := Lib.hid hS
    have HEQ : Hid (ordL cl5 (allF T5 cl5 (l.take k) ++ allF T5 cl5 (l.drop k)) = allF T5 cl5 l) := Lib.hid (by rw [allF_app cl5_nn, List.take_append_drop])
    have HCUT : Hid ((∀ a ∈ (allF T5 cl5 (l.drop k)).head?, cl5 a = 0) → allF T5 cl5 (l.take k) ++ allF T5 cl5 (l.drop k) = allF T5 cl5 l) := Lib.hid (fun h => by rw [allF_cut cl5_nn _ _ h, List.take_append_drop])
    have HLA : Hid ((allF T5 cl5 l).length ≤ 1000000) := Lib.hid (by have h2 := allF_len (cl := cl5) sy5_len l; rw [HLN.out] at h2; omega)
    have HLB : Hid ((allF T5 cl5 (l.take k) ++ allF T5 cl5 (l.drop k)).length ≤ 1000000) := Lib.hid (by rw [← ordL_len (cl := cl5), HEQ.out]; exact HLA.out)
    clear hO hS HS3 HALL1
    generalize allF T5 cl5 (l.take k) ++ allF T5 cl5 (l.drop k) = bo at *
    generalize allF T5 cl5 (l.drop k) = ri at *
    generalize allF T5 cl5 l = al at *
    generalize hm : bo.length = m at *
    clear hm
    have hm6 := HLB.out
    go_wp2_with fail
    with_reducible refine (HALL.out _ HS5.out).mono ?_
    rintro e w6 ⟨A6, n6, c6, rfl, hr6, hb6⟩
    have HS6 := Lib.hid (HS5.out.go hb6)
    have HRB6 := Lib.hid (HRB.out.go hb6)
    have HR6 := Lib.hid hr6
    clear hr6 hb6 HS5 HRB HALL
    go_wp2_with fail
    with_reducible refine (order_out _ g _ _ _ _ HRB6.out HS6.out.t (by omega)).mono ?_
    rintro e w7 ⟨A7, n7, c7, rfl, hr7, hb7⟩
    rw [HEQ.out] at hr7
    have HS7 := Lib.hid (HS6.out.go hb7)
    have HRB7 := Lib.hid (HRB6.out.go hb7)
    have HR67 := Lib.hid (HR6.out.go hb7)
    have HR7 := Lib.hid hr7
    have hle7 : n7 ≤ 1000000 := by have h1 := hr7.len; have h2 := HLA.out; omega
    clear hr7 hb7 HS6 HRB6 HR6
    go_wp2_with fail
    with_reducible refine (same_rows HR7.out HR67.out rfl hle7).mono ?_
    rintro e w8 ⟨rfl, hs8⟩
    have HS8 := Lib.hid (HS7.out.go hs8.below)
    have HRB8 := Lib.hid (HRB7.out.go hs8.below)
    have HR68 := Lib.hid (HR67.out.go hs8.below)
    clear hs8 HS7 HRB7 HR67 HR7 hle7
    go_wp2_with fail
    with_reducible refine (HALL2.out _ HS8.out).mono ?_
    rintro e w9 ⟨A9, n9, c9, rfl, hr9, hb9⟩
    have HS9 := Lib.hid (HS8.out.go hb9)
    have HRB9 := Lib.hid (HRB8.out.go hb9)
    have HR69 := Lib.hid (HR68.out.go hb9)
    have HR9 := Lib.hid hr9
    have HL9 := Lib.hid hr9.len
    clear hr9 hb9 HS8 HRB8 HR68 HALL2 hA2
    by_cases hn9 : 0 < n9
    · obtain ⟨b9, o9, rfl, hbl9, hc9⟩ := HR9.out.first hn9
      have h1 : w9.cell? ⟨b9, o9, none⟩ = some (.int .i32 (ri.getD 0 0)) := hc9 0 hn9
      have HD9 : Hid (ri.head? = some (ri.getD 0 0)) := Lib.hid (by
        have := drop_head ri 0 (by rw [HL9.out]; exact hn9)
        rwa [List.drop_zero] at this)
      have hn9' : (0 : Int) < n9 := by omega
      have HCL := Lib.hid (class7 HS9.out.t (ri.getD 0 0))
      have hnn := cl5_nn (ri.getD 0 0)
      clear hc9
      generalize hx : ri.getD 0 0 = x at *
      by_cases hcx : 0 < cl5 x
      · have hcd : decide (0 < cl5 x) = true := decide_eq_true hcx
        generalize cl5 x = cx at *
        go_wp2_with fail
        with_reducible refine HCL.out.mono ?_
        rintro e w10 ⟨rfl, hs10⟩
        have HS10 := Lib.hid (HS9.out.go hs10.below)
        clear hs10
        go_wp2_with fail
        with_reducible refine (awake_any _ _ HS10.out.t).mono ?_
        rintro e w12 ⟨rfl, hb12⟩
        have HB12 := Lib.hid (HS10.out.go hb12).be
        clear hb12
        go_wp2
        go_ret
        exact ⟨rfl, HB12.out⟩
      · have hcd : decide (0 < cl5 x) = false := decide_eq_false hcx
        have HBA : Hid (bo = al) := Lib.hid (HCUT.out (by rw [HD9.out]; intro a ha; simp at ha; rw [← ha]; omega))
        clear HCUT HD9 hcx hnn
        generalize cl5 x = cx at *
        go_wp2_with fail
        with_reducible refine HCL.out.mono ?_
        rintro e w10 ⟨rfl, hs10⟩
        have HS10 := Lib.hid (HS9.out.go hs10.below)
        have HRB10 := Lib.hid (HRB9.out.go hs10.below)
        have HR610 := Lib.hid (HR69.out.go hs10.below)
        clear hs10
        go_wp2_with fail
        with_reducible refine (same_rows HRB10.out HR610.out HBA.out hm6).mono ?_
        rintro e w11 ⟨rfl, hs11⟩
        have HS11 := Lib.hid (HS10.out.go hs11.below)
        clear hs11
        go_wp2_with fail
        with_reducible refine (awake_any _ _ HS11.out.t).mono ?_
        rintro e w12 ⟨rfl, hb12⟩
        have HB12 := Lib.hid (HS11.out.go hb12).be
        clear hb12
        go_wp2
        go_ret
        exact ⟨rfl, HB12.out⟩
    · obtain rfl : n9 = 0 := by omega
      have HBA : Hid (bo = al) := Lib.hid (HCUT.out (by rw [List.eq_nil_of_length_eq_zero HL9.out]; intro a ha; cases ha))
      have hn9' : ¬ (0 : Int) < ((0 : Nat) : Int) := by omega
      clear HCUT
      go_wp2_with fail
      with_reducible refine (same_rows HRB9.out HR69.out HBA.out hm6).mono ?_
      rintro e w11 ⟨rfl, hs11⟩
      have HS11 := Lib.hid (HS9.out.go hs11.below)
      clear hs11
      go_wp2_with fail
      with_reducible refine (awake_any _ _ HS11.out.t).mono ?_
      rintro e w12 ⟨rfl, hb12⟩
      have HB12 := Lib.hid (HS11.out.go hb12).be
      clear hb12
      go_wp2
      go_ret
      exact ⟨rfl, HB12.out⟩
end Go.Proofs.Ytjfeibjehkapcaa
