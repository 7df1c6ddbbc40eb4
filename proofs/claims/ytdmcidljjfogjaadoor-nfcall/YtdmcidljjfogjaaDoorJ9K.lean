/- Joined of: D7RF, D7RO, D7Sit. -/
import Derived.Test.YtdmcidljjfogjaaDoorJ9J
import Derived.Test.YtdmcidljjfogjaaDoorJ9I
import Derived.Test.YtdmcidljjfogjaaDoorJ9G
import Derived.Test.YtdmcidljjfogjaaDoorJ9A
import Derived.BigQuiet
import Derived.Deep.QuietTactic
import Derived.Test.YtdmcidljjfogjaaDoorJ9H
/- The document's Full by its contract. -/
namespace Go.Proofs.YtdmcidljjfogjaaDoor
set_option maxRecDepth 100000
open Go.ChangeShapes Go.WideShapes Go.ChangeAt Go.RowKit
set_option linter.unusedVariables false
set_option linter.unusedSimpArgs false
attribute [local irreducible] P5 S5 C5

/-- the document's tables, by their pointer -/
def DT (W : World) (R : Nat) : Prop := ∃ N, N + 5 = R ∧ DTab W N
theorem DT.go {W W' : World} {R : Nat} (h : DT W R) (hb : Below W.heap.size W W') : DT W' R := by
  obtain ⟨N, e, h⟩ := h
  exact ⟨N, e, h.grow hb⟩
theorem DT.lt {W : World} {R : Nat} (h : DT W R) : R < W.heap.size := by
  obtain ⟨N, rfl, h⟩ := h
  exact h.lt
theorem r32_wf {c : Int} (h : R32 c) : D32 c := WalkArith.wf_i32 (by unfold R32 at h; omega)
/-- what is found there -/
theorem DT.single {W : World} {R : Nat} (h : DT W R) : ∃ N, W.cell? ⟨R, 2, none⟩ = some (.map (some N)) ∧ ∀ c, R32 c → (Instr.lookup 64 (.map (some N)) (.int .i32 c) true).run Tryd.prog W = .ok (.tuple #[.int .i32 (T5.sg c), .bool (T5.sg c != 0)]) W := by
  obtain ⟨N, rfl, h⟩ := h
  exact ⟨N + 1 + 1, h.blk.cell 2, fun c hc => single_look h c (r32_wf hc)⟩
theorem DT.pair {W : World} {R : Nat} (h : DT W R) : ∃ N, W.cell? ⟨R, 1, none⟩ = some (.map (some N)) ∧ ∀ c, R32 c → (Instr.lookup 63 (.map (some N)) (.int .i32 c) true).run Tryd.prog W = .ok (.tuple #[.agg #[.int .i32 (T5.px c), .int .i32 (T5.py c)], .bool (T5.pk c)]) W := by
  obtain ⟨N, rfl, h⟩ := h
  exact ⟨N + 1, h.blk.cell 1, fun c hc => pair_look h c (r32_wf hc)⟩
theorem DT.class {W : World} {R : Nat} (h : DT W R) : ∃ N, W.cell? ⟨R, 0, none⟩ = some (.map (some N)) ∧ ∀ c, R32 c → (Instr.lookup 62 (.map (some N)) (.int .i32 c) false).run Tryd.prog W = .ok (.int .i64 (cl5 c)) W := by
  obtain ⟨N, rfl, h⟩ := h
  exact ⟨N, h.blk.cell 0, fun c hc => class_look h c (r32_wf hc)⟩

theorem own_less {w : World} {base base' : Nat} {t : TypeId} {k : IntKind} {v : Value} {xs : List Int} (h : Own w base t k v xs) (hb : base' ≤ base) : Own w base' t k v xs := by
  refine ⟨h.1, ?_⟩
  rcases h.2 with h | ⟨g, cap, cur, h1, h2, h3⟩
  · exact .inl h
  · exact .inr ⟨g, cap, cur, h1, Nat.le_trans hb h2, h3⟩
abbrev RFullOk (n : Nat) : Prop := ∀ (c : Int), Ends T5 n c → R32 c → ∀ (W : World) (R : Nat), DT W R → Calls Tryd.prog 45 #[.pointer (some ⟨R, 0, none⟩), .int .i32 c] W (RowRes 21 .i32 W (fullF T5 c))
set_option maxHeartbeats 4000000 in
theorem rfull_step (n : Nat) (IH : ∀ k, n = k + 1 → RFullOk k) : RFullOk n := by
  intro c hE hc W R hT
  cases n with
  | zero => exact hE.elim
  | succ n =>
  have HIH : Hid (RFullOk n) := Lib.hid (IH n rfl)
  have HT := Lib.hid hT
  have HC := Lib.hid hc
  clear IH hT
  have HK := Lib.hid (fun W => kind_any c W)
  by_cases hk : 3 < kind6 c
  · have HF : Hid (fullF T5 c = split6 c) := Lib.hid (full_sy (T := T5) (split6_some hk))
    have HSP := Lib.hid (rsplit_any c W)
    have hk' : decide (3 < kind6 c) = true := decide_eq_true hk
    generalize kind6 c = k at *
    clear hE hc
    go_enter Tryd.func45, Tryd.ntmps45
    go_wp2_with fail
    with_reducible refine (HK.out _).mono ?_
    rintro e w' ⟨rfl, rfl⟩
    go_wp2_with fail
    with_reducible refine HSP.out.mono ?_
    rintro e w2 ⟨v2, rfl, hO2, hb2⟩
    have HO2 := Lib.hid hO2
    clear hO2
    go_wp2
    go_ret
    exact ⟨v2, rfl, by rw [HF.out]; exact HO2.out, hb2⟩
  · have hsy : T5.sy c = [] := split6_none (by omega)
    have hk' : decide (3 < kind6 c) = false := decide_eq_false hk
    obtain ⟨hE1, hE2⟩ := hE hsy
    obtain ⟨Ms, cs, hsl⟩ := HT.out.single
    have hsl := hsl c hc
    have HSI := Lib.hid (sg5_in c)
    have HXI := Lib.hid (px5_in c)
    have HYI := Lib.hid (py5_in c)
    generalize kind6 c = k at *
    by_cases hsg : T5.sg c = 0
    · obtain ⟨Mp, cp, hpl⟩ := HT.out.pair
      have hpl := hpl c hc
      cases hpk : T5.pk c with
      | true =>
        have HF : Hid (fullF T5 c = fullF T5 (T5.px c) ++ fullF T5 (T5.py c)) := Lib.hid (full_pk ends5 hsy hsg hpk)
        have HEX := Lib.hid (hE2 hsg hpk)
        have hfl1 := fullF_len sy5_len (T5.px c)
        have hfl2 := fullF_len sy5_len (T5.py c)
        rw [hpk] at hpl
        rw [hsg] at hsl
        clear hsg hE1 hE2 hsy hpk hc hE
        generalize T5.px c = fx at *
        generalize T5.py c = fy at *
        have h00 : ((0 : Int) != 0) = false := rfl
        go_enter Tryd.func45, Tryd.ntmps45
        go_wp2_with fail
        with_reducible refine (HK.out _).mono ?_
        rintro e w' ⟨rfl, rfl⟩
        go_wp2_with fail
        have HT4 : Hid (DT (W.alloc (.cells #[.int .i32 fx, .int .i32 fy] 70)) R) := Lib.hid (HT.out.go ((Below.refl _ _).alloc (Nat.le_refl _) _))
        have HB4 : Hid (Below W.heap.size W (W.alloc (.cells #[.int .i32 fx, .int .i32 fy] 70))) := Lib.hid ((Below.refl _ _).alloc (Nat.le_refl _) _)
        have KT := Lib.hid (Blk.new W 70 #[.int .i32 fx, .int .i32 fy])
        clear hpl hsl cs cp
        generalize hw4 : W.alloc (.cells #[.int .i32 fx, .int .i32 fy] 70) = w4 at *
        clear hw4
        generalize htw : W.heap.size = tw at KT ⊢
        have HTW := Lib.hid htw
        clear htw
        refine wp_region_H (fun V => Blk V tw 70 #[.int .i32 fx, .int .i32 fy]) (by kernel_rfl) ?_
        have hS : (fun V : World => Blk V tw 70 #[.int .i32 fx, .int .i32 fy]) w4.drew := KT.out.drew
        have HT5 : Hid (DT w4.drew R) := Lib.hid (HT4.out.go (Below.refl _ _).drew)
        have HB5 : Hid (Below W.heap.size W w4.drew) := Lib.hid HB4.out.drew
        have htl : tw < w4.drew.heap.size := hS.lt
        have hgw : W.heap.size ≤ w4.drew.heap.size := HB5.out.size
        generalize w4.drew = w5 at *
        refine wpH_take 0 37 (v := ?v0) rfl rfl (by kernel_rfl) (by kernel_rfl) (by kernel_rfl) (fun _ _ _ h => h) hS (Or.inl ⟨by rfl, ?y0⟩) ?r0
        case y0 => (intro W hW; go_simp; try with_reducible rfl)
        simp only [Act.put, List.setIfInBounds_toArray, List.set_cons_zero, List.set_cons_succ]
        refine wpH_take 1 38 (v := ?v1) rfl rfl (by kernel_rfl) (by kernel_rfl) (by kernel_rfl) (fun _ _ _ h => h) hS (Or.inl ⟨by rfl, ?y1⟩) ?r1
        case y1 => (intro W hW; go_simp; try with_reducible rfl)
        simp only [Act.put, List.setIfInBounds_toArray, List.set_cons_zero, List.set_cons_succ]
        refine wpH_take 2 39 (v := ?v2) rfl rfl (by kernel_rfl) (by kernel_rfl) (by kernel_rfl) (fun _ _ _ h => h) hS (Or.inl ⟨by rfl, ?y2⟩) ?r2
        case y2 => (intro W hW; have c0 := Blk.cell (h := hW) 0; have c0 : W.cell? ⟨tw, 0, none⟩ = some (.int .i32 fx) := c0; go_simp; try with_reducible rfl)
        simp only [Act.put, List.setIfInBounds_toArray, List.set_cons_zero, List.set_cons_succ]
        refine wpH_take 4 41 (v := ?v4) rfl rfl (by kernel_rfl) (by kernel_rfl) (by kernel_rfl) (fun _ _ _ h => h) hS (Or.inl ⟨by rfl, ?y4⟩) ?r4
        case y4 => (intro W hW; go_simp; try with_reducible rfl)
        simp only [Act.put, List.setIfInBounds_toArray, List.set_cons_zero, List.set_cons_succ]
        refine wpH_take 5 42 (v := ?v5) rfl rfl (by kernel_rfl) (by kernel_rfl) (by kernel_rfl) (fun _ _ _ h => h) hS (Or.inl ⟨by rfl, ?y5⟩) ?r5
        case y5 => (intro W hW; go_simp; try with_reducible rfl)
        simp only [Act.put, List.setIfInBounds_toArray, List.set_cons_zero, List.set_cons_succ]
        refine wpH_take 6 43 (v := ?v6) rfl rfl (by kernel_rfl) (by kernel_rfl) (by kernel_rfl) (fun _ _ _ h => h) hS (Or.inl ⟨by rfl, ?y6⟩) ?r6
        case y6 => (intro W hW; have c1 := Blk.cell (h := hW) 1; have c1 : W.cell? ⟨tw, 1, none⟩ = some (.int .i32 fy) := c1; go_simp; try with_reducible rfl)
        simp only [Act.put, List.setIfInBounds_toArray, List.set_cons_zero, List.set_cons_succ]
        refine wpH_one 3 (by kernel_rfl) rfl (fun K hK => ?_)
        go_simp
        refine (HIH.out fx HEX.out.1 HXI.out w5 R HT5.out).mono ?_
        rintro e w6 ⟨v6, rfl, hO6, hb6⟩
        have hS6 : Blk w6 tw 70 #[.int .i32 fx, .int .i32 fy] := hS.below hb6 htl
        have HO6 := Lib.hid hO6
        have HT6 := Lib.hid (HT5.out.go hb6)
        have HB6 := Lib.hid (HB5.out.trans (hb6.mono hgw))
        have hgw6 : w5.heap.size ≤ w6.heap.size := hb6.size
        refine hK.out _ _ hS6 ?_
        clear hK K hO6 hb6 hS HT5 HB5
        try simp only [Act.put, List.getElem_toArray, List.getElem_cons_succ, List.getElem_cons_zero, List.setIfInBounds_toArray, List.set_cons_zero, List.set_cons_succ]
        refine wpH_one 7 (by kernel_rfl) rfl (fun K hK => ?_)
        go_simp
        refine (HIH.out fy HEX.out.2 HYI.out w6 R HT6.out).mono ?_
        rintro e w7 ⟨v7, rfl, hO7, hb7⟩
        obtain ⟨A7, c7, rfl, hc7, hcm7⟩ := own_form hO7
        have hS7 : Blk w7 tw 70 #[.int .i32 fx, .int .i32 fy] := hS6.below hb7 (by omega)
        have HR7 := Lib.hid (RowIn.ofOwn hO7)
        have HO7 : Hid (Own w7 w5.heap.size 21 .i32 v6 (fullF T5 fx)) := Lib.hid (own_below HO6.out hb7 (Nat.le_refl _))
        have HB7 := Lib.hid (HB6.out.trans (hb7.mono (Nat.le_trans hgw hgw6)))
        have hgw7 : w5.heap.size ≤ w7.heap.size := Nat.le_trans hgw6 hb7.size
        refine hK.out _ _ hS7 ?_
        clear hK K hO7 hb7 hS6 HT6 HB6
        try simp only [Act.put, List.getElem_toArray, List.getElem_cons_succ, List.getElem_cons_zero, List.setIfInBounds_toArray, List.set_cons_zero, List.set_cons_succ]
        refine wpH_one 8 (by kernel_rfl) rfl (fun K hK => ?_)
        refine wpA_if (by rfl) ?_
        refine wp_app (.tmp 40) (.tmp 44) 22 rfl w5.heap.size 21 .i32 4 Tryd.underlying22 info_i32 (by omega) v6 (fullF T5 fx) rfl HO7.out _ A7 c7 (fullF T5 fy) rfl HR7.out.nil HR7.out.ints (by omega) hgw7 ?_
        intro v8 w8 hO8 hG8
        have hb8 : Below w5.heap.size w7 w8 := own_grown_below HO7.out hG8 hgw7
        have hS8 : Blk w8 tw 70 #[.int .i32 fx, .int .i32 fy] := hS7.below hb8 htl
        have HO8 := Lib.hid hO8
        have HB8 := Lib.hid (HB7.out.trans (hb8.mono hgw))
        refine hK.out _ _ hS8 ?_
        clear hK K hO8 hG8 hb8 hS7 HB7
        try simp only [Act.put, List.getElem_toArray, List.getElem_cons_succ, List.getElem_cons_zero, List.setIfInBounds_toArray, List.set_cons_zero, List.set_cons_succ]
        refine wpH_take 9 4 (v := ?v9) rfl rfl (by kernel_rfl) (by kernel_rfl) (by kernel_rfl) (fun _ _ _ h => h) hS8 (Or.inl ⟨by rfl, ?y9⟩) ?r9
        case y9 => (intro W hW; go_simp; try with_reducible rfl)
        simp only [Act.put, List.setIfInBounds_toArray, List.set_cons_zero, List.set_cons_succ]
        refine wpH_done (by kernel_rfl) ?_ _
        go_wp2
        go_ret
        exact ⟨v8, rfl, by rw [HF.out]; exact own_less HO8.out hgw, HB8.out⟩
      | false =>
        have HF : Hid (fullF T5 c = [c]) := Lib.hid (full_no ⟨hsy, hsg, hpk⟩)
        rw [hpk] at hpl
        rw [hsg] at hsl
        clear hsg hE1 hE2 hsy hpk hc hE
        generalize T5.px c = fx at *
        generalize T5.py c = fy at *
        have h00 : ((0 : Int) != 0) = false := rfl
        go_enter Tryd.func45, Tryd.ntmps45
        go_wp2_with fail
        with_reducible refine (HK.out _).mono ?_
        rintro e w' ⟨rfl, rfl⟩
        go_wp2
        go_ret
        have hb1 : Below W.heap.size W (W.alloc (.cells #[.int .i32 fx, .int .i32 fy] 70)) := (Below.refl _ _).alloc (Nat.le_refl _) _
        exact ⟨_, rfl, by rw [HF.out]; have h := own_lit (W.alloc (.cells #[.int .i32 fx, .int .i32 fy] 70)) W.heap.size 21 .i32 [c] hb1.size (by simp [maxLen]); rw [World.size_alloc] at h; exact h, hb1.alloc hb1.size _⟩
    · have HF : Hid (fullF T5 c = fullF T5 (T5.sg c)) := Lib.hid (full_sg ends5 hsy hsg)
      have HEX := Lib.hid (hE1 hsg)
      have hs0 : (T5.sg c != 0) = true := by simp [hsg]
      rw [hs0] at hsl
      clear hsg hE1 hE2 hsy hs0 hc hE
      generalize T5.sg c = fx at *
      have HCALL := Lib.hid (HIH.out fx HEX.out HSI.out W R HT.out)
      go_enter Tryd.func45, Tryd.ntmps45
      go_wp2_with fail
      with_reducible refine (HK.out _).mono ?_
      rintro e w' ⟨rfl, rfl⟩
      go_wp2_with fail
      with_reducible refine HCALL.out.mono ?_
      rintro e w2 ⟨v2, rfl, hO2, hb2⟩
      have HO2 := Lib.hid hO2
      clear hO2
      go_wp2
      go_ret
      exact ⟨v2, rfl, by rw [HF.out]; exact HO2.out, hb2⟩
theorem rfull_ok (n : Nat) : RFullOk n := by
  induction n with
  | zero => exact rfull_step 0 fun k h => by omega
  | succ n ih =>
    refine rfull_step (n + 1) fun k h => ?_
    obtain rfl : n = k := by omega
    exact ih
theorem rfull_any (c : Int) (hc : R32 c) (W : World) (R : Nat) (hT : DT W R) : Calls Tryd.prog 45 #[.pointer (some ⟨R, 0, none⟩), .int .i32 c] W (RowRes 21 .i32 W (fullF T5 c)) := rfull_ok 5 c (ends5 c) hc W R hT
end Go.Proofs.YtdmcidljjfogjaaDoor

/- The document's Order and All by their contracts. -/
namespace Go.Proofs.YtdmcidljjfogjaaDoor
set_option maxRecDepth 100000
open Go.ChangeShapes Go.WideShapes Go.ChangeAt Go.RowKit
set_option linter.unusedVariables false
set_option linter.unusedSimpArgs false
attribute [local irreducible] P5 S5 C5

/-- a row of the call's own at the head of block gb -/
abbrev OwnS (w : World) (base gb n cap : Nat) (xs : List Int) : Prop := w.ownsRow base 21 1 (.slice (some ⟨gb, 0, none⟩) n cap) n (xs.map (Value.int .i32))
theorem OwnS.cell {w : World} {base gb n cap : Nat} {xs : List Int} (h : OwnS w base gb n cap xs) (j : Nat) (hj : j < xs.length) : w.cell? ⟨gb, j, none⟩ = some (.int .i32 (xs.getD j 0)) := by
  have h1 : (xs.map (Value.int .i32))[j]? = some (.int .i32 (xs.getD j 0)) := by
    simp [List.getD_eq_getElem?_getD, List.getElem?_eq_getElem hj]
  have h2 := World.ownsRow.cells h (g := gb) rfl j _ h1
  rw [addr_add] at h2
  simpa using h2
theorem OwnS.set {w : World} {base gb n cap : Nat} {xs : List Int} (h : OwnS w base gb n cap xs) (j : Nat) (x : Int) : OwnS (w.setCell ⟨gb, j, none⟩ (.int .i32 x)) base gb n cap (xs.set j x) := by
  have := (World.ownsRow.stored h j (.int .i32 x)).1
  rwa [← List.map_set] at this
theorem OwnS.low {w : World} {base gb n cap : Nat} {xs : List Int} (h : OwnS w base gb n cap xs) : base ≤ gb := (h.lt gb rfl).1
theorem OwnS.is {w : World} {base n c : Nat} {A : Option Addr} {xs : List Int} (h : w.ownsRow base 21 1 (.slice A n c) n (xs.map (Value.int .i32))) (hp : 0 < n) : ∃ gb, A = some ⟨gb, 0, none⟩ := by
  rcases h.2 with ⟨h1, h2⟩ | ⟨g, cap, cur, h1, _⟩
  · omega
  · injection h1 with h1; exact ⟨g, h1⟩

/-- what the row holds while one is moved ahead -/
def cont (ra : List Int) (b : Int) (qr rest : List Int) : List Int := ra.reverse ++ b :: (qr.reverse ++ rest)
theorem cont_len (ra : List Int) (b : Int) (qr rest : List Int) : (cont ra b qr rest).length = ra.length + 1 + qr.length + rest.length := by unfold cont; simp; omega
theorem cont_at (ra : List Int) (b : Int) (qr rest : List Int) : (cont ra b qr rest).getD ra.length 0 = b := by
  unfold cont
  rw [List.getD_eq_getElem?_getD, List.getElem?_append_right (by simp)]
  simp
theorem cont_pre (a : Int) (ra : List Int) (b : Int) (qr rest : List Int) : (cont (a :: ra) b qr rest).getD ra.length 0 = a := by
  unfold cont
  rw [List.reverse_cons, List.append_assoc, List.getD_eq_getElem?_getD, List.getElem?_append_right (by simp)]
  simp
theorem cont_swap (a : Int) (ra : List Int) (b : Int) (qr rest : List Int) : ((cont (a :: ra) b qr rest).set ra.length b).set (ra.length + 1) a = cont ra b (qr ++ [a]) rest := by
  unfold cont
  have h1 : (a :: ra).reverse ++ b :: (qr.reverse ++ rest) = ra.reverse ++ a :: b :: (qr.reverse ++ rest) := by simp
  rw [h1, List.set_append_right _ _ (by simp), List.set_append_right _ _ (by simp)]
  simp
theorem cont_swap' (a : Int) (ra : List Int) (b : Int) (qr rest : List Int) : ((cont (a :: ra) b qr rest).set (ra.length + 1) a).set ra.length b = cont ra b (qr ++ [a]) rest := by
  rw [← cont_swap, List.set_comm _ _ (by omega)]
theorem cont_done (ra : List Int) (b : Int) (qr rest : List Int) : cont ra b qr rest = (qr ++ b :: ra).reverse ++ rest := by unfold cont; simp
/-- how the row stands between two rounds -/
noncomputable def ordAt (l : List Int) (k : Nat) : List Int := (ordR cl5 (l.take k)).reverse ++ l.drop k
theorem ordAt_len (l : List Int) (k : Nat) : (ordAt l k).length = l.length := by
  unfold ordAt
  rw [List.length_append, List.length_reverse, ordR_len, List.length_take, List.length_drop]; omega
theorem ordAt_one (l : List Int) : ordAt l 1 = l := by
  cases l with
  | nil => rfl
  | cons x l => simp [ordAt, ordR, insR]
theorem ordAt_all (l : List Int) : ordAt l l.length = ordL cl5 l := by simp [ordAt, ordL]
theorem ordAt_begin (l : List Int) (k : Nat) (hk : k < l.length) : ordAt l k = cont (ordR cl5 (l.take k)) (l.getD k 0) [] (l.drop (k + 1)) := by
  unfold ordAt cont
  rw [List.drop_eq_getElem_cons hk]
  simp [List.getD_eq_getElem?_getD, List.getElem?_eq_getElem hk]
theorem ordAt_next (l : List Int) (k : Nat) (hk : k < l.length) : ordAt l (k + 1) = (insR cl5 (l.getD k 0) (ordR cl5 (l.take k))).reverse ++ l.drop (k + 1) := by
  unfold ordAt
  rw [take_snoc l k hk, ordR_snoc]
theorem insR_stop {a b : Int} {ra : List Int} (h : cl5 a = 0 ∨ cl5 b = 0 ∨ cl5 a ≤ cl5 b) : insR cl5 b (a :: ra) = b :: a :: ra := by
  unfold insR
  rw [if_neg (by omega)]
theorem insR_go {a b : Int} {ra : List Int} (h1 : cl5 a ≠ 0) (h2 : cl5 b ≠ 0) (h3 : ¬ cl5 a ≤ cl5 b) : insR cl5 b (a :: ra) = a :: insR cl5 b ra := by
  conv => lhs; unfold insR
  rw [if_pos ⟨h1, h2, by omega⟩]

theorem DT.classAt {W : World} {R : Nat} (h : DT W R) : W.cell? ⟨R, 0, none⟩ = some (.map (some (R - 5))) ∧ ∀ c, R32 c → (Instr.lookup 62 (.map (some (R - 5))) (.int .i32 c) false).run Tryd.prog W = .ok (.int .i64 (cl5 c)) W := by
  obtain ⟨N, rfl, h⟩ := h
  rw [Nat.add_sub_cancel]
  exact ⟨h.blk.cell 0, fun c hc => class_look h c (r32_wf hc)⟩
def ROrdLoop (w : World) (A : Option Addr) (n c : Nat) (l : List Int) (i : Value) (wr : World) : Prop :=
  ∃ k : Nat, (1 ≤ k ∧ (k ≤ n ∨ k = 1)) ∧ i = .int .i64 k ∧ wr.ownsRow w.heap.size 21 1 (.slice A n c) n ((ordAt l k).map (Value.int .i32)) ∧ Below w.heap.size w wr
def RInLoop (w : World) (gb n c : Nat) (l : List Int) (k : Nat) (j : Value) (wr : World) : Prop :=
  ∃ (m : Nat) (ra qr : List Int), j = .int .i64 m ∧ ra.length = m ∧ m + qr.length = k ∧ insR cl5 (l.getD k 0) (ordR cl5 (l.take k)) = qr ++ insR cl5 (l.getD k 0) ra ∧ (∀ x ∈ ra, x ∈ l) ∧ OwnS wr w.heap.size gb n c (cont ra (l.getD k 0) qr (l.drop (k + 1))) ∧ Below w.heap.size w wr

set_option maxHeartbeats 4000000 in
theorem rorder_any (w : World) (R : Nat) (A : Option Addr) (n c : Nat) (l : List Int) (hA : RowIn w A n c l) (hT : DT w R) (hR : ∀ c ∈ l, R32 c) (hn : n ≤ 1000000000) :
    Calls Tryd.prog 46 #[.pointer (some ⟨R, 0, none⟩), .slice A n c] w (RowRes 21 .i32 w (ordL cl5 l)) := by
  have HA := Lib.hid hA
  have HT := Lib.hid hT
  have HR := Lib.hid hR
  have hlx := hA.len
  have hs0 : w.heap.size ≤ (w.alloc (.cells #[] 21)).heap.size := by simp
  have HA0 : Hid (RowIn (w.alloc (.cells #[] 21)) A n c l) := Lib.hid (hA.go ((Below.refl _ _).alloc (Nat.le_refl _) _))
  clear hA hT hR
  go_enter Tryd.func46, Tryd.ntmps46
  go_wp2_with (at_builtin; refine wpList_appL rfl (.tmp 10) (.tmp 11) 22 rfl w.heap.size 21 .i32 4 Tryd.underlying22 info_i32 (by omega) _ [] rfl (own_empty w w.heap.size 21 .i32 (Nat.le_refl _)) _ _ _ _ l HA0.out.len rfl HA0.out.nil HA0.out.ints (by simp; omega) hs0 ?_; intro v1 w1 hO1 hG1)
  have hb1 : Below w.heap.size w w1 := ((Below.refl _ w).alloc (Nat.le_refl _) (.cells #[] 21)).trans (hG1.below (own_empty w w.heap.size 21 .i32 (Nat.le_refl _)) hs0)
  rw [List.nil_append] at hO1
  obtain ⟨A1, c1, rfl, hc1, hcm1⟩ := own_form hO1
  unfold Own at hO1
  rw [hlx] at hO1 hc1
  simp only [hlx]
  have HO1 := Lib.hid hO1
  have HB1 := Lib.hid hb1
  clear hO1 hG1 hb1 HA0 hs0
  unfold maxLen at hcm1
  go_wp2_with fail
  go_loopw [6] (fun i wr => ROrdLoop w A1 n c1 l i wr) (fun i _ => n + 1 - (intOf i).toNat)
  case atStart => exact ⟨1, by omega, rfl, by rw [ordAt_one]; exact HO1.out, HB1.out⟩
  case round =>
    obtain ⟨k, ⟨hk1, hk⟩, rfl, hO, hb⟩ := hrel
    by_cases hlt : k < n
    · obtain ⟨gb, rfl⟩ := OwnS.is hO (by omega)
      have hkl : k < l.length := by omega
      rw [ordAt_begin l k hkl] at hO
      have HO := Lib.hid hO
      have HBE := Lib.hid hb
      have HN := Lib.hid (ordAt_next l k hkl)
      clear hO hb HO1 HB1
      have hlt' : (k : Int) < n := by omega
      have hra : (ordR cl5 (l.take k)).length = k := by rw [ordR_len, List.length_take]; omega
      have HRI : Hid (∀ x ∈ ordR cl5 (l.take k), x ∈ l) := Lib.hid fun x hx => by
        have h1 : x ∈ ordL cl5 (l.take k) := by unfold ordL; rw [List.mem_reverse]; exact hx
        exact List.mem_of_mem_take (ordL_mem.1 h1)
      have HBR : Hid (R32 (l.getD k 0)) := Lib.hid (HR.out _ (by
        rw [List.getD_eq_getElem?_getD, List.getElem?_eq_getElem hkl]
        exact List.getElem_mem hkl))
      have HRA := Lib.hid hra
      clear hra
      go_wp2_with fail
      go_loopw [7] (fun j wr => RInLoop w gb n c1 l k j wr) (fun j _ => (intOf j).toNat)
      case atStart => exact ⟨k, ordR cl5 (l.take k), [], rfl, HRA.out, by simp, rfl, HRI.out, HO.out, HBE.out⟩
      case round =>
        obtain ⟨m, ra, qr, rfl, hm, hq, hins, hmem, hO2, hb2⟩ := hrel
        have HI := Lib.hid hins
        have HM := Lib.hid hmem
        have HO2 := Lib.hid hO2
        have HB2 := Lib.hid hb2
        clear hins hmem hO2 hb2 HO HBE HRI HRA
        generalize hbv : l.getD k 0 = bv at *
        cases ra with
        | nil =>
          have HFIN : Hid (cont [] bv qr (l.drop (k + 1)) = ordAt l (k + 1)) := Lib.hid (by rw [HN.out, cont_done, HI.out]; rfl)
          have hm0 : m = 0 := by simpa using hm.symm
          subst hm0
          have hz : ¬ (0 : Int) < ((0 : Nat) : Int) := by omega
          go_wp2
          go_roundw
          case rel => exact ⟨k + 1, ⟨by omega, .inl (by omega)⟩, by go_num, by rw [← HFIN.out]; exact HO2.out, HB2.out⟩
          case measure => simp [intOf]; omega
        | cons a ra =>
          obtain ⟨m, rfl⟩ : ∃ m', m = m' + 1 := ⟨ra.length, by simpa using hm.symm⟩
          have hm : ra.length = m := by simpa using hm
          have HPRE : Hid ((cont (a :: ra) bv qr (l.drop (k + 1))).getD m 0 = a) := Lib.hid (by rw [← hm]; exact cont_pre a ra bv qr _)
          have HAT : Hid ((cont (a :: ra) bv qr (l.drop (k + 1))).getD (m + 1) 0 = bv) := Lib.hid (by have h := cont_at (a :: ra) bv qr (l.drop (k + 1)); rw [List.length_cons, hm] at h; exact h)
          have HSW : Hid (((cont (a :: ra) bv qr (l.drop (k + 1))).set m bv).set (m + 1) a = cont ra bv (qr ++ [a]) (l.drop (k + 1))) := Lib.hid (by rw [← hm]; exact cont_swap a ra bv qr _)
          have HBV := Lib.hid hbv
          clear hbv
          have hx1 : wr.cell? ⟨gb, m, none⟩ = some (.int .i32 a) := by have h := HO2.out.cell m (by rw [cont_len]; simp; omega); rw [HPRE.out] at h; exact h
          have hx2 : wr.cell? ⟨gb, m + 1, none⟩ = some (.int .i32 bv) := by have h := HO2.out.cell (m + 1) (by rw [cont_len]; simp; omega); rw [HAT.out] at h; exact h
          have hTr : DT wr R := HT.out.go HB2.out
          have hcm := hTr.classAt.1
          have hlk1 : ∀ q, (Instr.lookup 62 (.map (some (R - 5))) (.int .i32 a) false).run Tryd.prog (wr.drewN q) = .ok (.int .i64 (cl5 a)) (wr.drewN q) := fun q => (hTr.go (below_drewN' (Below.refl _ _) q)).classAt.2 a (HR.out a (HM.out a (by simp)))
          have hlk2 : ∀ q, (Instr.lookup 62 (.map (some (R - 5))) (.int .i32 bv) false).run Tryd.prog (wr.drewN q) = .ok (.int .i64 (cl5 bv)) (wr.drewN q) := fun q => (hTr.go (below_drewN' (Below.refl _ _) q)).classAt.2 bv HBR.out
          clear hTr
          have hpos : (0 : Int) < ((m + 1 : Nat) : Int) := by omega
          have HST := Lib.hid (insR_stop (a := a) (b := bv) (ra := ra))
          have HGO := Lib.hid (insR_go (a := a) (b := bv) (ra := ra))
          generalize cl5 a = xa at *
          generalize cl5 bv = xb at *
          generalize R - 5 = M at *
          by_cases hst : xa = 0 ∨ xb = 0 ∨ xa ≤ xb
          · have HFIN : Hid (cont (a :: ra) bv qr (l.drop (k + 1)) = ordAt l (k + 1)) := Lib.hid (by rw [HN.out, cont_done, HI.out, HST.out hst])
            clear HST HGO
            by_cases e1 : xa = 0
            · have e1' : (xa == 0) = true := beq_iff_eq.2 e1
              clear hst e1
              go_wp2_with fail
              go_quiet (fail)
              go_wp2
              go_roundw
              case rel => exact ⟨k + 1, ⟨by omega, .inl (by omega)⟩, by go_num, by rw [← HFIN.out]; exact (own_below HO2.out (below_drewN' (Below.refl _ _) _) (Nat.le_refl _) : OwnS _ _ _ _ _ _), below_drewN' HB2.out _⟩
              case measure => simp [intOf]; omega
            · have e1' : (xa == 0) = false := beq_eq_false_iff_ne.2 e1
              by_cases e2 : xb = 0
              · have e2' : (xb == 0) = true := beq_iff_eq.2 e2
                clear hst e1 e2
                go_wp2_with fail
                go_quiet (fail)
                go_wp2
                go_roundw
                case rel => exact ⟨k + 1, ⟨by omega, .inl (by omega)⟩, by go_num, by rw [← HFIN.out]; exact (own_below HO2.out (below_drewN' (Below.refl _ _) _) (Nat.le_refl _) : OwnS _ _ _ _ _ _), below_drewN' HB2.out _⟩
                case measure => simp [intOf]; omega
              · have e2' : (xb == 0) = false := beq_eq_false_iff_ne.2 e2
                have e3 : xa ≤ xb := (hst.resolve_left e1).resolve_left e2
                have e3' : decide (xa ≤ xb) = true := decide_eq_true e3
                clear hst e1 e2
                go_wp2_with fail
                go_quiet (fail)
                go_wp2
                go_roundw
                case rel => exact ⟨k + 1, ⟨by omega, .inl (by omega)⟩, by go_num, by rw [← HFIN.out]; exact (own_below HO2.out (below_drewN' (Below.refl _ _) _) (Nat.le_refl _) : OwnS _ _ _ _ _ _), below_drewN' HB2.out _⟩
                case measure => simp [intOf]; omega
          · have e1 : xa ≠ 0 := fun e => hst (.inl e)
            have e2 : xb ≠ 0 := fun e => hst (.inr (.inl e))
            have e3 : ¬ xa ≤ xb := fun e => hst (.inr (.inr e))
            have HINS : Hid (insR cl5 (l.getD k 0) (ordR cl5 (l.take k)) = (qr ++ [a]) ++ insR cl5 (l.getD k 0) ra) := Lib.hid (by rw [HBV.out, HI.out, HGO.out e1 e2 e3]; simp)
            have e1' : (xa == 0) = false := beq_eq_false_iff_ne.2 e1
            have e2' : (xb == 0) = false := beq_eq_false_iff_ne.2 e2
            have e3' : decide (xa ≤ xb) = false := decide_eq_false e3
            clear hst HST HGO e1 e2
            go_wp2_with fail
            go_quiet (fail)
            go_wp2_with fail
            refine wp_region_A (by kernel_rfl) ?_
            have hb5 : Below wr.heap.size wr (wr.drewN nq).drew := (below_drewN' (Below.refl _ _) nq).drew
            have HO5 : Hid (OwnS (wr.drewN nq).drew w.heap.size gb n c1 (cont (a :: ra) bv qr (l.drop (k + 1)))) := Lib.hid (own_below HO2.out hb5 (Nat.le_refl _))
            have HB5 : Hid (Below w.heap.size w (wr.drewN nq).drew) := Lib.hid (HB2.out.trans (hb5.mono HB2.out.size))
            clear hb5 hx1 hx2 hlk1 hlk2 hcm
            generalize (wr.drewN nq).drew = w5 at *
            have hx5a : w5.cell? ⟨gb, m, none⟩ = some (.int .i32 a) := by have h := HO5.out.cell m (by rw [cont_len]; simp; omega); rw [HPRE.out] at h; exact h
            have hx5b : w5.cell? ⟨gb, m + 1, none⟩ = some (.int .i32 bv) := by have h := HO5.out.cell (m + 1) (by rw [cont_len]; simp; omega); rw [HAT.out] at h; exact h
            have f5 := World.ownsRow.frozenAt HO5.out m
            have hgb : w.heap.size ≤ gb := HO5.out.low
            have hix1 : (0 : Int) ≤ (m : Int) + 1 ∧ (m : Int) + 1 < n := by omega
            have hix0 : (0 : Int) ≤ (m : Int) ∧ (m : Int) < n := by omega
            have hix0' : (m : Int) < n := by omega
            have hwm : IntKind.i64.wrap (m : Int) = m := IntWalk.i64_in _ (by omega)
            have htn : ((m : Int)).toNat = m := by omega
            refine wpA_take 0 54 (v := ?v0) rfl rfl (by kernel_rfl) (by kernel_rfl) (by kernel_rfl) (fun _ _ _ h => h) (Or.inl ⟨by rfl, ?y0⟩) ?r0
            case y0 => (intro W; go_simp; try with_reducible rfl)
            simp only [Act.put, List.setIfInBounds_toArray, List.set_cons_zero, List.set_cons_succ]
            refine wpA_take 1 55 (v := ?v1) rfl rfl (by kernel_rfl) (by kernel_rfl) (by kernel_rfl) (fun _ _ _ h => h) (Or.inl ⟨by rfl, ?y1⟩) ?r1
            case y1 => (intro W; go_simp; try with_reducible rfl)
            simp only [Act.put, List.setIfInBounds_toArray, List.set_cons_zero, List.set_cons_succ]
            refine wpA_take 2 56 (v := ?v2) rfl rfl (by kernel_rfl) (by kernel_rfl) (by kernel_rfl) (fun _ _ _ h => h) (Or.inl ⟨by rfl, ?y2⟩) ?r2
            case y2 => (intro W; go_simp; try with_reducible rfl)
            simp only [Act.put, List.setIfInBounds_toArray, List.set_cons_zero, List.set_cons_succ]
            refine wpA_take 3 57 (v := ?v3) rfl rfl (by kernel_rfl) (by kernel_rfl) (by kernel_rfl) (fun _ _ _ h => h) (Or.inl ⟨by rfl, ?y3⟩) ?r3
            case y3 => (intro W; go_simp; try with_reducible rfl)
            simp only [Act.put, List.setIfInBounds_toArray, List.set_cons_zero, List.set_cons_succ]
            refine wpA_take 4 58 (v := ?v4) rfl rfl (by kernel_rfl) (by kernel_rfl) (by kernel_rfl) (fun _ _ _ h => h) (Or.inl ⟨by rfl, ?y4⟩) ?r4
            case y4 => (intro W; go_simp; try with_reducible rfl)
            simp only [Act.put, List.setIfInBounds_toArray, List.set_cons_zero, List.set_cons_succ]
            refine wpA_take 5 59 (v := ?v5) rfl rfl (by kernel_rfl) (by kernel_rfl) (by kernel_rfl) (fun _ _ _ h => h) (Or.inl ⟨by rfl, ?y5⟩) ?r5
            case y5 => (intro W; go_simp; try with_reducible rfl)
            simp only [Act.put, List.setIfInBounds_toArray, List.set_cons_zero, List.set_cons_succ]
            refine wpA_take 6 60 (v := ?v6) rfl rfl (by kernel_rfl) (by kernel_rfl) (by kernel_rfl) (fun _ _ _ h => h) (Or.inl ⟨by rfl, ?y6⟩) ?r6
            case y6 => (intro W; go_simp; try with_reducible rfl)
            simp only [Act.put, List.setIfInBounds_toArray, List.set_cons_zero, List.set_cons_succ]
            refine wpA_take 7 61 (v := ?v7) rfl rfl (by kernel_rfl) (by kernel_rfl) (by kernel_rfl) (fun _ _ _ h => h) (Or.inl ⟨by rfl, ?y7⟩) ?r7
            case y7 => (intro W; go_simp; first | rw [if_pos hix1] | rw [if_pos hix0] | rw [if_pos hix0'] | skip; try with_reducible rfl)
            simp only [Act.put, List.setIfInBounds_toArray, List.set_cons_zero, List.set_cons_succ]
            refine wpA_take 9 63 (v := ?v9) rfl rfl (by kernel_rfl) (by kernel_rfl) (by kernel_rfl) (fun _ _ _ h => h) (Or.inl ⟨by rfl, ?y9⟩) ?r9
            case y9 => (intro W; go_simp; try with_reducible rfl)
            simp only [Act.put, List.setIfInBounds_toArray, List.set_cons_zero, List.set_cons_succ]
            refine wpA_take 10 64 (v := ?v10) rfl rfl (by kernel_rfl) (by kernel_rfl) (by kernel_rfl) (fun _ _ _ h => h) (Or.inl ⟨by rfl, ?y10⟩) ?r10
            case y10 => (intro W; go_simp; try with_reducible rfl)
            simp only [Act.put, List.setIfInBounds_toArray, List.set_cons_zero, List.set_cons_succ]
            refine wpA_take 11 65 (v := ?v11) rfl rfl (by kernel_rfl) (by kernel_rfl) (by kernel_rfl) (fun _ _ _ h => h) (Or.inl ⟨by rfl, ?y11⟩) ?r11
            case y11 => (intro W; go_simp; try with_reducible rfl)
            simp only [Act.put, List.setIfInBounds_toArray, List.set_cons_zero, List.set_cons_succ]
            refine wpA_take 12 66 (v := ?v12) rfl rfl (by kernel_rfl) (by kernel_rfl) (by kernel_rfl) (fun _ _ _ h => h) (Or.inl ⟨by rfl, ?y12⟩) ?r12
            case y12 => (intro W; go_simp; first | rw [if_pos hix1] | rw [if_pos hix0] | rw [if_pos hix0'] | skip; try with_reducible rfl)
            simp only [Act.put, List.setIfInBounds_toArray, List.set_cons_zero, List.set_cons_succ]
            refine wpA_two 8 13 (by kernel_rfl) rfl rfl (fun K hK => ?_) (fun K hK => ?_)
            · go_simp
              refine hK.out _ _ ?_
              clear hK K
              try simp only [Act.put, List.getElem_toArray, List.getElem_cons_succ, List.getElem_cons_zero, List.setIfInBounds_toArray, List.set_cons_zero, List.set_cons_succ]
              refine wpA_one 13 (by kernel_rfl) rfl (fun K hK => ?_)
              go_simp
              refine hK.out _ _ ?_
              clear hK K
              try simp only [Act.put, List.getElem_toArray, List.getElem_cons_succ, List.getElem_cons_zero, List.setIfInBounds_toArray, List.set_cons_zero, List.set_cons_succ]
              refine wpA_take 14 68 (v := ?v14p) rfl rfl (by kernel_rfl) (by kernel_rfl) (by kernel_rfl) (fun _ _ _ h => h) (Or.inl ⟨by rfl, ?y14p⟩) ?r14p
              case y14p => (intro W; go_simp; first | rw [if_pos hix1] | rw [if_pos hix0] | rw [if_pos hix0'] | skip; try with_reducible rfl)
              simp only [Act.put, List.setIfInBounds_toArray, List.set_cons_zero, List.set_cons_succ]
              refine wpA_one 15 (by kernel_rfl) rfl (fun K hK => ?_)
              go_simp
              refine hK.out _ _ ?_
              clear hK K
              try simp only [Act.put, List.getElem_toArray, List.getElem_cons_succ, List.getElem_cons_zero, List.setIfInBounds_toArray, List.set_cons_zero, List.set_cons_succ]
              have HO6 := Lib.hid (HO5.out.set m bv)
              have hx6 : (w5.setCell ⟨gb, m, none⟩ (.int .i32 bv)).cell? ⟨gb, m + 1, none⟩ = some (.int .i32 bv) := by have h := HO6.out.cell (m + 1) (by rw [List.length_set, cont_len]; simp; omega); rw [List.getD_eq_getElem?_getD, List.getElem?_set_ne (by omega), ← List.getD_eq_getElem?_getD, HAT.out] at h; exact h
              have f6 := World.ownsRow.frozenAt HO6.out (m + 1)
              have hb6 : Below w.heap.size w (w5.setCell ⟨gb, m, none⟩ (.int .i32 bv)) := HB5.out.setCell hgb _
              have HB6 := Lib.hid hb6
              clear hb6 hx5a hx5b f5
              generalize w5.setCell ⟨gb, m, none⟩ (.int .i32 bv) = w6 at *
              refine wpA_take 16 69 (v := ?v16p) rfl rfl (by kernel_rfl) (by kernel_rfl) (by kernel_rfl) (fun _ _ _ h => h) (Or.inl ⟨by rfl, ?y16p⟩) ?r16p
              case y16p => (intro W; go_simp; first | rw [if_pos hix1] | rw [if_pos hix0] | rw [if_pos hix0'] | skip; try with_reducible rfl)
              simp only [Act.put, List.setIfInBounds_toArray, List.set_cons_zero, List.set_cons_succ]
              refine wpA_one 17 (by kernel_rfl) rfl (fun K hK => ?_)
              go_simp
              refine hK.out _ _ ?_
              clear hK K
              try simp only [Act.put, List.getElem_toArray, List.getElem_cons_succ, List.getElem_cons_zero, List.setIfInBounds_toArray, List.set_cons_zero, List.set_cons_succ]
              have HO7 := Lib.hid (HO6.out.set (m + 1) a)
              have hb7 : Below w.heap.size w (w6.setCell ⟨gb, m + 1, none⟩ (.int .i32 a)) := HB6.out.setCell hgb _
              have HB7 := Lib.hid hb7
              clear hb7 hx6 f6
              generalize w6.setCell ⟨gb, m + 1, none⟩ (.int .i32 a) = w7 at *
              refine wpA_done (by kernel_rfl) ?_ _
              go_wp2
              go_roundw
              case rel => exact ⟨m, ra, qr ++ [a], by go_num, hm, by simp; omega, HINS.out, fun x hx => HM.out x (List.mem_cons_of_mem _ hx), by rw [HBV.out, ← HSW.out]; exact HO7.out, HB7.out⟩
              case measure => simp [intOf]
            · go_simp
              refine hK.out _ _ ?_
              clear hK K
              try simp only [Act.put, List.getElem_toArray, List.getElem_cons_succ, List.getElem_cons_zero, List.setIfInBounds_toArray, List.set_cons_zero, List.set_cons_succ]
              refine wpA_one 8 (by kernel_rfl) rfl (fun K hK => ?_)
              go_simp
              refine hK.out _ _ ?_
              clear hK K
              try simp only [Act.put, List.getElem_toArray, List.getElem_cons_succ, List.getElem_cons_zero, List.setIfInBounds_toArray, List.set_cons_zero, List.set_cons_succ]
              refine wpA_take 14 68 (v := ?v14q) rfl rfl (by kernel_rfl) (by kernel_rfl) (by kernel_rfl) (fun _ _ _ h => h) (Or.inl ⟨by rfl, ?y14q⟩) ?r14q
              case y14q => (intro W; go_simp; first | rw [if_pos hix1] | rw [if_pos hix0] | rw [if_pos hix0'] | skip; try with_reducible rfl)
              simp only [Act.put, List.setIfInBounds_toArray, List.set_cons_zero, List.set_cons_succ]
              refine wpA_one 15 (by kernel_rfl) rfl (fun K hK => ?_)
              go_simp
              refine hK.out _ _ ?_
              clear hK K
              try simp only [Act.put, List.getElem_toArray, List.getElem_cons_succ, List.getElem_cons_zero, List.setIfInBounds_toArray, List.set_cons_zero, List.set_cons_succ]
              have HO6 := Lib.hid (HO5.out.set m bv)
              have hx6 : (w5.setCell ⟨gb, m, none⟩ (.int .i32 bv)).cell? ⟨gb, m + 1, none⟩ = some (.int .i32 bv) := by have h := HO6.out.cell (m + 1) (by rw [List.length_set, cont_len]; simp; omega); rw [List.getD_eq_getElem?_getD, List.getElem?_set_ne (by omega), ← List.getD_eq_getElem?_getD, HAT.out] at h; exact h
              have f6 := World.ownsRow.frozenAt HO6.out (m + 1)
              have hb6 : Below w.heap.size w (w5.setCell ⟨gb, m, none⟩ (.int .i32 bv)) := HB5.out.setCell hgb _
              have HB6 := Lib.hid hb6
              clear hb6 hx5a hx5b f5
              generalize w5.setCell ⟨gb, m, none⟩ (.int .i32 bv) = w6 at *
              refine wpA_take 16 69 (v := ?v16q) rfl rfl (by kernel_rfl) (by kernel_rfl) (by kernel_rfl) (fun _ _ _ h => h) (Or.inl ⟨by rfl, ?y16q⟩) ?r16q
              case y16q => (intro W; go_simp; first | rw [if_pos hix1] | rw [if_pos hix0] | rw [if_pos hix0'] | skip; try with_reducible rfl)
              simp only [Act.put, List.setIfInBounds_toArray, List.set_cons_zero, List.set_cons_succ]
              refine wpA_one 17 (by kernel_rfl) rfl (fun K hK => ?_)
              go_simp
              refine hK.out _ _ ?_
              clear hK K
              try simp only [Act.put, List.getElem_toArray, List.getElem_cons_succ, List.getElem_cons_zero, List.setIfInBounds_toArray, List.set_cons_zero, List.set_cons_succ]
              have HO7 := Lib.hid (HO6.out.set (m + 1) a)
              have hb7 : Below w.heap.size w (w6.setCell ⟨gb, m + 1, none⟩ (.int .i32 a)) := HB6.out.setCell hgb _
              have HB7 := Lib.hid hb7
              clear hb7 hx6 f6
              generalize w6.setCell ⟨gb, m + 1, none⟩ (.int .i32 a) = w7 at *
              refine wpA_done (by kernel_rfl) ?_ _
              go_wp2
              go_roundw
              case rel => exact ⟨m, ra, qr ++ [a], by go_num, hm, by simp; omega, HINS.out, fun x hx => HM.out x (List.mem_cons_of_mem _ hx), by rw [HBV.out, ← HSW.out]; exact HO7.out, HB7.out⟩
              case measure => simp [intOf]
    · have HMM : Hid (ordAt l k = ordL cl5 l) := Lib.hid (by
        rcases hk with hk | hk
        · obtain rfl : k = n := by omega
          rw [← hlx]; exact ordAt_all l
        · subst hk
          rw [ordAt_one]
          exact (ordL_short (by omega)).symm)
      have hlt' : ¬ (k : Int) < n := by omega
      have HO := Lib.hid hO
      have HBE := Lib.hid hb
      clear hO hb HO1 HB1
      go_wp2
      go_ret
      exact ⟨_, rfl, by rw [← HMM.out, Own, ordAt_len, hlx]; exact HO.out, HBE.out⟩

theorem rorder_out (w : World) (R : Nat) (A : Option Addr) (n c : Nat) (l : List Int) (hA : RowIn w A n c l) (hT : DT w R) (hR : ∀ c ∈ l, R32 c) (hn : n ≤ 1000000000) :
    Calls Tryd.prog 46 #[.pointer (some ⟨R, 0, none⟩), .slice A n c] w (RowOut w (ordL cl5 l)) := (rorder_any w R A n c l hA hT hR hn).mono fun _ _ h => h.out
def RAllLoop (w : World) (l : List Int) (s5 s6 : Value) (wr : World) : Prop := ∃ k : Nat, k ≤ l.length ∧ s6 = .int .i64 k ∧ Own wr w.heap.size 21 .i32 s5 (partsF T5 (l.take k)) ∧ Below w.heap.size w wr
set_option maxHeartbeats 2000000 in
theorem rall_any (w : World) (R : Nat) (A : Option Addr) (n c : Nat) (l : List Int) (hA : RowIn w A n c l) (hT : DT w R) (hR : ∀ c ∈ l, R32 c) (hn : n ≤ 1000000) :
    Calls Tryd.prog 25 #[.pointer (some ⟨R, 0, none⟩), .slice A n c] w (RowOut w (allF T5 cl5 l)) := by
  have HA := Lib.hid hA
  have HT := Lib.hid hT
  have HR := Lib.hid hR
  have HL := Lib.hid hA.len
  clear hA hT hR
  go_enter Tryd.func25, Tryd.ntmps25
  go_wp2_with fail
  go_loopw [5, 6] (fun s5 s6 wr => RAllLoop w l s5 s6 wr) (fun _ i _ => n - (intOf i).toNat)
  case atStart => exact ⟨0, by omega, rfl, World.ownsRow_nil _ _ _ _, Below.refl _ _⟩
  case round =>
    obtain ⟨k, hk, rfl, hO, hb⟩ := hrel
    rw [HL.out] at hk
    have HO := Lib.hid hO
    have HBE := Lib.hid hb
    clear hO hb
    have hpl := partsF_len sy5_len (l.take k)
    rw [List.length_take, HL.out] at hpl
    by_cases hlt : k < n
    · obtain ⟨b, o, rfl, hbl, hc⟩ := HA.out.first (by omega)
      have h1 : wr.cell? ⟨b, o + k, none⟩ = some (.int .i32 (l.getD k 0)) := (HBE.out.cell (p := ⟨b, o + k, none⟩) hbl).trans (hc k hlt)
      have hlt' : (k : Int) < n := by omega
      have hkl : k < l.length := by rw [HL.out]; exact hlt
      have HS := Lib.hid (take_snoc l k hkl)
      have hmem : l.getD k 0 ∈ l := by
        rw [List.getD_eq_getElem?_getD, List.getElem?_eq_getElem hkl]
        exact List.getElem_mem hkl
      have hgw : w.heap.size ≤ wr.heap.size := HBE.out.size
      have HF := Lib.hid (rfull_any _ (HR.out _ hmem) wr R (HT.out.go HBE.out))
      generalize l.getD k 0 = x at *
      have hfl := fullF_len sy5_len x
      clear hc hmem
      go_wp2_with fail
      with_reducible refine HF.out.mono ?_
      rintro e w2 hres
      obtain ⟨A2, n2, c2, rfl, hr2, hb2⟩ := hres.out
      have HR2 := Lib.hid hr2
      have HO2 : Hid (Own w2 w.heap.size 21 .i32 u5 (partsF T5 (l.take k))) := Lib.hid (own_below HO.out hb2 (Nat.le_refl _))
      have HB2 := Lib.hid (HBE.out.trans (hb2.mono hgw))
      clear hr2 hb2 hres
      have hgw2 : w.heap.size ≤ w2.heap.size := HB2.out.size
      go_wp2_with (at_builtin; refine wpList_appL rfl (.tmp 13) (.tmp 19) 22 rfl w.heap.size 21 .i32 4 Tryd.underlying22 info_i32 (by omega) _ _ rfl HO2.out _ _ _ _ _ HR2.out.len rfl HR2.out.nil HR2.out.ints (by omega) hgw2 ?_; intro v3 w3 hO3 hG3)
      have HO3 := Lib.hid hO3
      have HB3 := Lib.hid (HB2.out.trans (hG3.below HO2.out hgw2))
      clear hO3 hG3
      go_wp2
      go_roundw
      case rel => exact ⟨k + 1, by rw [HL.out]; omega, by go_num, by rw [HS.out, partsF_snoc]; exact HO3.out, HB3.out⟩
      case measure => simp [intOf]; omega
    · have hkk : k = n := by omega
      subst hkk
      have hlt' : ¬ (k : Int) < k := by omega
      have ht : l.take k = l := List.take_of_length_le (by rw [HL.out]; exact Nat.le_refl _)
      rw [ht] at HO hpl
      have hO := HO.out
      obtain ⟨A2, c2, rfl, hc2, hcm⟩ := own_form hO
      have HRI := Lib.hid (RowIn.ofOwn hO)
      clear hO ht HO
      generalize hm : (partsF T5 l).length = m at *
      have HQ := Lib.hid (rorder_out wr R A2 m c2 _ HRI.out (HT.out.go HBE.out) (parts5_in HR.out) (by omega))
      clear hm
      go_wp2_with fail
      with_reducible refine HQ.out.mono ?_
      rintro e w3 ⟨A3, n3, c3, rfl, hr3, hb3⟩
      have HR3 := Lib.hid hr3
      have HB3 := Lib.hid (HBE.out.trans (hb3.mono HBE.out.size))
      clear hr3 hb3
      go_wp2
      go_ret
      exact ⟨A3, n3, c3, rfl, HR3.out, HB3.out⟩
end Go.Proofs.YtdmcidljjfogjaaDoor

/- What a walk stands on: tables and rows, by one name. -/
namespace Go.Proofs.YtdmcidljjfogjaaDoor
set_option maxRecDepth 100000
open Go.ChangeShapes Go.WideShapes Go.ChangeAt Go.RowKit
set_option linter.unusedVariables false
set_option linter.unusedSimpArgs false

/-- both tables and a row -/
structure Sit (w : World) (g R : Nat) (A : Option Addr) (n c : Nat) (l : List Int) (W : World) : Prop where
  t : TblAt W W.heap.size g C5 P5 S5
  d : DT W R
  r : RowIn W A n c l
  be : Below w.heap.size w W
theorem Sit.go {w W W' : World} {g R : Nat} {A : Option Addr} {n c : Nat} {l : List Int} (h : Sit w g R A n c l W) (hb : Below W.heap.size W W') : Sit w g R A n c l W' := ⟨h.t.go hb, h.d.go hb, h.r.go hb, h.be.trans (hb.mono h.be.size)⟩
theorem wf_r32 {c : Int} (h : (Lit.int .i32 c).wf = true) : R32 c := by
  simp [Lit.wf, IntKind.min, IntKind.max, IntKind.bits, IntKind.signed] at h
  unfold R32; omega
theorem ArgRow.rowIn {w : World} {a : Option Addr} {len cap : Nat} {z : List Int} (r : ArgRow .i32 w a len cap z) : RowIn w a len cap z := ⟨r.size, r.le, r.max, r.nil, r.row⟩
theorem ArgRow.r32 {w : World} {a : Option Addr} {len cap : Nat} {z : List Int} (r : ArgRow .i32 w a len cap z) : ∀ c ∈ z, R32 c := fun c hc => wf_r32 (r.wf c hc)

/-- at most 60 scalars -/
def RunesOut (w : World) (e : Ending) (w' : World) : Prop := ∃ A n c l, e = .returned (.slice A n c) ∧ RowIn w' A n c l ∧ (∀ x ∈ l, R32 x) ∧ n ≤ 60 ∧ Below w.heap.size w w'
theorem isB_r32 {c : Int} (h : isB c = true) : R32 c := by
  unfold isB at h
  simp at h
  unfold R32; omega
theorem SomeRow.out {w w' : World} {e : Ending} (h : SomeRow w e w') : RunesOut w e w' := by
  obtain ⟨v, l, rfl, hO, hs, hl, hb⟩ := h
  obtain ⟨A, c, rfl, hc, hcm⟩ := own_form hO
  exact ⟨A, _, c, l, rfl, RowIn.ofOwn hO, fun x hx => isB_r32 (hs x hx), hl, hb⟩
theorem ArgRow.go {k : IntKind} {w w' : World} {a : Option Addr} {len cap : Nat} {z : List Int} (r : ArgRow k w a len cap z) (hb : Below w.heap.size w w') : ArgRow k w' a len cap z := ⟨r.size, r.le, r.max, r.nil, r.row.go hb, r.wf⟩
theorem runes7 {w : World} {a : Option Addr} {len cap : Nat} {z : List Int} (r : ArgRow .i64 w a len cap z) : Calls Tryd.prog 22 #[.slice a len cap] w (RunesOut w) := (runes_any a len cap z w r).mono fun _ _ h => h.out

/-- the program's tables and a row -/
structure Si1 (w : World) (g : Nat) (A : Option Addr) (n c : Nat) (l : List Int) (W : World) : Prop where
  t : TblAt W W.heap.size g C5 P5 S5
  r : RowIn W A n c l
  be : Below w.heap.size w W
theorem Si1.go {w W W' : World} {g : Nat} {A : Option Addr} {n c : Nat} {l : List Int} (h : Si1 w g A n c l W) (hb : Below W.heap.size W W') : Si1 w g A n c l W' := ⟨h.t.go hb, h.r.go hb, h.be.trans (hb.mono h.be.size)⟩
end Go.Proofs.YtdmcidljjfogjaaDoor
