/- Joined of: U5It, U5Data, U5GAt, U5Cls, U5Sgl, U5Par, Reg, U5Tbl. -/
import Derived.RangeFuncNested
import Derived.RangeFuncBound
import Derived.RangeFuncCalls
import Derived.RangeFuncLeaves
import Derived.RangeFuncBox
import Derived.Shelf.Abstract
import Derived.WalkKit
import Derived.OwnWalkIn
import Derived.TacticsInMore
import Derived.LoopNIn
import Derived.LoopIn
import Derived.StillTailTactics
import Derived.Laws.BitsLemmas
import Derived.Test.YtdmcidljjfogjaaDoorJ9B
import Derived.Test.YtdmcidljjfogjaaDoorJ9A
import Derived.OrdersHeld
import Derived.Deep.RegionHeld
/- ucd's iterator over the entries of a text: entries$1 and entries by contracts. -/
namespace Go.Proofs.YtdmcidljjfogjaaDoor
open Go.RowKit Go.Shelf
set_option linter.unusedVariables false
set_option linter.unusedSimpArgs false
attribute [local go_sem] Oper.semAt_some

/-- a fence that lets everything by -/
structure Wide (F : Fence) : Prop where
  fn : ∀ k, F.fn k
  depth : F.depth = none
  round : F.round = none
  calls : ∀ {n : Nat} {f : FuncId} {args : Array Value} {w : World} {R : Ending → World → Prop}, Calls Tryd.prog f args w R → CallsIn F n Tryd.prog f args w R
  wp : ∀ {n : Nat} {c : Code} {Q : Exit → Act → World → Prop} {a : Act} {w : World}, c.wp Tryd.prog Q a w → c.wpIn F n Tryd.prog Q a w
  out : ∀ {n : Nat} {c : Code} {Q : Exit → Act → World → Prop} {a : Act} {w : World}, c.wpIn F n Tryd.prog Q a w → c.wp Tryd.prog Q a w
theorem wide_is : Wide Fence.wide := ⟨fun _ => trivial, rfl, rfl, fun h => callsIn_wide.2 h, fun h => wpIn_wide.2 h, fun h => wpIn_wide.1 h⟩

/-- cells of an entry -/
def isEnt (o : Obj) : Prop := ∃ cs, o = .cells cs 60 (0, 0)
def entC (e : Ent) : Array Value := #[.int .i32 e.n0, .int .i32 e.n1, .int .i32 e.n2, .int .i64 e.l, .bool e.o]
def entV (e : Ent) : Value := .agg (entC e)

theorem i32_or4 {x y : Int} (hx₀ : 0 ≤ x) (hx : x % 16 = 0) (hx₁ : x < 2147483648) (h₀ : 0 ≤ y) (h₁ : y < 16) : bits .or .i32 x y = x + y :=
  bits_join .i32 31 (by decide) wraps_i32 4 x y hx₀ hx hx₁ h₀ h₁ (by omega)
theorem still_but (g : Nat) (w : World) : But g w { w with drawn := w.drawn + 1 } := ⟨rfl, rfl, rfl, Nat.le_refl _, fun _ _ _ => rfl⟩
/-- a struct of five cells written whole -/
abbrev five (w : World) (g : Nat) (a b c d e : Value) : World := ((((w.setCell ⟨g, 0, none⟩ a).setCell ⟨g, 1, none⟩ b).setCell ⟨g, 2, none⟩ c).setCell ⟨g, 3, none⟩ d).setCell ⟨g, 4, none⟩ e
theorem five_but (w : World) (g : Nat) (a b c d e : Value) : But g w (five w g a b c d e) := (((((But.refl g w).set 0 a).set 1 b).set 2 c).set 3 d).set 4 e
theorem five_blk {w : World} {g : Nat} {t : TypeId} {u0 u1 u2 u3 u4 : Value} (h : Blk w g t #[u0, u1, u2, u3, u4]) (a b c d e : Value) : Blk (five w g a b c d e) g t #[a, b, c, d, e] := by
  have := ((((h.set 0 a).set 1 b).set 2 c).set 3 d).set 4 e
  simpa using this
/-- where the iterator stands behind k bytes -/
def ItRel (s : ByteArray) (Bs E : Nat) (J : List Ent → World → Prop) (k : Nat) (w : World) : Prop :=
  J (ems ((bytesOf s).take k) zeroE) w ∧ Blk w E 60 (entC (cur ((bytesOf s).take k) zeroE)) ∧ Blk w Bs 9 #[.string s]

set_option maxRecDepth 100000 in
set_option maxHeartbeats 2000000 in
theorem entries1_in (F : Fence) (hF : Wide F) (n l B Bs : Nat) (s : ByteArray) (hs : s.size ≤ 65536) (hok : okAll (bytesOf s) zeroE = true) (J Jx : List Ent → World → Prop)
    (hJ : ∀ p W W', J p W → But (B + 2) W W' → J p W') (hJx : ∀ p W W', Jx p W → But (B + 2) W W' → Jx p W')
    (hY : ∀ pre x W, J pre W → pre ++ [x] <+: ents (bytesOf s) → (∃ o, W.heap[B + 2]? = some o ∧ isEnt o) → YieldAt F (n - 1) Tryd.prog l #[entV x] W fun e W' =>
      (e = .returned (.bool true) ∧ J (pre ++ [x]) W' ∧ Kept [B + 2, Bs] W W') ∨ (e = .returned (.bool false) ∧ Jx (pre ++ [x]) W'))
    (W : World) (hsz : W.heap.size = B + 2) (hBs : Blk W Bs 9 #[.string s]) (hBl : Bs < B) (h0 : J [] W) :
    CallsIn F n Tryd.prog 47 #[.func (.yield l) #[] #[], .pointer (some ⟨Bs, 0, none⟩)] W fun e W' => (∃ v, e = .returned v) ∧
      ((∃ ys, ys = ents (bytesOf s) ∧ J ys W') ∨ (∃ pre, pre <+: ents (bytesOf s) ∧ Jx pre W')) := by
  have hd := hF.depth
  have hro := hF.round
  have hdd : ∀ k : Nat, (F.depth.isSome = true → 1 ≤ k) := fun k h => by rw [hd] at h; cases h
  have h35 := hF.fn 47
  have h36 := hF.fn 48
  have hc0 : W.cell? ⟨Bs, 0, none⟩ = some (.string s) := hBs.cell 0
  have hlt0 : Bs < W.heap.size := hBs.lt
  have HY := Lib.hid hY
  have HJ := Lib.hid hJ
  have HOK := Lib.hid hok
  have HSZ := Lib.hid hsz
  clear hY hJ hok hsz
  refine callsIn_of_wp Tryd.func47 rfl h35 ?_ hro
  simp only [Tryd.ntmps47, List.size_toArray, List.length_cons, List.length_nil, Nat.reduceAdd, Nat.reduceSub, Array.replicate_succ, Array.replicate_zero, List.push_toArray, List.append_toArray, List.nil_append, List.cons_append]
  gi_wp2
  gi_loopw [8] (fun i wr => ∃ k : Nat, k ≤ s.size ∧ i = .int .i64 k ∧ ItRel s Bs W.heap.size J k wr) (fun i _ => s.size - (intOf i).toNat)
  case atStart => exact ⟨0, Nat.zero_le _, rfl, HJ.out _ _ _ h0 (but_alloc _ _ _), Blk.new W 60 _, hBs.alloc _⟩
  case round =>
    obtain ⟨k, hk, rfl, hJs, hE, hBk⟩ := hrel
    have cs : wr.cell? ⟨Bs, 0, none⟩ = some (.string s) := hBk.cell 0
    by_cases hlt : k < s.size
    · have hlt' : (k : Int) < s.size := by omega
      have HX := Lib.hid (bytesOf_at s k hlt)
      have HT : Hid ((bytesOf s).take (k + 1) = (bytesOf s).take k ++ [s[k].toNat]) := Lib.hid (by
        rw [List.take_succ_eq_append_getElem (by rw [bytesOf_len]; exact hlt), ← bytesOf_at s k hlt, List.getD_eq_getElem?_getD, List.getElem?_eq_getElem (by rw [bytesOf_len]; exact hlt)]; rfl)
      have HO := Lib.hid (okAll_at _ _ HOK.out k (by rw [bytesOf_len]; exact hlt))
      have HJs := Lib.hid hJs
      have hsn := ems_snoc s[k].toNat ((bytesOf s).take k) zeroE
      have hcn := cur_snoc s[k].toNat ((bytesOf s).take k) zeroE
      have hpre := ems_pre (bytesOf s) (k + 1)
      rw [HT.out, hsn] at hpre
      rw [HX.out] at HO
      have HE := Lib.hid hE
      have HB := Lib.hid hBk
      have HSN := Lib.hid hsn
      have HCN := Lib.hid hcn
      have HP := Lib.hid hpre
      clear hJs hE hBk hc0 hsn hcn hpre
      have hli := cur_l ((bytesOf s).take k) zeroE
      have hli2 : ((bytesOf s).take k).length ≤ k := List.length_take_le _ _
      have hli : (cur ((bytesOf s).take k) zeroE).l ≤ 65536 := by simp only [zeroE] at hli ⊢; omega
      clear hli2
      generalize cur ((bytesOf s).take k) zeroE = e at *
      obtain ⟨n0, n1, n2, li, o⟩ := e
      dsimp only at hli
      have c0 : wr.cell? ⟨W.heap.size, 0, none⟩ = some (.int .i32 n0) := HE.out.cell 0
      have c1 : wr.cell? ⟨W.heap.size, 1, none⟩ = some (.int .i32 n1) := HE.out.cell 1
      have c2 : wr.cell? ⟨W.heap.size, 2, none⟩ = some (.int .i32 n2) := HE.out.cell 2
      have c3 : wr.cell? ⟨W.heap.size, 3, none⟩ = some (.int .i64 li) := HE.out.cell 3
      have c4 : wr.cell? ⟨W.heap.size, 4, none⟩ = some (.bool o) := HE.out.cell 4
      by_cases hsep : isSep s[k].toNat = true
      · have HPX : Hid (ems ((bytesOf s).take k) zeroE ++ [⟨n0, n1, n2, li, o⟩] <+: ents (bytesOf s)) := Lib.hid (by
          have := HP.out; rwa [hsep] at this)
        have b44 : ((s[k].toNat : Int) == 44) = true ∨ (((s[k].toNat : Int) == 44) = false ∧ ((s[k].toNat : Int) == 10) = true) := by
          simp only [isSep, Bool.or_eq_true, Nat.beq_eq] at hsep
          by_cases h : s[k].toNat = 44
          · exact .inl (by simp [h])
          · exact .inr ⟨by simp; omega, by simp; omega⟩
        rcases b44 with b44 | ⟨b44, b10⟩
        all_goals
          have hy' := HY.out (ems ((bytesOf s).take k) zeroE) ⟨n0, n1, n2, li, o⟩ wr HJs.out HPX.out (by rw [← HSZ.out]; exact ⟨_, HE.out, _, rfl⟩)
          obtain ⟨fn, tmps, assign, body, hy, hR⟩ := hy'
          dsimp only [entV, entC] at hy
          gi_wp2_with fail
          refine hR.mono ?_
          clear hR
          rintro e W3 (⟨rfl, hJ3, hk3⟩ | ⟨rfl, hx3⟩)
          · have E3 : Blk W3 W.heap.size 60 (entC ⟨n0, n1, n2, li, o⟩) := (hk3 _ (by rw [HSZ.out]; simp)).trans HE.out
            have B3 : Blk W3 Bs 9 #[.string s] := (hk3 _ (by simp)).trans HB.out
            have d0 : W3.cell? ⟨W.heap.size, 0, none⟩ = some (.int .i32 n0) := E3.cell 0
            have d1 : W3.cell? ⟨W.heap.size, 1, none⟩ = some (.int .i32 n1) := E3.cell 1
            have d2 : W3.cell? ⟨W.heap.size, 2, none⟩ = some (.int .i32 n2) := E3.cell 2
            have d3 : W3.cell? ⟨W.heap.size, 3, none⟩ = some (.int .i64 li) := E3.cell 3
            have d4 : W3.cell? ⟨W.heap.size, 4, none⟩ = some (.bool o) := E3.cell 4
            have g0 := E3.frozen 0
            have g1 := E3.frozen 1
            have g2 := E3.frozen 2
            have g3 := E3.frozen 3
            have g4 := E3.frozen 4
            have HE3 := Lib.hid E3
            have HB3 := Lib.hid B3
            have HJ3 := Lib.hid hJ3
            clear hy hk3 E3 B3 hJ3
            gi_wp2
            go_roundw
            case rel =>
              refine ⟨k + 1, by omega, by go_num, ?_, ?_, ?_⟩
              · rw [HT.out, HSN.out, hsep]
                exact HJ.out _ _ _ HJ3.out (by rw [← HSZ.out]; exact five_but _ _ _ _ _ _ _)
              · rw [HT.out, HCN.out, show estep ⟨n0, n1, n2, li, o⟩ s[k].toNat = zeroE by unfold estep; rw [hsep]; rfl]
                exact five_blk HE3.out _ _ _ _ _
              · exact (five_but _ _ _ _ _ _ _).blk HB3.out (by omega)
            case measure => simp [intOf]; omega
          · clear hy
            gi_wp2
            refine bodyPost_ret (results_none rfl _ _ _) rfl ?_
            exact ⟨⟨_, rfl⟩, .inr ⟨_, HPX.out, hx3⟩⟩
      · have hs0 : isSep s[k].toNat = false := by simpa using hsep
        have hns : s[k].toNat ≠ 44 ∧ s[k].toNat ≠ 10 := by
          constructor <;> (intro h; rw [h] at hs0; exact absurd hs0 (by decide))
        have b44 : ((s[k].toNat : Int) == 44) = false := by simp; omega
        have b10 : ((s[k].toNat : Int) == 10) = false := by simp; omega
        have HS0 := Lib.hid hs0
        clear hsep hs0
        have g0 := HE.out.frozen 0
        have g1 := HE.out.frozen 1
        have g2 := HE.out.frozen 2
        have g3 := HE.out.frozen 3
        have g4 := HE.out.frozen 4
        by_cases h32 : s[k].toNat = 32
        · have b32 : ((s[k].toNat : Int) == 32) = true := by simp [h32]
          have H32 := Lib.hid h32
          have hl0 : (0 : Int) ≤ li := by omega
          have hl1 : (li : Int) ≤ 65536 := by omega
          clear h32
          gi_wp2
          go_roundw
          case rel =>
            refine ⟨k + 1, by omega, by go_num, ?_, ?_, ?_⟩
            · rw [HT.out, HSN.out, HS0.out]
              simp only [cond_false, List.append_nil]
              exact HJ.out _ _ _ HJs.out (by rw [← HSZ.out]; exact (But.refl _ _).set _ _)
            · rw [HT.out, HCN.out, show estep ⟨n0, n1, n2, li, o⟩ s[k].toNat = ⟨n0, n1, n2, li + 1, o⟩ by unfold estep; rw [HS0.out, H32.out]; rfl]
              have := HE.out.set 3 (.int .i64 (li + 1))
              simpa [entC] using this
            · exact ((But.refl _ _).set _ _).blk HB.out (by omega)
          case measure => simp [intOf]; omega
        · have b32 : ((s[k].toNat : Int) == 32) = false := by simp; omega
          have n32 : Nat.beq s[k].toNat 32 = false := by rw [Bool.eq_false_iff]; simpa [Nat.beq_eq] using h32
          have N32 := Lib.hid n32
          clear n32 h32
          by_cases h33 : s[k].toNat = 33
          · have b33 : ((s[k].toNat : Int) == 33) = true := by simp [h33]
            have H33 := Lib.hid h33
            clear h33
            gi_wp2
            go_roundw
            case rel =>
              refine ⟨k + 1, by omega, by go_num, ?_, ?_, ?_⟩
              · rw [HT.out, HSN.out, HS0.out]
                simp only [cond_false, List.append_nil]
                exact HJ.out _ _ _ HJs.out (by rw [← HSZ.out]; exact (But.refl _ _).set _ _)
              · rw [HT.out, HCN.out, show estep ⟨n0, n1, n2, li, o⟩ s[k].toNat = ⟨n0, n1, n2, li, true⟩ by unfold estep; rw [HS0.out, N32.out, H33.out]; rfl]
                have := HE.out.set 4 (.bool true)
                simpa [entC] using this
              · exact ((But.refl _ _).set _ _).blk HB.out (by omega)
            case measure => simp [intOf]; omega
          · have b33 : ((s[k].toNat : Int) == 33) = false := by simp; omega
            have n33 : Nat.beq s[k].toNat 33 = false := by rw [Bool.eq_false_iff]; simpa [Nat.beq_eq] using h33
            have hoo := HO.out
            simp only [okE, HS0.out, N32.out, n33, Bool.false_or, Bool.and_eq_true, Nat.ble_eq] at hoo
            obtain ⟨hl2, hdig, hnth⟩ := hoo
            have N33 := Lib.hid n33
            have hd16 := dgt_lt hdig
            have HD := Lib.hid (fun w => (udigit_any s[k].toNat w hdig).mono (R' := fun e w' => e = .returned (.int .i32 (dgt s[k].toNat)) ∧ w' = w) fun _ _ h => ⟨h.1, h.2.symm⟩)
            clear n33 h33 hdig
            have hst : Hid (∀ v, estep ⟨n0, n1, n2, li, o⟩ s[k].toNat = v → True) := Lib.hid (fun _ _ => trivial)
            generalize hdd2 : dgt s[k].toNat = dg at *
            have HDG := Lib.hid hdd2
            clear hdd2
            obtain rfl | rfl | rfl : li = 0 ∨ li = 1 ∨ li = 2 := by omega
            · have hn0 : (0 : Int) ≤ n0 := by omega
              have hn1 : (n0 : Int) ≤ 100000000 := by simp only [Ent.nth] at hnth; omega
              have hd0 : (0 : Int) ≤ dg := by omega
              have hd1 : (dg : Int) < 16 := by omega
              have hbit : bits .or .i32 ((n0 : Int) * 16) dg = (n0 : Int) * 16 + dg := i32_or4 (by omega) (by omega) (by omega) hd0 hd1
              clear hnth hd16 hl2 hst
              gi_wp2
              refine hF.wp ?_
              refine wp_region_still_tail 13 (by kernel_rfl) (by kernel_rfl) ?_
              simp only [List.take_succ_cons, List.take_zero, List.drop_succ_cons, List.drop_zero]
              generalize hW1 : ({ wr with drawn := wr.drawn + 1 } : World) = W1
              have e0 : W1.cell? ⟨W.heap.size, 0, none⟩ = some (.int .i32 n0) := by rw [← hW1]; exact c0
              have e1 : W1.cell? ⟨W.heap.size, 1, none⟩ = some (.int .i32 n1) := by rw [← hW1]; exact c1
              have e2 : W1.cell? ⟨W.heap.size, 2, none⟩ = some (.int .i32 n2) := by rw [← hW1]; exact c2
              have e3 : W1.cell? ⟨W.heap.size, 3, none⟩ = some (.int .i64 0) := by rw [← hW1]; exact c3
              have f0 : W1.frozen? ⟨W.heap.size, 0, none⟩ = false := by rw [← hW1]; exact g0
              have f1 : W1.frozen? ⟨W.heap.size, 1, none⟩ = false := by rw [← hW1]; exact g1
              have f2 : W1.frozen? ⟨W.heap.size, 2, none⟩ = false := by rw [← hW1]; exact g2
              have HW1 := Lib.hid hW1
              clear hW1 c0 c1 c2 c3 c4 g0 g1 g2 g3 g4 cs
              repeat still_step
              still_call (HD.out _)
              repeat still_step
              refine wpStill_nil ?_
              go_wp2
              gi_wp2
              go_roundw
              case rel =>
                refine ⟨k + 1, by omega, by go_num, ?_, ?_, ?_⟩
                · rw [HT.out, HSN.out, HS0.out]
                  simp only [cond_false, List.append_nil]
                  exact HJ.out _ _ _ HJs.out (by rw [← HSZ.out, ← HW1.out]; exact (still_but _ _).set _ _)
                · rw [HT.out, HCN.out, show estep ⟨n0, n1, n2, 0, o⟩ s[k].toNat = ⟨16 * n0 + dg, n1, n2, 0, o⟩ by unfold estep; rw [HS0.out, N32.out, N33.out, HDG.out]; rfl]
                  rw [← HW1.out]
                  have := (HE.out.drew).set 0 (.int .i32 ((16 * n0 + dg : Nat) : Int))
                  simpa [entC, Int.mul_comm] using this
                · rw [← HW1.out]; exact ((still_but _ _).set _ _).blk HB.out (by omega)
              case measure => simp [intOf]; omega
            · have hn0 : (0 : Int) ≤ n1 := by omega
              have hn1 : (n1 : Int) ≤ 100000000 := by simp only [Ent.nth] at hnth; omega
              have hd0 : (0 : Int) ≤ dg := by omega
              have hd1 : (dg : Int) < 16 := by omega
              have hbit : bits .or .i32 ((n1 : Int) * 16) dg = (n1 : Int) * 16 + dg := i32_or4 (by omega) (by omega) (by omega) hd0 hd1
              clear hnth hd16 hl2 hst
              gi_wp2
              refine hF.wp ?_
              refine wp_region_still_tail 13 (by kernel_rfl) (by kernel_rfl) ?_
              simp only [List.take_succ_cons, List.take_zero, List.drop_succ_cons, List.drop_zero]
              generalize hW1 : ({ wr with drawn := wr.drawn + 1 } : World) = W1
              have e0 : W1.cell? ⟨W.heap.size, 0, none⟩ = some (.int .i32 n0) := by rw [← hW1]; exact c0
              have e1 : W1.cell? ⟨W.heap.size, 1, none⟩ = some (.int .i32 n1) := by rw [← hW1]; exact c1
              have e2 : W1.cell? ⟨W.heap.size, 2, none⟩ = some (.int .i32 n2) := by rw [← hW1]; exact c2
              have e3 : W1.cell? ⟨W.heap.size, 3, none⟩ = some (.int .i64 1) := by rw [← hW1]; exact c3
              have f0 : W1.frozen? ⟨W.heap.size, 0, none⟩ = false := by rw [← hW1]; exact g0
              have f1 : W1.frozen? ⟨W.heap.size, 1, none⟩ = false := by rw [← hW1]; exact g1
              have f2 : W1.frozen? ⟨W.heap.size, 2, none⟩ = false := by rw [← hW1]; exact g2
              have HW1 := Lib.hid hW1
              clear hW1 c0 c1 c2 c3 c4 g0 g1 g2 g3 g4 cs
              repeat still_step
              still_call (HD.out _)
              repeat still_step
              refine wpStill_nil ?_
              go_wp2
              gi_wp2
              go_roundw
              case rel =>
                refine ⟨k + 1, by omega, by go_num, ?_, ?_, ?_⟩
                · rw [HT.out, HSN.out, HS0.out]
                  simp only [cond_false, List.append_nil]
                  exact HJ.out _ _ _ HJs.out (by rw [← HSZ.out, ← HW1.out]; exact (still_but _ _).set _ _)
                · rw [HT.out, HCN.out, show estep ⟨n0, n1, n2, 1, o⟩ s[k].toNat = ⟨n0, 16 * n1 + dg, n2, 1, o⟩ by unfold estep; rw [HS0.out, N32.out, N33.out, HDG.out]; rfl]
                  rw [← HW1.out]
                  have := (HE.out.drew).set 1 (.int .i32 ((16 * n1 + dg : Nat) : Int))
                  simpa [entC, Int.mul_comm] using this
                · rw [← HW1.out]; exact ((still_but _ _).set _ _).blk HB.out (by omega)
              case measure => simp [intOf]; omega
            · have hn0 : (0 : Int) ≤ n2 := by omega
              have hn1 : (n2 : Int) ≤ 100000000 := by simp only [Ent.nth] at hnth; omega
              have hd0 : (0 : Int) ≤ dg := by omega
              have hd1 : (dg : Int) < 16 := by omega
              have hbit : bits .or .i32 ((n2 : Int) * 16) dg = (n2 : Int) * 16 + dg := i32_or4 (by omega) (by omega) (by omega) hd0 hd1
              clear hnth hd16 hl2 hst
              gi_wp2
              refine hF.wp ?_
              refine wp_region_still_tail 13 (by kernel_rfl) (by kernel_rfl) ?_
              simp only [List.take_succ_cons, List.take_zero, List.drop_succ_cons, List.drop_zero]
              generalize hW1 : ({ wr with drawn := wr.drawn + 1 } : World) = W1
              have e0 : W1.cell? ⟨W.heap.size, 0, none⟩ = some (.int .i32 n0) := by rw [← hW1]; exact c0
              have e1 : W1.cell? ⟨W.heap.size, 1, none⟩ = some (.int .i32 n1) := by rw [← hW1]; exact c1
              have e2 : W1.cell? ⟨W.heap.size, 2, none⟩ = some (.int .i32 n2) := by rw [← hW1]; exact c2
              have e3 : W1.cell? ⟨W.heap.size, 3, none⟩ = some (.int .i64 2) := by rw [← hW1]; exact c3
              have f0 : W1.frozen? ⟨W.heap.size, 0, none⟩ = false := by rw [← hW1]; exact g0
              have f1 : W1.frozen? ⟨W.heap.size, 1, none⟩ = false := by rw [← hW1]; exact g1
              have f2 : W1.frozen? ⟨W.heap.size, 2, none⟩ = false := by rw [← hW1]; exact g2
              have HW1 := Lib.hid hW1
              clear hW1 c0 c1 c2 c3 c4 g0 g1 g2 g3 g4 cs
              repeat still_step
              still_call (HD.out _)
              repeat still_step
              refine wpStill_nil ?_
              go_wp2
              gi_wp2
              go_roundw
              case rel =>
                refine ⟨k + 1, by omega, by go_num, ?_, ?_, ?_⟩
                · rw [HT.out, HSN.out, HS0.out]
                  simp only [cond_false, List.append_nil]
                  exact HJ.out _ _ _ HJs.out (by rw [← HSZ.out, ← HW1.out]; exact (still_but _ _).set _ _)
                · rw [HT.out, HCN.out, show estep ⟨n0, n1, n2, 2, o⟩ s[k].toNat = ⟨n0, n1, 16 * n2 + dg, 2, o⟩ by unfold estep; rw [HS0.out, N32.out, N33.out, HDG.out]; rfl]
                  rw [← HW1.out]
                  have := (HE.out.drew).set 2 (.int .i32 ((16 * n2 + dg : Nat) : Int))
                  simpa [entC, Int.mul_comm] using this
                · rw [← HW1.out]; exact ((still_but _ _).set _ _).blk HB.out (by omega)
              case measure => simp [intOf]; omega
    · obtain rfl : k = s.size := by omega
      have hlt' : ¬ (s.size : Int) < s.size := by omega
      rw [List.take_of_length_le (by rw [bytesOf_len]; exact Nat.le_refl _)] at hJs hE
      have HJs := Lib.hid hJs
      have HE := Lib.hid hE
      have HEN : Hid (ems (bytesOf s) zeroE ++ [cur (bytesOf s) zeroE] = ents (bytesOf s)) := Lib.hid rfl
      have HLN : Hid ((ems (bytesOf s) zeroE).length < (ents (bytesOf s)).length) := Lib.hid (by unfold ents; rw [List.length_append]; simp)
      clear hJs hE hBk hc0
      generalize cur (bytesOf s) zeroE = e at *
      obtain ⟨n0, n1, n2, li, o⟩ := e
      have c0 : wr.cell? ⟨W.heap.size, 0, none⟩ = some (.int .i32 n0) := HE.out.cell 0
      have c1 : wr.cell? ⟨W.heap.size, 1, none⟩ = some (.int .i32 n1) := HE.out.cell 1
      have c2 : wr.cell? ⟨W.heap.size, 2, none⟩ = some (.int .i32 n2) := HE.out.cell 2
      have c3 : wr.cell? ⟨W.heap.size, 3, none⟩ = some (.int .i64 li) := HE.out.cell 3
      have c4 : wr.cell? ⟨W.heap.size, 4, none⟩ = some (.bool o) := HE.out.cell 4
      have hy' := HY.out (ems (bytesOf s) zeroE) ⟨n0, n1, n2, li, o⟩ wr HJs.out (by rw [HEN.out]; exact List.prefix_rfl) (by rw [← HSZ.out]; exact ⟨_, HE.out, _, rfl⟩)
      obtain ⟨fn, tmps, assign, body, hy, hR⟩ := hy'
      dsimp only [entV, entC] at hy
      gi_wp2_with fail
      refine hR.mono ?_
      clear hR
      rintro e W3 (⟨rfl, hJ3, hk3⟩ | ⟨rfl, hx3⟩)
      · clear hy
        gi_wp2
        go_end0
        exact ⟨⟨_, rfl⟩, .inl ⟨_, HEN.out, hJ3⟩⟩
      · clear hy
        gi_wp2
        go_end0
        exact ⟨⟨_, rfl⟩, .inr ⟨_, by rw [HEN.out]; exact List.prefix_rfl, hx3⟩⟩

set_option maxHeartbeats 1000000 in
theorem entries_in (F : Fence) (hF : Wide F) (n : Nat) (s : ByteArray) (w : World) :
    CallsIn F n Tryd.prog 26 #[.string s] w fun e w' => e = .returned (.func (.func 47) #[] #[.pointer (some ⟨w.heap.size, 0, none⟩)]) ∧ w' = w.alloc (.cells #[.string s] 9) := by
  have hro := hF.round
  refine callsIn_of_wp Tryd.func26 rfl (hF.fn _) ?_ hro
  simp only [Tryd.ntmps26, List.size_toArray, List.length_cons, List.length_nil, Nat.reduceAdd, Nat.reduceSub, Array.replicate_succ, Array.replicate_zero, List.push_toArray, List.append_toArray, List.nil_append, List.cons_append]
  gi_wp2
  go_ret
  exact ⟨rfl, rfl⟩

theorem entries_seq (F : Fence) (hF : Wide F) (n : Nat) (Bs B : Nat) (s : ByteArray) (hs : s.size ≤ 65536) (hok : okAll (bytesOf s) zeroE = true) (W1 : World) (hsz : W1.heap.size = B + 2) (hBs : Blk W1 Bs 9 #[.string s]) (hBl : Bs < B) :
    SeqE F n Tryd.prog 47 #[.pointer (some ⟨Bs, 0, none⟩)] (fun x : Ent => #[entV x]) [Bs] (fun ys => ys = ents (bytesOf s)) (fun pre => pre <+: ents (bytesOf s)) isEnt B W1 := fun l J Jx hJ hJx hY h0 =>
  entries1_in F hF n l B Bs s hs hok J Jx hJ hJx hY W1 hsz hBs hBl h0
end Go.Proofs.YtdmcidljjfogjaaDoor

/- Layer 5: what comes of the entries: classes, pairs, singles, seconds, what is joined. No program in it. -/
namespace Go.Proofs.YtdmcidljjfogjaaDoor

def castE (l : List (Nat × Nat)) : List (Int × Int) := l.map fun e => ((e.1 : Int), (e.2 : Int))
theorem castE_app (l m : List (Nat × Nat)) : castE (l ++ m) = castE l ++ castE m := List.map_append
theorem castE_len (l : List (Nat × Nat)) : (castE l).length = l.length := List.length_map _
/-- so many places in a row -/
def run5 : Nat → Nat → Nat → List (Nat × Nat)
  | _, 0, _ => []
  | c, m + 1, v => (c, v) :: run5 (c + 1) m v
theorem run5_snoc : ∀ (m c v : Nat), run5 c (m + 1) v = run5 c m v ++ [(c + m, v)]
  | 0, _, _ => rfl
  | m + 1, c, v => by
    show (c, v) :: run5 (c + 1) (m + 1) v = (c, v) :: (run5 (c + 1) m v ++ [(c + (m + 1), v)])
    rw [run5_snoc m (c + 1) v, show c + 1 + m = c + (m + 1) by omega]
theorem run5_len : ∀ (m c v : Nat), (run5 c m v).length = m
  | 0, _, _ => rfl
  | m + 1, c, v => by
    show (run5 (c + 1) m v).length + 1 = m + 1
    rw [run5_len m]
/-- a pair: its place, the two, left out or not -/
structure Pr5 where
  c : Nat
  x : Nat
  y : Nat
  o : Bool

/-! ### by the entries -/
def clsE : Nat → List Ent → List (Nat × Nat)
  | _, [] => []
  | a, e :: r => run5 (a + e.n0) e.n1 e.n2 ++ clsE (a + e.n0 + e.n1) r
def endC : Nat → List Ent → Nat
  | a, [] => a
  | a, e :: r => endC (a + e.n0 + e.n1) r
def prE : Nat → List Ent → List Pr5
  | _, [] => []
  | a, e :: r => ⟨a + e.n0, e.n1, e.n2, e.o⟩ :: prE (a + e.n0) r
def endP : Nat → List Ent → Nat
  | a, [] => a
  | a, e :: r => endP (a + e.n0) r
def sgE : Nat → List Ent → List (Nat × Nat)
  | _, [] => []
  | a, e :: r => (a + e.n0, e.n1) :: sgE (a + e.n0) r
theorem clsE_snoc (e : Ent) : ∀ (p : List Ent) (a : Nat), clsE a (p ++ [e]) = clsE a p ++ run5 (endC a p + e.n0) e.n1 e.n2
  | [], a => by show run5 (a + e.n0) e.n1 e.n2 ++ [] = _; simp [clsE, endC]
  | x :: r, a => by
    show run5 (a + x.n0) x.n1 x.n2 ++ clsE (a + x.n0 + x.n1) (r ++ [e]) = (run5 (a + x.n0) x.n1 x.n2 ++ clsE (a + x.n0 + x.n1) r) ++ _
    rw [clsE_snoc e r, List.append_assoc]; rfl
theorem endC_snoc (e : Ent) : ∀ (p : List Ent) (a : Nat), endC a (p ++ [e]) = endC a p + e.n0 + e.n1
  | [], _ => rfl
  | x :: r, a => endC_snoc e r (a + x.n0 + x.n1)
theorem prE_snoc (e : Ent) : ∀ (p : List Ent) (a : Nat), prE a (p ++ [e]) = prE a p ++ [⟨endP a p + e.n0, e.n1, e.n2, e.o⟩]
  | [], _ => rfl
  | x :: r, a => by
    show _ :: prE (a + x.n0) (r ++ [e]) = _ :: (prE (a + x.n0) r ++ _)
    rw [prE_snoc e r]; rfl
theorem endP_snoc (e : Ent) : ∀ (p : List Ent) (a : Nat), endP a (p ++ [e]) = endP a p + e.n0
  | [], _ => rfl
  | x :: r, a => endP_snoc e r (a + x.n0)
theorem sgE_snoc (e : Ent) : ∀ (p : List Ent) (a : Nat), sgE a (p ++ [e]) = sgE a p ++ [(endP a p + e.n0, e.n1)]
  | [], _ => rfl
  | x :: r, a => by
    show _ :: sgE (a + x.n0) (r ++ [e]) = _ :: (sgE (a + x.n0) r ++ _)
    rw [sgE_snoc e r]; rfl
theorem endC_le : ∀ (p : List Ent) (a : Nat), a ≤ endC a p
  | [], _ => Nat.le_refl _
  | x :: r, a => by have := endC_le r (a + x.n0 + x.n1); show a ≤ endC _ r; omega
theorem endP_le : ∀ (p : List Ent) (a : Nat), a ≤ endP a p
  | [], _ => Nat.le_refl _
  | x :: r, a => by have := endP_le r (a + x.n0); show a ≤ endP _ r; omega
theorem endC_app (q : List Ent) : ∀ (p : List Ent) (a : Nat), endC a (p ++ q) = endC (endC a p) q
  | [], _ => rfl
  | x :: r, a => endC_app q r (a + x.n0 + x.n1)
theorem endP_app (q : List Ent) : ∀ (p : List Ent) (a : Nat), endP a (p ++ q) = endP (endP a p) q
  | [], _ => rfl
  | x :: r, a => endP_app q r (a + x.n0)
theorem endC_pre {p q : List Ent} (h : p <+: q) (a : Nat) : endC a p ≤ endC a q := by
  obtain ⟨r, rfl⟩ := h
  rw [endC_app]; exact endC_le _ _
theorem endP_pre {p q : List Ent} (h : p <+: q) (a : Nat) : endP a p ≤ endP a q := by
  obtain ⟨r, rfl⟩ := h
  rw [endP_app]; exact endP_le _ _
theorem clsE_len : ∀ (p : List Ent) (a : Nat), a + (clsE a p).length ≤ endC a p
  | [], _ => Nat.le_refl _
  | x :: r, a => by
    have := clsE_len r (a + x.n0 + x.n1)
    show a + (run5 (a + x.n0) x.n1 x.n2 ++ clsE (a + x.n0 + x.n1) r).length ≤ endC (a + x.n0 + x.n1) r
    rw [List.length_append, run5_len]
    omega
theorem prE_len : ∀ (p : List Ent) (a : Nat), (prE a p).length = p.length
  | [], _ => rfl
  | x :: r, a => by show (prE (a + x.n0) r).length + 1 = _; rw [prE_len r]; rfl
theorem sgE_len : ∀ (p : List Ent) (a : Nat), (sgE a p).length = p.length
  | [], _ => rfl
  | x :: r, a => by show (sgE (a + x.n0) r).length + 1 = _; rw [sgE_len r]; rfl

/-! ### by the pairs -/
def prI : Nat → List Pr5 → List (Nat × Nat)
  | _, [] => []
  | k, p :: r => (p.c, k + 1) :: prI (k + 1) r
theorem prI_snoc (p : Pr5) : ∀ (P : List Pr5) (k : Nat), prI k (P ++ [p]) = prI k P ++ [(p.c, k + P.length + 1)]
  | [], _ => rfl
  | x :: r, k => by
    show _ :: prI (k + 1) (r ++ [p]) = _ :: (prI (k + 1) r ++ _)
    rw [prI_snoc p r, show k + 1 + r.length + 1 = k + (r.length + 1) + 1 by omega]; rfl
theorem prI_len : ∀ (P : List Pr5) (k : Nat), (prI k P).length = P.length
  | [], _ => rfl
  | x :: r, k => by show (prI (k + 1) r).length + 1 = _; rw [prI_len r]; rfl
def scL : List Pr5 → List (Nat × Nat)
  | [] => []
  | p :: r => bif p.o then scL r else (p.y, 1) :: scL r
theorem scL_app (Q : List Pr5) : ∀ P : List Pr5, scL (P ++ Q) = scL P ++ scL Q
  | [] => rfl
  | p :: r => by
    show (bif p.o then scL (r ++ Q) else (p.y, 1) :: scL (r ++ Q)) = (bif p.o then scL r else (p.y, 1) :: scL r) ++ scL Q
    rw [scL_app Q r]; cases p.o <;> rfl
theorem scL_len : ∀ P : List Pr5, (scL P).length ≤ P.length
  | [] => Nat.le_refl _
  | p :: r => by
    have := scL_len r
    show (bif p.o then scL r else (p.y, 1) :: scL r).length ≤ r.length + 1
    cases p.o <;> simp only [cond_true, cond_false, List.length_cons] <;> omega
def outs : List Pr5 → Nat
  | [] => 0
  | p :: r => bif p.o then outs r + 1 else outs r
theorem outs_app (Q : List Pr5) : ∀ P : List Pr5, outs (P ++ Q) = outs P + outs Q
  | [] => by show outs Q = 0 + outs Q; omega
  | p :: r => by
    show (bif p.o then outs (r ++ Q) + 1 else outs (r ++ Q)) = (bif p.o then outs r + 1 else outs r) + outs Q
    rw [outs_app Q r]; cases p.o <;> simp only [cond_true, cond_false] <;> omega
theorem outs_len : ∀ P : List Pr5, outs P ≤ P.length
  | [] => Nat.le_refl _
  | p :: r => by
    have := outs_len r
    show (bif p.o then outs r + 1 else outs r) ≤ r.length + 1
    cases p.o <;> simp only [cond_true, cond_false] <;> omega
def key5 (p : Pr5) : List Int := [(p.x : Int), (p.y : Int)]
/-- the keys that are joined, and what each is -/
def jstep (s : List (List Int) × (List Int → Int)) (p : Pr5) : List (List Int) × (List Int → Int) := bif p.o then s else (kput s.1 (key5 p), upd s.2 (key5 p) p.c)
def jst (P : List Pr5) : List (List Int) × (List Int → Int) := P.foldl jstep ([], fun _ => 0)
theorem jst_snoc (P : List Pr5) (p : Pr5) : jst (P ++ [p]) = jstep (jst P) p := by simp [jst, List.foldl_append]
end Go.Proofs.YtdmcidljjfogjaaDoor

/- What has been gathered of the texts, in memory. -/
namespace Go.Proofs.YtdmcidljjfogjaaDoor
set_option maxRecDepth 100000
open Go.ChangeShapes Go.WideShapes Go.ChangeAt Go.RowKit
set_option linter.unusedVariables false

abbrev rowTs : List TypeId := [89, 90]
def zEnt : Value := .agg #[.int .i32 0, .int .i64 0]
def zTwo : Value := .agg #[.int .i32 0, .int .i32 0]
theorem info_zEnt : (Tryd.prog.info? 89).map (fun i => (i.zero, i.size, i.bytes)) = some (some zEnt, 2, 16) := by kernel_rfl
theorem info_zTwo : (Tryd.prog.info? 90).map (fun i => (i.zero, i.size, i.bytes)) = some (some zTwo, 2, 8) := by kernel_rfl
/-- keys that are joined -/
abbrev DD (b : List Int) : Prop := b.length = 2 ∧ ∀ x ∈ b, (Lit.int .i32 x).wf = true
def twV (P : List Pr5) : List Value := P.flatMap fun p => [.int .i32 p.x, .int .i32 p.y]
theorem twV_app (P Q : List Pr5) : twV (P ++ Q) = twV P ++ twV Q := List.flatMap_append

def GAt (W : World) (gb mb base lo up : Nat) (C : List (Nat × Nat)) (P : List Pr5) (S : List (Nat × Nat)) : Prop :=
  ∃ v0 v1 v2 v3 v4, GMem W 53 gb base lo up
    [⟨v0, 89, C.length, entsV (castE C)⟩, ⟨v1, 89, P.length, entsV (castE (prI 0 P))⟩, ⟨v2, 89, S.length, entsV (castE S)⟩, ⟨v3, 89, (scL P).length, entsV (castE (scL P))⟩, ⟨v4, 90, P.length, twV P⟩]
    [.map (some mb), .int .i64 (outs P)] ∧ MapIs W mb (arrV .i32) (Value.int .i32) DD (jst P).1 (jst P).2 ∧ mb < base ∧ gb ≠ mb
def GPost5 (w : World) (gb mb base lo up : Nat) (r : Int) (C : List (Nat × Nat)) (P : List Pr5) (S : List (Nat × Nat)) (e : Ending) (w' : World) : Prop :=
  e = .returned (.int .i32 r) ∧ GAt w' gb mb base lo up C P S ∧ Fr rowTs [gb, mb] base w w'
section
variable {W W' : World} {gb mb base lo up : Nat} {C : List (Nat × Nat)} {P : List Pr5} {S : List (Nat × Nat)}
theorem GAt.lt (h : GAt W gb mb base lo up C P S) : gb < W.heap.size := by obtain ⟨v0, v1, v2, v3, v4, hM, _⟩ := h; exact hM.blk.lt
theorem GAt.lt' (h : GAt W gb mb base lo up C P S) : mb < W.heap.size := by obtain ⟨v0, v1, v2, v3, v4, _, hm, _⟩ := h; exact hm.lt
theorem GAt.grow (h : GAt W gb mb base lo up C P S) (hb : Below W.heap.size W W') : GAt W' gb mb base lo up C P S := by
  obtain ⟨v0, v1, v2, v3, v4, hM, hm, h1, h2⟩ := h
  exact ⟨v0, v1, v2, v3, v4, gm_grow hM hb, hm.below hb hm.lt, h1, h2⟩
theorem GAt.alloc (h : GAt W gb mb base lo up C P S) (o : Obj) : GAt (W.alloc o) gb mb base lo up C P S := h.grow ((Below.refl _ _).alloc (Nat.le_refl _) _)
theorem GAt.but (h : GAt W gb mb base lo up C P S) {g : Nat} (hb : But g W W') (h1 : g ≠ gb) (h2 : g ≠ mb) (h3 : lo ≤ g) (h3' : g < up) : GAt W' gb mb base lo up C P S := by
  obtain ⟨v0, v1, v2, v3, v4, hM, hm, h4, h5⟩ := h
  refine ⟨v0, v1, v2, v3, v4, ⟨hb.blk hM.blk (Ne.symm h1), fun i r hi => ?_, hM.apt, hM.low, Nat.le_trans hM.top hb.size, hM.out⟩, hm.block (hb.block mb hm.lt (fun e => h2 (by injection e with e; exact e.symm))), h4, h5⟩
  refine World.ownsRow.kept (hM.own i r hi) hb ?_
  cases hv : r.v.ownBlock with
  | none => exact .inl rfl
  | some k => exact .inr (fun e => by
      have := hM.out i r k hi hv
      injection e with e; omega)
/-- a store into a block of another type -/
theorem GAt.cell (h : GAt W gb mb base lo up C P S) {g : Nat} {t : TypeId} {cs : Array Value} (hg : Blk W g t cs) (ht : t ∉ rowTs) (h1 : g ≠ gb) (h2 : g ≠ mb) (i : Nat) (u : Value) : GAt (W.setCell ⟨g, i, none⟩ u) gb mb base lo up C P S := by
  obtain ⟨v0, v1, v2, v3, v4, hM, hm, h4, h5⟩ := h
  have hb := (But.refl g W).set i u
  refine ⟨v0, v1, v2, v3, v4, ⟨hb.blk hM.blk (Ne.symm h1), fun j r hj => ?_, hM.apt, hM.low, Nat.le_trans hM.top hb.size, hM.out⟩, hm.block (hb.block mb hm.lt (fun e => h2 (by injection e with e; exact e.symm))), h4, h5⟩
  have hr := hM.own j r hj
  refine World.ownsRow.kept hr hb ?_
  rcases hr.2 with ⟨e1, _⟩ | ⟨k, cap, cur, e1, _, hh, _⟩
  · exact .inl (by rw [e1]; rfl)
  · refine .inr (fun e' => ?_)
    rw [e1] at e'
    obtain rfl : k = g := by simpa [Value.ownBlock] using e'
    have e2 : t = r.e := by
      unfold Blk at hg
      rw [hg] at hh
      injection hh with hh
      injection hh
    have : r.e ∈ rowTs := by
      match j, hj with
      | 0, hj => simp at hj; subst hj; exact (by decide : (89 : Nat) ∈ rowTs)
      | 1, hj => simp at hj; subst hj; exact (by decide : (89 : Nat) ∈ rowTs)
      | 2, hj => simp at hj; subst hj; exact (by decide : (89 : Nat) ∈ rowTs)
      | 3, hj => simp at hj; subst hj; exact (by decide : (89 : Nat) ∈ rowTs)
      | 4, hj => simp at hj; subst hj; exact (by decide : (90 : Nat) ∈ rowTs)
      | n + 5, hj => simp at hj
    exact ht (e2 ▸ this)
/-- where the heap ends ahead of the blocks that are kept free of rows -/
theorem GAt.renew {lo' up' : Nat} (h : GAt W gb mb base lo up C P S) (hl : W.heap.size ≤ lo') : GAt W gb mb base lo' up' C P S := by
  obtain ⟨v0, v1, v2, v3, v4, hM, hm, h4, h5⟩ := h
  exact ⟨v0, v1, v2, v3, v4, ⟨hM.blk, hM.own, hM.apt, hM.low, hM.top, fun i r k hi hk => .inl (by have := ((hM.own i r hi).lt k hk).2; omega)⟩, hm, h4, h5⟩
end
theorem Fr.mapIs {E : List TypeId} {L : List Nat} {base : Nat} {W W' : World} {b : Nat} {κ ν : Type} {kv : κ → Value} {vv : ν → Value} {D : κ → Prop} {ks : List κ} {f : κ → ν} (h : Fr E L base W W') (hm : MapIs W b kv vv D ks f) (hL : b ∉ L) (hb : b < base) : MapIs W' b kv vv D ks f :=
  hm.block ((h.keep b _ (Array.getElem?_eq_getElem hm.lt) hL (.inl hb)).trans (Array.getElem?_eq_getElem hm.lt).symm)
/-- a block of another type is as it was behind an append -/
theorem row_blk {W w1 : World} {base : Nat} {e : TypeId} {s n : Nat} {v : Value} {xs : List Value} {k : Nat} {t : TypeId} {cs : Array Value} (hb : Blk W k t cs) (ho : W.ownsRow base e s v n xs) (hte : t ≠ e) (hg : W.grownBy w1 v.ownBlock) : Blk w1 k t cs := by
  refine (hg.block k hb.lt (fun e' => ?_)).trans hb
  rcases ho.2 with ⟨rfl, _⟩ | ⟨g, cap, cur, rfl, _, hh, _⟩
  · cases e'
  · obtain rfl : k = g := by simpa [Value.ownBlock] using e'
    unfold Blk at hb
    rw [hb] at hh
    injection hh with hh
    injection hh with _ hh
    exact hte hh
end Go.Proofs.YtdmcidljjfogjaaDoor

/- Printed by gen_u5g.py. The method class of gathered by its contract. -/
namespace Go.Proofs.YtdmcidljjfogjaaDoor
set_option maxRecDepth 100000
open Go.ChangeShapes Go.WideShapes Go.ChangeAt Go.RowKit
set_option linter.unusedVariables false
set_option linter.unusedSimpArgs false

set_option maxHeartbeats 1000000 in
theorem class_any (w : World) (gb mb base lo up : Nat) (C : List (Nat × Nat)) (P : List Pr5) (S : List (Nat × Nat)) (at0 : Nat) (e : Ent) (hG : GAt w gb mb base lo up C P S) (hb : at0 + e.n0 + e.n1 ≤ 100000000) (h2 : e.n2 ≤ 100000000) (hC : C.length + e.n1 ≤ 100000000) (hX : up ≤ w.heap.size) :
    Calls Tryd.prog 27 #[.pointer (some ⟨gb, 0, none⟩), .int .i32 at0, entV e] w (GPost5 w gb mb base lo up ((at0 + e.n0 + e.n1 : Nat) : Int) (C ++ run5 (at0 + e.n0) e.n1 e.n2) P S) := by
  obtain ⟨n0, n1, n2, li, o⟩ := e
  dsimp only at hb h2 hC
  have HG := Lib.hid hG
  have q0 : (0 : Int) ≤ at0 := by omega
  have q1 : (0 : Int) ≤ n0 := by omega
  have q2 : (0 : Int) ≤ n1 := by omega
  have q3 : (0 : Int) ≤ n2 := by omega
  have q4 : (at0 : Int) + n0 + n1 ≤ 100000000 := by omega
  have q5 : (n2 : Int) ≤ 100000000 := by omega
  have KE := Lib.hid (Blk.new w 60 (entC ⟨n0, n1, n2, li, o⟩))
  clear hG
  unfold entV entC
  go_enter Tryd.func27, Tryd.ntmps27
  go_wp2
  go_loopw [9] (fun c wr => ∃ j : Nat, j ≤ n1 ∧ c = .int .i32 ((at0 : Int) + n0 + j) ∧ GAt wr gb mb base lo up (C ++ run5 (at0 + n0) j n2) P S ∧ Fr rowTs [gb, mb] base (w.alloc (.cells (entC ⟨n0, n1, n2, li, o⟩) 60)) wr) (fun c _ => n1 - ((intOf c) - at0 - n0).toNat)
  case atStart => exact ⟨0, by omega, by go_num, by simpa [run5] using HG.out.alloc _, Fr.refl _ _ _ _⟩
  case round =>
    obtain ⟨j, hj, rfl, hR, hF⟩ := hrel
    have hgb : gb < w.heap.size := HG.out.lt
    have hmb : mb < w.heap.size := HG.out.lt'
    by_cases hlt : j < n1
    · have hlt' : (at0 : Int) + n0 + j < at0 + n0 + n1 := by omega
      have hE := hF.blk KE.out (by simp; omega) (by decide)
      have HF := Lib.hid hF
      obtain ⟨v0, v1, v2, v3, v4, hM, hmap, hmb2, hne⟩ := hR
      have ho0 : wr.ownsRow base 89 2 v0 (C ++ run5 (at0 + n0) j n2).length (entsV (castE (C ++ run5 (at0 + n0) j n2))) := hM.own 0 _ rfl
      obtain ⟨A0, cap0, rfl, hc1, hc2⟩ := own_form' ho0
      clear ho0
      have hlen : (C ++ run5 (at0 + n0) j n2).length ≤ 100000000 := by rw [List.length_append, run5_len]; omega
      have HL := Lib.hid (show (C ++ run5 (at0 + n0) j n2).length = C.length + j by rw [List.length_append, run5_len])
      generalize hN : (C ++ run5 (at0 + n0) j n2).length = N at *
      have HN := Lib.hid hN
      clear hN hF
      go_wp2
      have HM := Lib.hid (gm_grow hM (w1 := wr.drew) (Below.refl _ _).drew)
      have HMAP := Lib.hid hmap.drew
      have HFD := Lib.hid HF.out.drew
      have KD := Lib.hid hE.drew
      clear hM hmap hE
      refine wp_region_U (fun u => u.cell? ⟨gb, 0, none⟩ = some (.slice A0 N cap0) ∧ u.frozen? ⟨gb, 0, none⟩ = false ∧ u.cell? ⟨w.heap.size, 2, none⟩ = some (.int .i32 n2)) 15 (by kernel_rfl) ?_
      generalize wr.drew = w2 at *
      have HS : Hid (w2.cell? ⟨gb, 0, none⟩ = some (.slice A0 N cap0) ∧ w2.frozen? ⟨gb, 0, none⟩ = false ∧ w2.cell? ⟨w.heap.size, 2, none⟩ = some (.int .i32 n2)) := Lib.hid ⟨HM.out.blk.cell 0, HM.out.blk.frozen 0, KD.out.cell 2⟩
      have HSA : Hid ((w2.alloc (.cells #[.int .i32 ((at0 : Int) + n0 + j), .int .i64 n2] 89)).cell? ⟨gb, 0, none⟩ = some (.slice A0 N cap0) ∧ (w2.alloc (.cells #[.int .i32 ((at0 : Int) + n0 + j), .int .i64 n2] 89)).frozen? ⟨gb, 0, none⟩ = false ∧ (w2.alloc (.cells #[.int .i32 ((at0 : Int) + n0 + j), .int .i64 n2] 89)).cell? ⟨w.heap.size, 2, none⟩ = some (.int .i32 n2)) := Lib.hid ⟨(HM.out.blk.alloc _).cell 0, (HM.out.blk.alloc _).frozen 0, (KD.out.alloc _).cell 2⟩
      have HX : Hid (up ≤ w2.heap.size) := Lib.hid (by have := HFD.out.size; simp at this; omega)
      have HOWN : Hid (w2.ownsRow base 89 2 (.slice A0 N cap0) N (entsV (castE (C ++ run5 (at0 + n0) j n2)))) := Lib.hid (HM.out.own 0 _ rfl)
      have hwr : IntKind.i64.wrap (n2 : Int) = n2 := by rw [IntKind.wrap_i64]; omega
      have HTOP : Hid (base ≤ (w2.alloc (.cells #[.int .i32 ((at0 : Int) + n0 + j), .int .i64 n2] 89)).heap.size) := Lib.hid (by have := HM.out.top; simp; omega)
      refine wpU_take 0 26 (v := ?v0a) rfl rfl (by kernel_rfl) (by kernel_rfl) (by kernel_rfl) (by kernel_rfl) (fun _ _ _ h => h) HS.out (Or.inl ⟨by rfl, ?y0a⟩) ?r0a
      case y0a => (intro W _; go_simp; try with_reducible rfl)
      try simp only [Act.put, List.setIfInBounds_toArray, List.set_cons_zero, List.set_cons_succ]
      refine wpU_take 1 27 (v := ?v1a) rfl rfl (by kernel_rfl) (by kernel_rfl) (by kernel_rfl) (by kernel_rfl) (fun _ _ _ h => h) HS.out (Or.inl ⟨by rfl, ?y1a⟩) ?r1a
      case y1a => (intro W _; go_simp; try with_reducible rfl)
      try simp only [Act.put, List.setIfInBounds_toArray, List.set_cons_zero, List.set_cons_succ]
      refine wpU_take 2 28 (v := ?v2a) rfl rfl (by kernel_rfl) (by kernel_rfl) (by kernel_rfl) (by kernel_rfl) (fun _ _ _ h => h) HS.out (Or.inl ⟨by rfl, ?y2a⟩) ?r2a
      case y2a => (intro W _; go_simp; try with_reducible rfl)
      try simp only [Act.put, List.setIfInBounds_toArray, List.set_cons_zero, List.set_cons_succ]
      refine wpU_take 3 29 (v := ?v3a) rfl rfl (by kernel_rfl) (by kernel_rfl) (by kernel_rfl) (by kernel_rfl) (fun _ _ _ h => h) HS.out (Or.inl ⟨by rfl, ?y3a⟩) ?r3a
      case y3a => (intro W _; go_simp; try with_reducible rfl)
      try simp only [Act.put, List.setIfInBounds_toArray, List.set_cons_zero, List.set_cons_succ]
      refine wpU_take 4 30 (v := ?v4a) rfl rfl (by kernel_rfl) (by kernel_rfl) (by kernel_rfl) (by kernel_rfl) (fun _ _ _ h => h) HS.out (Or.inl ⟨by rfl, ?y4a⟩) ?r4a
      case y4a => (rintro W ⟨x1, x2, x3⟩; go_simp; try with_reducible rfl)
      try simp only [Act.put, List.setIfInBounds_toArray, List.set_cons_zero, List.set_cons_succ]
      refine wpU_take 5 31 (v := ?v5a) rfl rfl (by kernel_rfl) (by kernel_rfl) (by kernel_rfl) (by kernel_rfl) (fun _ _ _ h => h) HS.out (Or.inl ⟨by rfl, ?y5a⟩) ?r5a
      case y5a => (intro W _; go_simp; try with_reducible rfl)
      try simp only [Act.put, List.setIfInBounds_toArray, List.set_cons_zero, List.set_cons_succ]
      refine wpU_take 6 32 (v := ?v6a) rfl rfl (by kernel_rfl) (by kernel_rfl) (by kernel_rfl) (by kernel_rfl) (fun _ _ _ h => h) HS.out (Or.inl ⟨by rfl, ?y6a⟩) ?r6a
      case y6a => (intro W _; go_simp; try with_reducible rfl)
      try simp only [Act.put, List.setIfInBounds_toArray, List.set_cons_zero, List.set_cons_succ]
      refine wpU_take 7 33 (v := ?v7a) rfl rfl (by kernel_rfl) (by kernel_rfl) (by kernel_rfl) (by kernel_rfl) (fun _ _ _ h => h) HS.out (Or.inl ⟨by rfl, ?y7a⟩) ?r7a
      case y7a => (intro W _; go_simp; try with_reducible rfl)
      try simp only [Act.put, List.setIfInBounds_toArray, List.set_cons_zero, List.set_cons_succ]
      refine wpU_take 8 34 (v := ?v8a) rfl rfl (by kernel_rfl) (by kernel_rfl) (by kernel_rfl) (by kernel_rfl) (fun _ _ _ h => h) HS.out (Or.inl ⟨by rfl, ?y8a⟩) ?r8a
      case y8a => (rintro W ⟨x1, x2, x3⟩; go_simp; try with_reducible rfl)
      try simp only [Act.put, List.setIfInBounds_toArray, List.set_cons_zero, List.set_cons_succ]
      refine wpU_take 9 35 (v := ?v9a) rfl rfl (by kernel_rfl) (by kernel_rfl) (by kernel_rfl) (by kernel_rfl) (fun _ _ _ h => h) HS.out (Or.inl ⟨by rfl, ?y9a⟩) ?r9a
      case y9a => (intro W _; go_simp; try with_reducible rfl)
      try simp only [Act.put, List.setIfInBounds_toArray, List.set_cons_zero, List.set_cons_succ]
      refine wpU_take 10 36 (v := ?v10a) rfl rfl (by kernel_rfl) (by kernel_rfl) (by kernel_rfl) (by kernel_rfl) (fun _ _ _ h => h) HS.out (Or.inl ⟨by rfl, ?y10a⟩) ?r10a
      case y10a => (intro W _; go_simp; try with_reducible rfl)
      try simp only [Act.put, List.setIfInBounds_toArray, List.set_cons_zero, List.set_cons_succ]
      refine wpU_one 11 (by kernel_rfl) rfl (fun K hK => ?_)
      refine wpA_if (by rfl) ?_
      refine wpO_lit 50 89 1 _ rfl zEnt 2 16 Tryd.underlying50 info_zEnt (by decide) (by decide) (by decide) [.agg #[.int .i32 ((at0 : Int) + n0 + j), .int .i64 n2]] (by simp [Act.eval]) (by simp [Value.cells]) rfl #[.int .i32 ((at0 : Int) + n0 + j), .int .i64 n2] (by simp [Value.cells]) ?_
      refine hK.out _ _ HSA.out ?_
      clear hK K
      try simp only [Act.put, List.setIfInBounds_toArray, List.set_cons_zero, List.set_cons_succ]
      refine wpU_one 12 (by kernel_rfl) rfl (fun K hK => ?_)
      refine wpA_if (by rfl) ?_
      refine wpO_append _ _ 50 rfl base 89 zEnt 2 16 Tryd.underlying50 info_zEnt rfl (by decide) _ N _ rfl (HOWN.out.alloc _) ⟨w2.heap.size, 0, none⟩ 1 1 [.int .i32 ((at0 : Int) + n0 + j), .int .i64 n2] rfl rfl (cells_new w2 _ _) (by simp [Value.oneCell']) (by simp only [maxLen]; omega) (by omega) HTOP.out ?_
      intro va w3 ho3 hg3 hloc; obtain ⟨A3, cap3, rfl, hq1, hq2⟩ := own_form' ho3
      obtain ⟨hb3, hM3, hF3⟩ := gm_app HM.out (i := 0) rfl hg3 ho3 hloc HX.out
      have HSB : Hid (w3.cell? ⟨gb, 0, none⟩ = some (.slice A0 N cap0) ∧ w3.frozen? ⟨gb, 0, none⟩ = false ∧ w3.cell? ⟨w.heap.size, 2, none⟩ = some (.int .i32 n2)) := Lib.hid ⟨hb3.cell 0, hb3.frozen 0, (row_blk (KD.out.alloc _) (HOWN.out.alloc _) (by decide) hg3).cell 2⟩
      have HM3 := Lib.hid hM3
      have HF3 := Lib.hid (fun L hL => hF3 rowTs L hL (show (89 : Nat) ∈ rowTs by decide))
      clear hb3 hM3 hF3 hloc hg3 ho3
      refine hK.out _ _ HSB.out ?_
      clear hK K
      try simp only [Act.put, List.setIfInBounds_toArray, List.set_cons_zero, List.set_cons_succ]
      refine wpU_one 13 (by kernel_rfl) rfl (fun K hK => ?_)
      go_simp
      refine hK.out _ _ HSB.out ?_
      clear hK K
      try simp only [Act.put, List.setIfInBounds_toArray, List.set_cons_zero, List.set_cons_succ]
      refine wpU_take 14 40 (v := ?v14a) rfl rfl (by kernel_rfl) (by kernel_rfl) (by kernel_rfl) (by kernel_rfl) (fun _ _ _ h => h) HSB.out (Or.inl ⟨by rfl, ?y14a⟩) ?r14a
      case y14a => (intro W _; go_simp; try with_reducible rfl)
      try simp only [Act.put, List.setIfInBounds_toArray, List.set_cons_zero, List.set_cons_succ]
      refine wpU_last (by kernel_rfl) rfl (by kernel_rfl) (fun K hK => ?_)
      have x1 := HSB.out.1
      have x2 := HSB.out.2.1
      go_simp
      refine hK.out _ _ ?_
      clear hK K
      go_wp2
      go_roundw
      case rel =>
        refine ⟨j + 1, by omega, by go_num, ?_, HFD.out.trans (HF3.out _ (by simp))⟩
        have e1 : C ++ run5 (at0 + n0) (j + 1) n2 = (C ++ run5 (at0 + n0) j n2) ++ [(at0 + n0 + j, n2)] := by rw [run5_snoc, List.append_assoc]
        rw [e1]
        refine ⟨.slice A3 (N + 1) cap3, v1, v2, v3, v4, ?_, (Fr.mapIs (HF3.out [gb] (by simp)) HMAP.out (by simp; omega) hmb2), hmb2, hne⟩
        have := HM3.out
        rw [castE_app, entsV_app, List.length_append, HN.out]
        simpa [castE, entsV] using this
      case measure => simp [intOf]; omega
    · obtain rfl : j = n1 := by omega
      have hlt' : ¬ (at0 : Int) + n0 + j < at0 + n0 + j := by omega
      have HR := Lib.hid hR
      have HF := Lib.hid hF
      clear hR hF
      go_wp2
      go_ret
      exact ⟨by simp, HR.out, ((Fr.refl _ _ _ _).alloc _).trans HF.out⟩
end Go.Proofs.YtdmcidljjfogjaaDoor

/- Printed by gen_u5g.py. The method single of gathered by its contract. -/
namespace Go.Proofs.YtdmcidljjfogjaaDoor
set_option maxRecDepth 100000
open Go.ChangeShapes Go.WideShapes Go.ChangeAt Go.RowKit
set_option linter.unusedVariables false
set_option linter.unusedSimpArgs false

set_option maxHeartbeats 1000000 in
theorem single_any (w : World) (gb mb base lo up : Nat) (C : List (Nat × Nat)) (P : List Pr5) (S : List (Nat × Nat)) (at0 : Nat) (e : Ent) (hG : GAt w gb mb base lo up C P S) (hb : at0 + e.n0 ≤ 100000000) (h2 : e.n1 ≤ 100000000) (hC : S.length ≤ 100000000) (hX : up ≤ w.heap.size) :
    Calls Tryd.prog 29 #[.pointer (some ⟨gb, 0, none⟩), .int .i32 at0, entV e] w (GPost5 w gb mb base lo up ((at0 + e.n0 : Nat) : Int) C P (S ++ [(at0 + e.n0, e.n1)])) := by
  obtain ⟨n0, n1, n2, li, o⟩ := e
  dsimp only at hb h2 hC
  have hgb : gb < w.heap.size := hG.lt
  have hmb : mb < w.heap.size := hG.lt'
  have q0 : (0 : Int) ≤ at0 := by omega
  have q1 : (0 : Int) ≤ n0 := by omega
  have q2 : (0 : Int) ≤ n1 := by omega
  have q4 : (at0 : Int) + n0 ≤ 100000000 := by omega
  have q5 : (n1 : Int) ≤ 100000000 := by omega
  have KE := Lib.hid (Blk.new w 60 (entC ⟨n0, n1, n2, li, o⟩))
  have hG2 := hG.alloc (.cells (entC ⟨n0, n1, n2, li, o⟩) 60)
  obtain ⟨v0, v1, v2, v3, v4, hM, hmap, hmb2, hne⟩ := hG2
  have ho0 : (w.alloc (.cells (entC ⟨n0, n1, n2, li, o⟩) 60)).ownsRow base 89 2 v2 S.length (entsV (castE S)) := hM.own 2 _ rfl
  obtain ⟨A0, cap0, rfl, hc1, hc2⟩ := own_form' ho0
  clear ho0 hG
  have HFD := Lib.hid (((Fr.refl rowTs [gb, mb] base w).alloc (.cells (entC ⟨n0, n1, n2, li, o⟩) 60)).drew)
  have HM := Lib.hid (gm_grow hM (w1 := (w.alloc (.cells (entC ⟨n0, n1, n2, li, o⟩) 60)).drew) (Below.refl _ _).drew)
  have HMAP := Lib.hid hmap.drew
  have KD := Lib.hid KE.out.drew
  clear hM hmap
  generalize hN : S.length = N at *
  have HN := Lib.hid hN
  clear hN
  unfold entV
  unfold entC at *
  go_enter Tryd.func29, Tryd.ntmps29
  go_wp2
  refine wp_region_U (fun u => u.cell? ⟨gb, 2, none⟩ = some (.slice A0 N cap0) ∧ u.frozen? ⟨gb, 2, none⟩ = false ∧ u.cell? ⟨w.heap.size, 1, none⟩ = some (.int .i32 n1)) 15 (by kernel_rfl) ?_
  generalize (w.alloc (.cells #[.int .i32 n0, .int .i32 n1, .int .i32 n2, .int .i64 li, .bool o] 60)).drew = w2 at *
  have HS : Hid (w2.cell? ⟨gb, 2, none⟩ = some (.slice A0 N cap0) ∧ w2.frozen? ⟨gb, 2, none⟩ = false ∧ w2.cell? ⟨w.heap.size, 1, none⟩ = some (.int .i32 n1)) := Lib.hid ⟨HM.out.blk.cell 2, HM.out.blk.frozen 2, KD.out.cell 1⟩
  have HSA : Hid ((w2.alloc (.cells #[.int .i32 ((at0 : Int) + n0), .int .i64 n1] 89)).cell? ⟨gb, 2, none⟩ = some (.slice A0 N cap0) ∧ (w2.alloc (.cells #[.int .i32 ((at0 : Int) + n0), .int .i64 n1] 89)).frozen? ⟨gb, 2, none⟩ = false ∧ (w2.alloc (.cells #[.int .i32 ((at0 : Int) + n0), .int .i64 n1] 89)).cell? ⟨w.heap.size, 1, none⟩ = some (.int .i32 n1)) := Lib.hid ⟨(HM.out.blk.alloc _).cell 2, (HM.out.blk.alloc _).frozen 2, (KD.out.alloc _).cell 1⟩
  have HX : Hid (up ≤ w2.heap.size) := Lib.hid (by have := HFD.out.size; omega)
  have HOWN : Hid (w2.ownsRow base 89 2 (.slice A0 N cap0) N (entsV (castE S))) := Lib.hid (HM.out.own 2 _ rfl)
  have hwr : IntKind.i64.wrap (n1 : Int) = n1 := by rw [IntKind.wrap_i64]; omega
  have HTOP : Hid (base ≤ (w2.alloc (.cells #[.int .i32 ((at0 : Int) + n0), .int .i64 n1] 89)).heap.size) := Lib.hid (by have := HM.out.top; simp; omega)
  refine wpU_take 0 13 (v := ?v0a) rfl rfl (by kernel_rfl) (by kernel_rfl) (by kernel_rfl) (by kernel_rfl) (fun _ _ _ h => h) HS.out (Or.inl ⟨by rfl, ?y0a⟩) ?r0a
  case y0a => (intro W _; go_simp; try with_reducible rfl)
  try simp only [Act.put, List.setIfInBounds_toArray, List.set_cons_zero, List.set_cons_succ]
  refine wpU_take 1 14 (v := ?v1a) rfl rfl (by kernel_rfl) (by kernel_rfl) (by kernel_rfl) (by kernel_rfl) (fun _ _ _ h => h) HS.out (Or.inl ⟨by rfl, ?y1a⟩) ?r1a
  case y1a => (intro W _; go_simp; try with_reducible rfl)
  try simp only [Act.put, List.setIfInBounds_toArray, List.set_cons_zero, List.set_cons_succ]
  refine wpU_take 2 15 (v := ?v2a) rfl rfl (by kernel_rfl) (by kernel_rfl) (by kernel_rfl) (by kernel_rfl) (fun _ _ _ h => h) HS.out (Or.inl ⟨by rfl, ?y2a⟩) ?r2a
  case y2a => (intro W _; go_simp; try with_reducible rfl)
  try simp only [Act.put, List.setIfInBounds_toArray, List.set_cons_zero, List.set_cons_succ]
  refine wpU_take 3 16 (v := ?v3a) rfl rfl (by kernel_rfl) (by kernel_rfl) (by kernel_rfl) (by kernel_rfl) (fun _ _ _ h => h) HS.out (Or.inl ⟨by rfl, ?y3a⟩) ?r3a
  case y3a => (intro W _; go_simp; try with_reducible rfl)
  try simp only [Act.put, List.setIfInBounds_toArray, List.set_cons_zero, List.set_cons_succ]
  refine wpU_take 4 17 (v := ?v4a) rfl rfl (by kernel_rfl) (by kernel_rfl) (by kernel_rfl) (by kernel_rfl) (fun _ _ _ h => h) HS.out (Or.inl ⟨by rfl, ?y4a⟩) ?r4a
  case y4a => (rintro W ⟨x1, x2, x3⟩; go_simp; try with_reducible rfl)
  try simp only [Act.put, List.setIfInBounds_toArray, List.set_cons_zero, List.set_cons_succ]
  refine wpU_take 5 18 (v := ?v5a) rfl rfl (by kernel_rfl) (by kernel_rfl) (by kernel_rfl) (by kernel_rfl) (fun _ _ _ h => h) HS.out (Or.inl ⟨by rfl, ?y5a⟩) ?r5a
  case y5a => (intro W _; go_simp; try with_reducible rfl)
  try simp only [Act.put, List.setIfInBounds_toArray, List.set_cons_zero, List.set_cons_succ]
  refine wpU_take 6 19 (v := ?v6a) rfl rfl (by kernel_rfl) (by kernel_rfl) (by kernel_rfl) (by kernel_rfl) (fun _ _ _ h => h) HS.out (Or.inl ⟨by rfl, ?y6a⟩) ?r6a
  case y6a => (intro W _; go_simp; try with_reducible rfl)
  try simp only [Act.put, List.setIfInBounds_toArray, List.set_cons_zero, List.set_cons_succ]
  refine wpU_take 7 20 (v := ?v7a) rfl rfl (by kernel_rfl) (by kernel_rfl) (by kernel_rfl) (by kernel_rfl) (fun _ _ _ h => h) HS.out (Or.inl ⟨by rfl, ?y7a⟩) ?r7a
  case y7a => (intro W _; go_simp; try with_reducible rfl)
  try simp only [Act.put, List.setIfInBounds_toArray, List.set_cons_zero, List.set_cons_succ]
  refine wpU_take 8 21 (v := ?v8a) rfl rfl (by kernel_rfl) (by kernel_rfl) (by kernel_rfl) (by kernel_rfl) (fun _ _ _ h => h) HS.out (Or.inl ⟨by rfl, ?y8a⟩) ?r8a
  case y8a => (rintro W ⟨x1, x2, x3⟩; go_simp; try with_reducible rfl)
  try simp only [Act.put, List.setIfInBounds_toArray, List.set_cons_zero, List.set_cons_succ]
  refine wpU_take 9 22 (v := ?v9a) rfl rfl (by kernel_rfl) (by kernel_rfl) (by kernel_rfl) (by kernel_rfl) (fun _ _ _ h => h) HS.out (Or.inl ⟨by rfl, ?y9a⟩) ?r9a
  case y9a => (intro W _; go_simp; try with_reducible rfl)
  try simp only [Act.put, List.setIfInBounds_toArray, List.set_cons_zero, List.set_cons_succ]
  refine wpU_take 10 23 (v := ?v10a) rfl rfl (by kernel_rfl) (by kernel_rfl) (by kernel_rfl) (by kernel_rfl) (fun _ _ _ h => h) HS.out (Or.inl ⟨by rfl, ?y10a⟩) ?r10a
  case y10a => (intro W _; go_simp; try with_reducible rfl)
  try simp only [Act.put, List.setIfInBounds_toArray, List.set_cons_zero, List.set_cons_succ]
  refine wpU_one 11 (by kernel_rfl) rfl (fun K hK => ?_)
  refine wpA_if (by rfl) ?_
  refine wpO_lit 50 89 1 _ rfl zEnt 2 16 Tryd.underlying50 info_zEnt (by decide) (by decide) (by decide) [.agg #[.int .i32 ((at0 : Int) + n0), .int .i64 n1]] (by simp [Act.eval]) (by simp [Value.cells]) rfl #[.int .i32 ((at0 : Int) + n0), .int .i64 n1] (by simp [Value.cells]) ?_
  refine hK.out _ _ HSA.out ?_
  clear hK K
  try simp only [Act.put, List.setIfInBounds_toArray, List.set_cons_zero, List.set_cons_succ]
  refine wpU_one 12 (by kernel_rfl) rfl (fun K hK => ?_)
  refine wpA_if (by rfl) ?_
  refine wpO_append _ _ 50 rfl base 89 zEnt 2 16 Tryd.underlying50 info_zEnt rfl (by decide) _ N _ rfl (HOWN.out.alloc _) ⟨w2.heap.size, 0, none⟩ 1 1 [.int .i32 ((at0 : Int) + n0), .int .i64 n1] rfl rfl (cells_new w2 _ _) (by simp [Value.oneCell']) (by simp only [maxLen]; omega) (by omega) HTOP.out ?_
  intro va w3 ho3 hg3 hloc; obtain ⟨A3, cap3, rfl, hq1, hq2⟩ := own_form' ho3
  obtain ⟨hb3, hM3, hF3⟩ := gm_app HM.out (i := 2) rfl hg3 ho3 hloc HX.out
  have HSB : Hid (w3.cell? ⟨gb, 2, none⟩ = some (.slice A0 N cap0) ∧ w3.frozen? ⟨gb, 2, none⟩ = false ∧ w3.cell? ⟨w.heap.size, 1, none⟩ = some (.int .i32 n1)) := Lib.hid ⟨hb3.cell 2, hb3.frozen 2, (row_blk (KD.out.alloc _) (HOWN.out.alloc _) (by decide) hg3).cell 1⟩
  have HM3 := Lib.hid hM3
  have HF3 := Lib.hid (fun L hL => hF3 rowTs L hL (show (89 : Nat) ∈ rowTs by decide))
  clear hb3 hM3 hF3 hloc hg3 ho3
  refine hK.out _ _ HSB.out ?_
  clear hK K
  try simp only [Act.put, List.setIfInBounds_toArray, List.set_cons_zero, List.set_cons_succ]
  refine wpU_one 13 (by kernel_rfl) rfl (fun K hK => ?_)
  go_simp
  refine hK.out _ _ HSB.out ?_
  clear hK K
  try simp only [Act.put, List.setIfInBounds_toArray, List.set_cons_zero, List.set_cons_succ]
  refine wpU_take 14 27 (v := ?v14a) rfl rfl (by kernel_rfl) (by kernel_rfl) (by kernel_rfl) (by kernel_rfl) (fun _ _ _ h => h) HSB.out (Or.inl ⟨by rfl, ?y14a⟩) ?r14a
  case y14a => (intro W _; go_simp; try with_reducible rfl)
  try simp only [Act.put, List.setIfInBounds_toArray, List.set_cons_zero, List.set_cons_succ]
  refine wpU_last (by kernel_rfl) rfl (by kernel_rfl) (fun K hK => ?_)
  have x1 := HSB.out.1
  have x2 := HSB.out.2.1
  go_simp
  refine hK.out _ _ ?_
  clear hK K
  go_wp2
  go_ret
  refine ⟨by simp, ⟨v0, v1, .slice A3 (N + 1) cap3, v3, v4, ?_, (Fr.mapIs (HF3.out [gb] (by simp)) HMAP.out (by simp; omega) hmb2), hmb2, hne⟩, HFD.out.trans (HF3.out _ (by simp))⟩
  have := HM3.out
  rw [castE_app, entsV_app, List.length_append, HN.out]
  simpa [castE, entsV] using this
end Go.Proofs.YtdmcidljjfogjaaDoor

/- Printed by gen_u5g.py. The method pair of gathered by its contract. -/
namespace Go.Proofs.YtdmcidljjfogjaaDoor
set_option maxRecDepth 100000
open Go.ChangeShapes Go.WideShapes Go.ChangeAt Go.RowKit
set_option linter.unusedVariables false
set_option linter.unusedSimpArgs false

theorem tkv : Kv Tryd.prog 90 (arrV .i32) DD := arr_kv laidOut4 (of_decide_eq_true (by kernel_rfl)) ts4 Tryd.underlying90 Tryd.underlying21 (by kernel_rfl) (by kernel_rfl) (by kernel_rfl)
theorem far_blk {W w1 : World} {v : Value} {k : Nat} {t : TypeId} {cs : Array Value} (hb : Blk W k t cs) (hk : v.ownBlock ≠ some k) (hg : W.grownBy w1 v.ownBlock) : Blk w1 k t cs :=
  (hg.block k hb.lt (fun e => hk e.symm)).trans hb
set_option maxHeartbeats 2000000 in
theorem pair_any (w : World) (gb mb base lo up : Nat) (C : List (Nat × Nat)) (P : List Pr5) (S : List (Nat × Nat)) (at0 : Nat) (e : Ent) (hG : GAt w gb mb base lo up C P S) (hb : at0 + e.n0 ≤ 100000000) (h1 : e.n1 ≤ 100000000) (h2 : e.n2 ≤ 100000000) (hC : P.length ≤ 100000000) (hX : up ≤ w.heap.size) :
    Calls Tryd.prog 28 #[.pointer (some ⟨gb, 0, none⟩), .int .i32 at0, entV e] w (GPost5 w gb mb base lo up ((at0 + e.n0 : Nat) : Int) C (P ++ [⟨at0 + e.n0, e.n1, e.n2, e.o⟩]) S) := by
  obtain ⟨n0, n1, n2, li, o⟩ := e
  dsimp only at hb h1 h2 hC
  have hgb : gb < w.heap.size := hG.lt
  have hmb : mb < w.heap.size := hG.lt'
  have q0 : (0 : Int) ≤ at0 := by omega
  have q1 : (0 : Int) ≤ n0 := by omega
  have q4 : (at0 : Int) + n0 ≤ 100000000 := by omega
  have hM := (scL_len P)
  have hO := (outs_len P)
  have hO1 : (0 : Int) ≤ outs P := by omega
  have hO2 : (outs P : Int) ≤ 100000000 := by omega
  have hG1 := hG.alloc (.cells (entC ⟨n0, n1, n2, li, o⟩) 60)
  have hG2 := hG1.alloc (.cells #[.int .i32 n1, .int .i32 n2] 90)
  obtain ⟨v0, v1, v2, v3, v4, hM1, hmap1, hmb2, hne⟩ := hG1
  have ho4 : (w.alloc (.cells (entC ⟨n0, n1, n2, li, o⟩) 60)).ownsRow base 90 2 v4 P.length (twV P) := hM1.own 4 _ rfl
  have ho1 : (w.alloc (.cells (entC ⟨n0, n1, n2, li, o⟩) 60)).ownsRow base 89 2 v1 P.length (entsV (castE (prI 0 P))) := hM1.own 1 _ rfl
  have ho3 : (w.alloc (.cells (entC ⟨n0, n1, n2, li, o⟩) 60)).ownsRow base 89 2 v3 (scL P).length (entsV (castE (scL P))) := hM1.own 3 _ rfl
  have ht4 : v4.ownBlock ≠ some (w.heap.size + 1) := fun e => by have := (ho4.lt _ e).2; simp at this
  obtain ⟨A4, cap4, rfl, hc1, hc2⟩ := own_form' ho4
  obtain ⟨A1, cap1, rfl, hc3, hc4⟩ := own_form' ho1
  obtain ⟨A5, cap5, rfl, hc5, hc6⟩ := own_form' ho3
  have KE := Lib.hid ((Blk.new w 60 (entC ⟨n0, n1, n2, li, o⟩)).alloc (.cells #[.int .i32 n1, .int .i32 n2] 90)).drew
  have KT : Hid (Blk ((w.alloc (.cells (entC ⟨n0, n1, n2, li, o⟩) 60)).alloc (.cells #[.int .i32 n1, .int .i32 n2] 90)).drew (w.heap.size + 1) 90 #[.int .i32 n1, .int .i32 n2]) := Lib.hid (by
    have := (Blk.new (w.alloc (.cells (entC ⟨n0, n1, n2, li, o⟩) 60)) 90 #[.int .i32 n1, .int .i32 n2]).drew
    simpa using this)
  have HFD := Lib.hid ((((Fr.refl rowTs [gb, mb] base w).alloc (.cells (entC ⟨n0, n1, n2, li, o⟩) 60)).alloc (.cells #[.int .i32 n1, .int .i32 n2] 90)).drew)
  have HM := Lib.hid (gm_grow hM1 (w1 := ((w.alloc (.cells (entC ⟨n0, n1, n2, li, o⟩) 60)).alloc (.cells #[.int .i32 n1, .int .i32 n2] 90)).drew) (((Below.refl _ _).alloc (Nat.le_refl _) _).drew))
  have HMAP := Lib.hid (hmap1.alloc (.cells #[.int .i32 n1, .int .i32 n2] 90)).drew
  have HT4 := Lib.hid ht4
  clear hG hG2 hM1 hmap1 ho4 ho1 ho3 ht4
  generalize hN : P.length = N at *
  generalize hMN : (scL P).length = M at *
  have HN := Lib.hid hN
  have HMN := Lib.hid hMN
  clear hN hMN
  unfold entV
  unfold entC at *
  go_enter Tryd.func28, Tryd.ntmps28
  go_wp2
  refine wp_region_U (fun u => u.cell? ⟨gb, 4, none⟩ = some (.slice A4 N cap4) ∧ u.frozen? ⟨gb, 4, none⟩ = false ∧ u.cell? ⟨w.heap.size + 1, 0, none⟩ = some (.int .i32 n1) ∧ u.cell? ⟨w.heap.size + 1, 1, none⟩ = some (.int .i32 n2)) 10 (by kernel_rfl) ?_
  generalize ((w.alloc (.cells #[.int .i32 n0, .int .i32 n1, .int .i32 n2, .int .i64 li, .bool o] 60)).alloc (.cells #[.int .i32 n1, .int .i32 n2] 90)).drew = w2 at *
  have HS : Hid (w2.cell? ⟨gb, 4, none⟩ = some (.slice A4 N cap4) ∧ w2.frozen? ⟨gb, 4, none⟩ = false ∧ w2.cell? ⟨w.heap.size + 1, 0, none⟩ = some (.int .i32 n1) ∧ w2.cell? ⟨w.heap.size + 1, 1, none⟩ = some (.int .i32 n2)) := Lib.hid ⟨HM.out.blk.cell 4, HM.out.blk.frozen 4, KT.out.cell 0, KT.out.cell 1⟩
  have HSA : Hid ((w2.alloc (.cells #[.int .i32 n1, .int .i32 n2] 90)).cell? ⟨gb, 4, none⟩ = some (.slice A4 N cap4) ∧ (w2.alloc (.cells #[.int .i32 n1, .int .i32 n2] 90)).frozen? ⟨gb, 4, none⟩ = false ∧ (w2.alloc (.cells #[.int .i32 n1, .int .i32 n2] 90)).cell? ⟨w.heap.size + 1, 0, none⟩ = some (.int .i32 n1) ∧ (w2.alloc (.cells #[.int .i32 n1, .int .i32 n2] 90)).cell? ⟨w.heap.size + 1, 1, none⟩ = some (.int .i32 n2)) := Lib.hid ⟨(HM.out.blk.alloc _).cell 4, (HM.out.blk.alloc _).frozen 4, (KT.out.alloc _).cell 0, (KT.out.alloc _).cell 1⟩
  have HX : Hid (up ≤ w2.heap.size) := Lib.hid (by have := HFD.out.size; omega)
  have HOWN : Hid (w2.ownsRow base 90 2 (.slice A4 N cap4) N (twV P)) := Lib.hid (HM.out.own 4 _ rfl)
  have HTOP : Hid (base ≤ (w2.alloc (.cells #[.int .i32 n1, .int .i32 n2] 90)).heap.size) := Lib.hid (by have := HM.out.top; simp; omega)
  refine wpU_take 0 21 (v := ?v0a) rfl rfl (by kernel_rfl) (by kernel_rfl) (by kernel_rfl) (by kernel_rfl) (fun _ _ _ h => h) HS.out (Or.inl ⟨by rfl, ?y0a⟩) ?r0a
  case y0a => (intro W _; go_simp; try with_reducible rfl)
  try simp only [Act.put, List.setIfInBounds_toArray, List.set_cons_zero, List.set_cons_succ]
  refine wpU_take 1 22 (v := ?v1a) rfl rfl (by kernel_rfl) (by kernel_rfl) (by kernel_rfl) (by kernel_rfl) (fun _ _ _ h => h) HS.out (Or.inl ⟨by rfl, ?y1a⟩) ?r1a
  case y1a => (intro W _; go_simp; try with_reducible rfl)
  try simp only [Act.put, List.setIfInBounds_toArray, List.set_cons_zero, List.set_cons_succ]
  refine wpU_take 2 23 (v := ?v2a) rfl rfl (by kernel_rfl) (by kernel_rfl) (by kernel_rfl) (by kernel_rfl) (fun _ _ _ h => h) HS.out (Or.inl ⟨by rfl, ?y2a⟩) ?r2a
  case y2a => (intro W _; go_simp; try with_reducible rfl)
  try simp only [Act.put, List.setIfInBounds_toArray, List.set_cons_zero, List.set_cons_succ]
  refine wpU_take 3 24 (v := ?v3a) rfl rfl (by kernel_rfl) (by kernel_rfl) (by kernel_rfl) (by kernel_rfl) (fun _ _ _ h => h) HS.out (Or.inl ⟨by rfl, ?y3a⟩) ?r3a
  case y3a => (intro W _; go_simp; try with_reducible rfl)
  try simp only [Act.put, List.setIfInBounds_toArray, List.set_cons_zero, List.set_cons_succ]
  refine wpU_take 4 25 (v := ?v4a) rfl rfl (by kernel_rfl) (by kernel_rfl) (by kernel_rfl) (by kernel_rfl) (fun _ _ _ h => h) HS.out (Or.inl ⟨by rfl, ?y4a⟩) ?r4a
  case y4a => (rintro W ⟨x1, x2, x3, x4⟩; go_simp; try with_reducible rfl)
  try simp only [Act.put, List.setIfInBounds_toArray, List.set_cons_zero, List.set_cons_succ]
  refine wpU_take 5 26 (v := ?v5a) rfl rfl (by kernel_rfl) (by kernel_rfl) (by kernel_rfl) (by kernel_rfl) (fun _ _ _ h => h) HS.out (Or.inl ⟨by rfl, ?y5a⟩) ?r5a
  case y5a => (rintro W ⟨x1, x2, x3, x4⟩; go_simp; try with_reducible rfl)
  try simp only [Act.put, List.setIfInBounds_toArray, List.set_cons_zero, List.set_cons_succ]
  refine wpU_one 6 (by kernel_rfl) rfl (fun K hK => ?_)
  refine wpA_if (by rfl) ?_
  refine wpO_lit 51 90 1 _ rfl zTwo 2 8 Tryd.underlying51 info_zTwo (by decide) (by decide) (by decide) [.agg #[.int .i32 n1, .int .i32 n2]] (by simp [Act.eval]) (by simp [Value.cells]) rfl #[.int .i32 n1, .int .i32 n2] (by simp [Value.cells]) ?_
  refine hK.out _ _ HSA.out ?_
  clear hK K
  try simp only [Act.put, List.setIfInBounds_toArray, List.set_cons_zero, List.set_cons_succ]
  refine wpU_one 7 (by kernel_rfl) rfl (fun K hK => ?_)
  refine wpA_if (by rfl) ?_
  refine wpO_append _ _ 51 rfl base 90 zTwo 2 8 Tryd.underlying51 info_zTwo rfl (by decide) _ N _ rfl (HOWN.out.alloc _) ⟨w2.heap.size, 0, none⟩ 1 1 [.int .i32 n1, .int .i32 n2] rfl rfl (cells_new w2 _ _) (by simp [Value.oneCell']) (by simp only [maxLen]; omega) (by omega) HTOP.out ?_
  intro va w3 ho3 hg3 hloc; obtain ⟨A3, cap3, rfl, hq1, hq2⟩ := own_form' ho3
  obtain ⟨hb3, hM3, hF3⟩ := gm_app HM.out (i := 4) rfl hg3 ho3 hloc HX.out
  have KT3 := Lib.hid (far_blk (KT.out.alloc _) HT4.out hg3)
  have KE3 := Lib.hid (row_blk (KE.out.alloc _) (HOWN.out.alloc _) (by decide) hg3)
  have HSB : Hid (w3.cell? ⟨gb, 4, none⟩ = some (.slice A4 N cap4) ∧ w3.frozen? ⟨gb, 4, none⟩ = false ∧ w3.cell? ⟨w.heap.size + 1, 0, none⟩ = some (.int .i32 n1) ∧ w3.cell? ⟨w.heap.size + 1, 1, none⟩ = some (.int .i32 n2)) := Lib.hid ⟨hb3.cell 4, hb3.frozen 4, KT3.out.cell 0, KT3.out.cell 1⟩
  have HM3 := Lib.hid hM3
  have HF3 := Lib.hid (fun L hL => hF3 rowTs L hL (show (90 : Nat) ∈ rowTs by decide))
  clear hb3 hM3 hF3 hloc hg3 ho3
  refine hK.out _ _ HSB.out ?_
  clear hK K
  try simp only [Act.put, List.setIfInBounds_toArray, List.set_cons_zero, List.set_cons_succ]
  refine wpU_one 8 (by kernel_rfl) rfl (fun K hK => ?_)
  go_simp
  refine hK.out _ _ HSB.out ?_
  clear hK K
  try simp only [Act.put, List.setIfInBounds_toArray, List.set_cons_zero, List.set_cons_succ]
  refine wpU_take 9 30 (v := ?v9a) rfl rfl (by kernel_rfl) (by kernel_rfl) (by kernel_rfl) (by kernel_rfl) (fun _ _ _ h => h) HSB.out (Or.inl ⟨by rfl, ?y9a⟩) ?r9a
  case y9a => (intro W _; go_simp; try with_reducible rfl)
  try simp only [Act.put, List.setIfInBounds_toArray, List.set_cons_zero, List.set_cons_succ]
  refine wpU_last (by kernel_rfl) rfl (by kernel_rfl) (fun K hK => ?_)
  have x1 := HSB.out.1
  have x2 := HSB.out.2.1
  go_simp
  refine hK.out _ _ ?_
  clear hK K
  go_wp2
  have HMA := Lib.hid (gm_grow HM3.out (w1 := (w3.setCell ⟨gb, 4, none⟩ (.slice A3 (N + 1) cap3)).drew) (Below.refl _ _).drew)
  have HMAPA := Lib.hid (Fr.mapIs (HF3.out [gb] (by simp)) HMAP.out (by simp; omega) hmb2).drew
  have HFA := Lib.hid (HFD.out.trans (HF3.out _ (by simp))).drew
  have KTA := Lib.hid (KT3.out.far (p := ⟨gb, 4, none⟩) (by show w.heap.size + 1 ≠ gb; omega) (.slice A3 (N + 1) cap3)).drew
  have KEA := Lib.hid (KE3.out.far (p := ⟨gb, 4, none⟩) (by show w.heap.size ≠ gb; omega) (.slice A3 (N + 1) cap3)).drew
  clear HM HM3 HMAP HFD KT KT3 KE KE3 HS HSA HSB HOWN HX HTOP HF3 HT4
  refine wp_region_U (fun u => u.cell? ⟨gb, 1, none⟩ = some (.slice A1 N cap1) ∧ u.frozen? ⟨gb, 1, none⟩ = false ∧ u.cell? ⟨gb, 4, none⟩ = some (.slice A3 (N + 1) cap3)) 16 (by kernel_rfl) ?_
  generalize (w3.setCell ⟨gb, 4, none⟩ (.slice A3 (N + 1) cap3)).drew = w2 at *
  have HS : Hid (w2.cell? ⟨gb, 1, none⟩ = some (.slice A1 N cap1) ∧ w2.frozen? ⟨gb, 1, none⟩ = false ∧ w2.cell? ⟨gb, 4, none⟩ = some (.slice A3 (N + 1) cap3)) := Lib.hid ⟨HMA.out.blk.cell 1, HMA.out.blk.frozen 1, HMA.out.blk.cell 4⟩
  have HSA : Hid ((w2.alloc (.cells #[.int .i32 ((at0 : Int) + n0), .int .i64 ((N : Int) + 1)] 89)).cell? ⟨gb, 1, none⟩ = some (.slice A1 N cap1) ∧ (w2.alloc (.cells #[.int .i32 ((at0 : Int) + n0), .int .i64 ((N : Int) + 1)] 89)).frozen? ⟨gb, 1, none⟩ = false ∧ (w2.alloc (.cells #[.int .i32 ((at0 : Int) + n0), .int .i64 ((N : Int) + 1)] 89)).cell? ⟨gb, 4, none⟩ = some (.slice A3 (N + 1) cap3)) := Lib.hid ⟨(HMA.out.blk.alloc _).cell 1, (HMA.out.blk.alloc _).frozen 1, (HMA.out.blk.alloc _).cell 4⟩
  have HX : Hid (up ≤ w2.heap.size) := Lib.hid (by have := HFA.out.size; omega)
  have HOWN : Hid (w2.ownsRow base 89 2 (.slice A1 N cap1) N (entsV (castE (prI 0 P)))) := Lib.hid (HMA.out.own 1 _ rfl)
  have HTOP : Hid (base ≤ (w2.alloc (.cells #[.int .i32 ((at0 : Int) + n0), .int .i64 ((N : Int) + 1)] 89)).heap.size) := Lib.hid (by have := HMA.out.top; simp; omega)
  refine wpU_take 0 31 (v := ?v0b) rfl rfl (by kernel_rfl) (by kernel_rfl) (by kernel_rfl) (by kernel_rfl) (fun _ _ _ h => h) HS.out (Or.inl ⟨by rfl, ?y0b⟩) ?r0b
  case y0b => (intro W _; go_simp; try with_reducible rfl)
  try simp only [Act.put, List.setIfInBounds_toArray, List.set_cons_zero, List.set_cons_succ]
  refine wpU_take 1 32 (v := ?v1b) rfl rfl (by kernel_rfl) (by kernel_rfl) (by kernel_rfl) (by kernel_rfl) (fun _ _ _ h => h) HS.out (Or.inl ⟨by rfl, ?y1b⟩) ?r1b
  case y1b => (intro W _; go_simp; try with_reducible rfl)
  try simp only [Act.put, List.setIfInBounds_toArray, List.set_cons_zero, List.set_cons_succ]
  refine wpU_take 2 33 (v := ?v2b) rfl rfl (by kernel_rfl) (by kernel_rfl) (by kernel_rfl) (by kernel_rfl) (fun _ _ _ h => h) HS.out (Or.inl ⟨by rfl, ?y2b⟩) ?r2b
  case y2b => (intro W _; go_simp; try with_reducible rfl)
  try simp only [Act.put, List.setIfInBounds_toArray, List.set_cons_zero, List.set_cons_succ]
  refine wpU_take 3 34 (v := ?v3b) rfl rfl (by kernel_rfl) (by kernel_rfl) (by kernel_rfl) (by kernel_rfl) (fun _ _ _ h => h) HS.out (Or.inl ⟨by rfl, ?y3b⟩) ?r3b
  case y3b => (intro W _; go_simp; try with_reducible rfl)
  try simp only [Act.put, List.setIfInBounds_toArray, List.set_cons_zero, List.set_cons_succ]
  refine wpU_take 4 35 (v := ?v4b) rfl rfl (by kernel_rfl) (by kernel_rfl) (by kernel_rfl) (by kernel_rfl) (fun _ _ _ h => h) HS.out (Or.inl ⟨by rfl, ?y4b⟩) ?r4b
  case y4b => (rintro W ⟨x1, x2, x3⟩; go_simp; try with_reducible rfl)
  try simp only [Act.put, List.setIfInBounds_toArray, List.set_cons_zero, List.set_cons_succ]
  refine wpU_take 5 36 (v := ?v5b) rfl rfl (by kernel_rfl) (by kernel_rfl) (by kernel_rfl) (by kernel_rfl) (fun _ _ _ h => h) HS.out (Or.inl ⟨by rfl, ?y5b⟩) ?r5b
  case y5b => (intro W _; go_simp; try with_reducible rfl)
  try simp only [Act.put, List.setIfInBounds_toArray, List.set_cons_zero, List.set_cons_succ]
  refine wpU_take 6 37 (v := ?v6b) rfl rfl (by kernel_rfl) (by kernel_rfl) (by kernel_rfl) (by kernel_rfl) (fun _ _ _ h => h) HS.out (Or.inl ⟨by rfl, ?y6b⟩) ?r6b
  case y6b => (intro W _; go_simp; try with_reducible rfl)
  try simp only [Act.put, List.setIfInBounds_toArray, List.set_cons_zero, List.set_cons_succ]
  refine wpU_take 7 38 (v := ?v7b) rfl rfl (by kernel_rfl) (by kernel_rfl) (by kernel_rfl) (by kernel_rfl) (fun _ _ _ h => h) HS.out (Or.inl ⟨by rfl, ?y7b⟩) ?r7b
  case y7b => (intro W _; go_simp; try with_reducible rfl)
  try simp only [Act.put, List.setIfInBounds_toArray, List.set_cons_zero, List.set_cons_succ]
  refine wpU_take 8 39 (v := ?v8b) rfl rfl (by kernel_rfl) (by kernel_rfl) (by kernel_rfl) (by kernel_rfl) (fun _ _ _ h => h) HS.out (Or.inl ⟨by rfl, ?y8b⟩) ?r8b
  case y8b => (intro W _; go_simp; try with_reducible rfl)
  try simp only [Act.put, List.setIfInBounds_toArray, List.set_cons_zero, List.set_cons_succ]
  refine wpU_take 9 40 (v := ?v9b) rfl rfl (by kernel_rfl) (by kernel_rfl) (by kernel_rfl) (by kernel_rfl) (fun _ _ _ h => h) HS.out (Or.inl ⟨by rfl, ?y9b⟩) ?r9b
  case y9b => (rintro W ⟨x1, x2, x3⟩; go_simp; try with_reducible rfl)
  try simp only [Act.put, List.setIfInBounds_toArray, List.set_cons_zero, List.set_cons_succ]
  refine wpU_take 10 41 (v := ?v10b) rfl rfl (by kernel_rfl) (by kernel_rfl) (by kernel_rfl) (by kernel_rfl) (fun _ _ _ h => h) HS.out (Or.inl ⟨by rfl, ?y10b⟩) ?r10b
  case y10b => (intro W _; go_simp; try with_reducible rfl)
  try simp only [Act.put, List.setIfInBounds_toArray, List.set_cons_zero, List.set_cons_succ]
  refine wpU_take 11 42 (v := ?v11b) rfl rfl (by kernel_rfl) (by kernel_rfl) (by kernel_rfl) (by kernel_rfl) (fun _ _ _ h => h) HS.out (Or.inl ⟨by rfl, ?y11b⟩) ?r11b
  case y11b => (intro W _; go_simp; try with_reducible rfl)
  try simp only [Act.put, List.setIfInBounds_toArray, List.set_cons_zero, List.set_cons_succ]
  refine wpU_one 12 (by kernel_rfl) rfl (fun K hK => ?_)
  refine wpA_if (by rfl) ?_
  refine wpO_lit 50 89 1 _ rfl zEnt 2 16 Tryd.underlying50 info_zEnt (by decide) (by decide) (by decide) [.agg #[.int .i32 ((at0 : Int) + n0), .int .i64 ((N : Int) + 1)]] (by simp [Act.eval]) (by simp [Value.cells]) rfl #[.int .i32 ((at0 : Int) + n0), .int .i64 ((N : Int) + 1)] (by simp [Value.cells]) ?_
  refine hK.out _ _ HSA.out ?_
  clear hK K
  try simp only [Act.put, List.setIfInBounds_toArray, List.set_cons_zero, List.set_cons_succ]
  refine wpU_one 13 (by kernel_rfl) rfl (fun K hK => ?_)
  refine wpA_if (by rfl) ?_
  refine wpO_append _ _ 50 rfl base 89 zEnt 2 16 Tryd.underlying50 info_zEnt rfl (by decide) _ N _ rfl (HOWN.out.alloc _) ⟨w2.heap.size, 0, none⟩ 1 1 [.int .i32 ((at0 : Int) + n0), .int .i64 ((N : Int) + 1)] rfl rfl (cells_new w2 _ _) (by simp [Value.oneCell']) (by simp only [maxLen]; omega) (by omega) HTOP.out ?_
  intro va wB ho3 hg3 hloc; obtain ⟨AB, capB, rfl, hq3, hq4⟩ := own_form' ho3
  obtain ⟨hb3, hM3, hF3⟩ := gm_app HMA.out (i := 1) rfl hg3 ho3 hloc HX.out
  have KT3 := Lib.hid (row_blk (KTA.out.alloc _) (HOWN.out.alloc _) (by decide) hg3)
  have KE3 := Lib.hid (row_blk (KEA.out.alloc _) (HOWN.out.alloc _) (by decide) hg3)
  have HSB : Hid (wB.cell? ⟨gb, 1, none⟩ = some (.slice A1 N cap1) ∧ wB.frozen? ⟨gb, 1, none⟩ = false ∧ wB.cell? ⟨gb, 4, none⟩ = some (.slice A3 (N + 1) cap3)) := Lib.hid ⟨hb3.cell 1, hb3.frozen 1, hb3.cell 4⟩
  have HM3 := Lib.hid hM3
  have HF3 := Lib.hid (fun L hL => hF3 rowTs L hL (show (89 : Nat) ∈ rowTs by decide))
  clear hb3 hM3 hF3 hloc hg3 ho3
  refine hK.out _ _ HSB.out ?_
  clear hK K
  try simp only [Act.put, List.setIfInBounds_toArray, List.set_cons_zero, List.set_cons_succ]
  refine wpU_one 14 (by kernel_rfl) rfl (fun K hK => ?_)
  go_simp
  refine hK.out _ _ HSB.out ?_
  clear hK K
  try simp only [Act.put, List.setIfInBounds_toArray, List.set_cons_zero, List.set_cons_succ]
  refine wpU_take 15 46 (v := ?v15b) rfl rfl (by kernel_rfl) (by kernel_rfl) (by kernel_rfl) (by kernel_rfl) (fun _ _ _ h => h) HSB.out (Or.inl ⟨by rfl, ?y15b⟩) ?r15b
  case y15b => (intro W _; go_simp; try with_reducible rfl)
  try simp only [Act.put, List.setIfInBounds_toArray, List.set_cons_zero, List.set_cons_succ]
  refine wpU_last (by kernel_rfl) rfl (by kernel_rfl) (fun K hK => ?_)
  have x1 := HSB.out.1
  have x2 := HSB.out.2.1
  go_simp
  refine hK.out _ _ ?_
  clear hK K
  have HMB := Lib.hid HM3.out
  have HMAPB := Lib.hid (Fr.mapIs (HF3.out [gb] (by simp)) HMAPA.out (by simp; omega) hmb2)
  have HFB := Lib.hid (HFA.out.trans (HF3.out _ (by simp)))
  have KTB := Lib.hid (KT3.out.far (p := ⟨gb, 1, none⟩) (by show w.heap.size + 1 ≠ gb; omega) (.slice AB (N + 1) capB))
  have KEB := Lib.hid (KE3.out.far (p := ⟨gb, 1, none⟩) (by show w.heap.size ≠ gb; omega) (.slice AB (N + 1) capB))
  clear HMA HM3 HMAPA HFA KTA KT3 KEA KE3 HS HSA HSB HOWN HX HTOP HF3
  cases o with
  | true =>
    have ce : (wB.setCell ⟨gb, 1, none⟩ (.slice AB (N + 1) capB)).cell? ⟨w.heap.size, 4, none⟩ = some (.bool true) := KEB.out.cell 4
    have co : (wB.setCell ⟨gb, 1, none⟩ (.slice AB (N + 1) capB)).cell? ⟨gb, 6, none⟩ = some (.int .i64 (outs P)) := HMB.out.blk.cell 6
    have fo : (wB.setCell ⟨gb, 1, none⟩ (.slice AB (N + 1) capB)).frozen? ⟨gb, 6, none⟩ = false := HMB.out.blk.frozen 6
    generalize wB.setCell ⟨gb, 1, none⟩ (.slice AB (N + 1) capB) = w4 at *
    go_wp2
    go_ret
    refine ⟨by simp, ⟨v0, .slice AB (N + 1) capB, v2, .slice A5 M cap5, .slice A3 (N + 1) cap3, ?_, ?_, hmb2, hne⟩, HFB.out.but ((But.refl gb _).set _ _) (by simp)⟩
    · have := gm_tail HMB.out 1 (.int .i64 ((outs P : Int) + 1))
      rw [prI_snoc, castE_app, entsV_app, List.length_append, HN.out, scL_app, twV_app, outs_app]
      simpa [castE, entsV, twV, scL, outs, HN.out, HMN.out] using this
    · rw [jst_snoc]
      exact HMAPB.out.far (p := ⟨gb, 6, none⟩) (by show mb ≠ gb; omega) _
  | false =>
    have ce : (wB.setCell ⟨gb, 1, none⟩ (.slice AB (N + 1) capB)).cell? ⟨w.heap.size, 4, none⟩ = some (.bool false) := KEB.out.cell 4
    generalize wB.setCell ⟨gb, 1, none⟩ (.slice AB (N + 1) capB) = w4 at *
    go_wp2
    refine wp_region_still_tail 6 (by kernel_rfl) (by kernel_rfl) ?_
    simp only [List.take_succ_cons, List.take_zero, List.drop_succ_cons, List.drop_zero]
    have HMC := Lib.hid (gm_grow HMB.out (w1 := w4.drew) (Below.refl _ _).drew)
    have HMAPC := Lib.hid HMAPB.out.drew
    have HFC := Lib.hid HFB.out.drew
    have KTC := Lib.hid KTB.out.drew
    have KEC := Lib.hid KEB.out.drew
    clear HMB HMAPB HFB KTB KEB ce
    change wpStill _ _ w4.drew (fun a => wpList _ _ _ _ a w4.drew) _ _
    generalize w4.drew = w5 at *
    have m0 : w5.cell? ⟨gb, 5, none⟩ = some (.map (some mb)) := HMC.out.blk.cell 5
    have t0 : w5.cell? ⟨w.heap.size + 1, 0, none⟩ = some (.int .i32 n1) := KTC.out.cell 0
    have t1 : w5.cell? ⟨w.heap.size + 1, 1, none⟩ = some (.int .i32 n2) := KTC.out.cell 1
    have HD : Hid (DD [(n1 : Int), (n2 : Int)]) := Lib.hid ⟨rfl, fun x hx => by
      rcases List.mem_cons.1 hx with rfl | hx
      · exact WalkArith.wf_i32 (by omega)
      · simp at hx; subst hx; exact WalkArith.wf_i32 (by omega)⟩
    repeat still_step
    refine wpStill_nil ?_
    go_wp2_with (at_mapUpdate; refine wpList_mput rfl _ _ _ 49 rfl 90 21 tkv Tryd.underlying49 mb rfl HMAPC.out [(n1 : Int), (n2 : Int)] rfl HD.out ((at0 : Int) + n0) rfl ?_; intro w6 hm6 hb6)
    have HMD := Lib.hid (gm_grow (gm_but HMC.out hb6 (Ne.symm hne) hmb2) (w1 := w6.drew) (Below.refl _ _).drew)
    have HMAPD := Lib.hid hm6.drew
    have HFE := Lib.hid (HFC.out.but hb6 (by simp)).drew
    have KTD := Lib.hid (hb6.blk KTC.out (by omega)).drew
    clear HMC HMAPC HFC KTC KEC m0 t0 t1 hm6 hb6
    refine wp_region_U (fun u => u.cell? ⟨gb, 3, none⟩ = some (.slice A5 M cap5) ∧ u.frozen? ⟨gb, 3, none⟩ = false ∧ u.cell? ⟨w.heap.size + 1, 1, none⟩ = some (.int .i32 n2)) 12 (by kernel_rfl) ?_
    generalize w6.drew = w2 at *
    have HS : Hid (w2.cell? ⟨gb, 3, none⟩ = some (.slice A5 M cap5) ∧ w2.frozen? ⟨gb, 3, none⟩ = false ∧ w2.cell? ⟨w.heap.size + 1, 1, none⟩ = some (.int .i32 n2)) := Lib.hid ⟨HMD.out.blk.cell 3, HMD.out.blk.frozen 3, KTD.out.cell 1⟩
    have HSA : Hid ((w2.alloc (.cells #[.int .i32 n2, .int .i64 1] 89)).cell? ⟨gb, 3, none⟩ = some (.slice A5 M cap5) ∧ (w2.alloc (.cells #[.int .i32 n2, .int .i64 1] 89)).frozen? ⟨gb, 3, none⟩ = false ∧ (w2.alloc (.cells #[.int .i32 n2, .int .i64 1] 89)).cell? ⟨w.heap.size + 1, 1, none⟩ = some (.int .i32 n2)) := Lib.hid ⟨(HMD.out.blk.alloc _).cell 3, (HMD.out.blk.alloc _).frozen 3, (KTD.out.alloc _).cell 1⟩
    have HX : Hid (up ≤ w2.heap.size) := Lib.hid (by have := HFE.out.size; omega)
    have HOWN : Hid (w2.ownsRow base 89 2 (.slice A5 M cap5) M (entsV (castE (scL P)))) := Lib.hid (HMD.out.own 3 _ rfl)
    have HTOP : Hid (base ≤ (w2.alloc (.cells #[.int .i32 n2, .int .i64 1] 89)).heap.size) := Lib.hid (by have := HMD.out.top; simp; omega)
    refine wpU_take 0 63 (v := ?v0c) rfl rfl (by kernel_rfl) (by kernel_rfl) (by kernel_rfl) (by kernel_rfl) (fun _ _ _ h => h) HS.out (Or.inl ⟨by rfl, ?y0c⟩) ?r0c
    case y0c => (intro W _; go_simp; try with_reducible rfl)
    try simp only [Act.put, List.setIfInBounds_toArray, List.set_cons_zero, List.set_cons_succ]
    refine wpU_take 1 64 (v := ?v1c) rfl rfl (by kernel_rfl) (by kernel_rfl) (by kernel_rfl) (by kernel_rfl) (fun _ _ _ h => h) HS.out (Or.inl ⟨by rfl, ?y1c⟩) ?r1c
    case y1c => (intro W _; go_simp; try with_reducible rfl)
    try simp only [Act.put, List.setIfInBounds_toArray, List.set_cons_zero, List.set_cons_succ]
    refine wpU_take 2 65 (v := ?v2c) rfl rfl (by kernel_rfl) (by kernel_rfl) (by kernel_rfl) (by kernel_rfl) (fun _ _ _ h => h) HS.out (Or.inl ⟨by rfl, ?y2c⟩) ?r2c
    case y2c => (intro W _; go_simp; try with_reducible rfl)
    try simp only [Act.put, List.setIfInBounds_toArray, List.set_cons_zero, List.set_cons_succ]
    refine wpU_take 3 66 (v := ?v3c) rfl rfl (by kernel_rfl) (by kernel_rfl) (by kernel_rfl) (by kernel_rfl) (fun _ _ _ h => h) HS.out (Or.inl ⟨by rfl, ?y3c⟩) ?r3c
    case y3c => (intro W _; go_simp; try with_reducible rfl)
    try simp only [Act.put, List.setIfInBounds_toArray, List.set_cons_zero, List.set_cons_succ]
    refine wpU_take 4 67 (v := ?v4c) rfl rfl (by kernel_rfl) (by kernel_rfl) (by kernel_rfl) (by kernel_rfl) (fun _ _ _ h => h) HS.out (Or.inl ⟨by rfl, ?y4c⟩) ?r4c
    case y4c => (rintro W ⟨x1, x2, x3⟩; go_simp; try with_reducible rfl)
    try simp only [Act.put, List.setIfInBounds_toArray, List.set_cons_zero, List.set_cons_succ]
    refine wpU_take 5 68 (v := ?v5c) rfl rfl (by kernel_rfl) (by kernel_rfl) (by kernel_rfl) (by kernel_rfl) (fun _ _ _ h => h) HS.out (Or.inl ⟨by rfl, ?y5c⟩) ?r5c
    case y5c => (intro W _; go_simp; try with_reducible rfl)
    try simp only [Act.put, List.setIfInBounds_toArray, List.set_cons_zero, List.set_cons_succ]
    refine wpU_take 6 69 (v := ?v6c) rfl rfl (by kernel_rfl) (by kernel_rfl) (by kernel_rfl) (by kernel_rfl) (fun _ _ _ h => h) HS.out (Or.inl ⟨by rfl, ?y6c⟩) ?r6c
    case y6c => (rintro W ⟨x1, x2, x3⟩; go_simp; try with_reducible rfl)
    try simp only [Act.put, List.setIfInBounds_toArray, List.set_cons_zero, List.set_cons_succ]
    refine wpU_take 7 70 (v := ?v7c) rfl rfl (by kernel_rfl) (by kernel_rfl) (by kernel_rfl) (by kernel_rfl) (fun _ _ _ h => h) HS.out (Or.inl ⟨by rfl, ?y7c⟩) ?r7c
    case y7c => (intro W _; go_simp; try with_reducible rfl)
    try simp only [Act.put, List.setIfInBounds_toArray, List.set_cons_zero, List.set_cons_succ]
    refine wpU_one 8 (by kernel_rfl) rfl (fun K hK => ?_)
    refine wpA_if (by rfl) ?_
    refine wpO_lit 50 89 1 _ rfl zEnt 2 16 Tryd.underlying50 info_zEnt (by decide) (by decide) (by decide) [.agg #[.int .i32 n2, .int .i64 1]] (by simp [Act.eval]) (by simp [Value.cells]) rfl #[.int .i32 n2, .int .i64 1] (by simp [Value.cells]) ?_
    refine hK.out _ _ HSA.out ?_
    clear hK K
    try simp only [Act.put, List.setIfInBounds_toArray, List.set_cons_zero, List.set_cons_succ]
    refine wpU_one 9 (by kernel_rfl) rfl (fun K hK => ?_)
    refine wpA_if (by rfl) ?_
    refine wpO_append _ _ 50 rfl base 89 zEnt 2 16 Tryd.underlying50 info_zEnt rfl (by decide) _ M _ rfl (HOWN.out.alloc _) ⟨w2.heap.size, 0, none⟩ 1 1 [.int .i32 n2, .int .i64 1] rfl rfl (cells_new w2 _ _) (by simp [Value.oneCell']) (by simp only [maxLen]; omega) (by omega) HTOP.out ?_
    intro va wD ho3 hg3 hloc; obtain ⟨AD, capD, rfl, hq5, hq6⟩ := own_form' ho3
    obtain ⟨hb3, hM3, hF3⟩ := gm_app HMD.out (i := 3) rfl hg3 ho3 hloc HX.out
    have HSB : Hid (wD.cell? ⟨gb, 3, none⟩ = some (.slice A5 M cap5) ∧ wD.frozen? ⟨gb, 3, none⟩ = false ∧ wD.cell? ⟨w.heap.size + 1, 1, none⟩ = some (.int .i32 n2)) := Lib.hid ⟨hb3.cell 3, hb3.frozen 3, (row_blk (KTD.out.alloc _) (HOWN.out.alloc _) (by decide) hg3).cell 1⟩
    have HM3 := Lib.hid hM3
    have HF3 := Lib.hid (fun L hL => hF3 rowTs L hL (show (89 : Nat) ∈ rowTs by decide))
    clear hb3 hM3 hF3 hloc hg3 ho3
    refine hK.out _ _ HSB.out ?_
    clear hK K
    try simp only [Act.put, List.setIfInBounds_toArray, List.set_cons_zero, List.set_cons_succ]
    refine wpU_one 10 (by kernel_rfl) rfl (fun K hK => ?_)
    go_simp
    refine hK.out _ _ HSB.out ?_
    clear hK K
    try simp only [Act.put, List.setIfInBounds_toArray, List.set_cons_zero, List.set_cons_succ]
    refine wpU_take 11 74 (v := ?v11c) rfl rfl (by kernel_rfl) (by kernel_rfl) (by kernel_rfl) (by kernel_rfl) (fun _ _ _ h => h) HSB.out (Or.inl ⟨by rfl, ?y11c⟩) ?r11c
    case y11c => (intro W _; go_simp; try with_reducible rfl)
    try simp only [Act.put, List.setIfInBounds_toArray, List.set_cons_zero, List.set_cons_succ]
    refine wpU_last (by kernel_rfl) rfl (by kernel_rfl) (fun K hK => ?_)
    have x1 := HSB.out.1
    have x2 := HSB.out.2.1
    go_simp
    refine hK.out _ _ ?_
    clear hK K
    go_wp2
    go_ret
    refine ⟨by simp, ⟨v0, .slice AB (N + 1) capB, v2, .slice AD (M + 1) capD, .slice A3 (N + 1) cap3, ?_, ?_, hmb2, hne⟩, HFE.out.trans (HF3.out _ (by simp))⟩
    · have := HM3.out
      rw [prI_snoc, castE_app, entsV_app, List.length_append, HN.out, scL_app, twV_app, outs_app, castE_app, entsV_app, List.length_append, HMN.out]
      simpa [castE, entsV, twV, scL, outs, HN.out, HMN.out] using this
    · rw [jst_snoc]
      have := Fr.mapIs (HF3.out [gb] (by simp)) HMAPD.out (by simp; omega) hmb2
      simpa [jstep, key5] using this
end Go.Proofs.YtdmcidljjfogjaaDoor

/- A region that draws its order, walked in one order: what only reads is taken as soon as it may come up, if it yields the same in every world that has only grown; what calls comes up alone. The laws beneath are the library's (OrdersHeld); here the condition on the world moves on with the world. -/
namespace Go.Proofs.YtdmcidljjfogjaaDoor
open Go.RowKit

/-- nothing that was there has turned -/
def Grow (w w' : World) : Prop := Below w.heap.size w w'
theorem Grow.refl (w : World) : Grow w w := Below.refl _ _
theorem Grow.trans {a b c : World} (h : Grow a b) (k : Grow b c) : Grow a c := Below.trans h (k.mono h.size)
theorem Grow.below {w w' : World} (h : Grow w w') : Below w.heap.size w w' := h
theorem Grow.drew (w : World) : Grow w w.drew := (Below.refl _ _).drew
theorem Ints.grow {w w' : World} {k : IntKind} {A : Option Addr} {xs : List Int} (h : Ints w w.heap.size k A xs) (hg : Grow w w') : Ints w' w'.heap.size k A xs := (h.below hg (Nat.le_refl _)).more hg.size

section
variable {P : Program} {ops : Array Oper} {Q : Exit → Act → World → Prop} {md : Region.Mode}

/-- whatever order the rest comes up in, the world only grows from w on -/
def wpG (P : Program) (md : Region.Mode) (ops : Array Oper) (Q : Exit → Act → World → Prop) (fuel : Nat) (listed : Array Bool) (a : Act) (w : World) : Prop := wpAnyH P md ops Q (Grow w) fuel listed a w

/-- a narrower condition serves for a wider one -/
theorem wpAnyH_wider {S S' : World → Prop} (hS : ∀ w, S' w → S w) : ∀ (fuel : Nat) (listed : Array Bool) (a : Act) (w : World), wpAnyH P md ops Q S' fuel listed a w → wpAnyH P md ops Q S fuel listed a w
  | 0, _, _, _, h => h
  | fuel + 1, _, _, _, h => ⟨h.1, fun i hi => wpOp_mono (fun a' w' k => ⟨hS w' k.1, wpAnyH_wider hS fuel _ a' w' k.2⟩) (h.2 i hi)⟩

/-- what only reads is taken -/
theorem wpG_take (i d : Nat) {oi : Oper} {v : Value} {fuel : Nat} {listed : Array Bool} {a : Act} {w : World} (hi : ops[i]? = some oi) (hd : oi.dst = some d)
    (hs : Region.noSelect ops = true) (hf : Region.free md ops listed i = true) (hr : (Region.ready md ops listed).contains i = true)
    (hQ : ∀ c a w, Q (.panic c) (a.put (some d) v) w → Q (.panic c) a w) (hy : YieldsIf P ops (Grow w) oi v a)
    (h : wpG P md ops Q fuel (listed.setIfInBounds i true) (a.put (some d) v) w) : wpG P md ops Q (fuel + 1) listed a w :=
  wpAnyH_take hi hs hf hr (by rw [hd]; exact hQ) hy (Grow.refl w) (by rw [hd]; exact h)
/-- what calls comes up alone -/
theorem wpG_call (i : Nat) {o : Oper} {fuel : Nat} {listed : Array Bool} {a : Act} {w : World} (hr : Region.ready md ops listed = [i]) (ho : ops[i]? = some o)
    (h : ∀ K' : Act → World → Prop, Shut (∀ a' w', Grow w w' → wpG P md ops Q fuel (listed.setIfInBounds i true) a' w' → K' a' w') → if Region.wanted o (yielded ops a.tmps) = true then Oper.wp P o a w K' Q else K' (a.put o.dst undef) w) :
    wpG P md ops Q (fuel + 1) listed a w :=
  wpAnyH_all hr (by simp) fun j hj => by
    obtain rfl : j = i := by simpa using hj
    exact wpOp_step ho fun K' hK => h K' fun a' w' hg hw => hK a' w' ⟨hg, wpAnyH_wider (fun _ k => hg.trans k) _ _ _ _ hw⟩
theorem wpG_done {listed : Array Bool} {a : Act} {w : World} (hr : Region.ready md ops listed = []) (h : Q .normal a w) (fuel : Nat) : wpG P md ops Q fuel listed a w := wpAnyH_done hr h fuel
theorem wp_region_G {id : Nat} {a : Act} {w : World} (hm : P.follows .mixedOrders = true)
    (h : wpG P .any ops Q ops.size (Array.replicate ops.size false) a w.drew) : (Code.region id ops true).wp P Q a w := wp_region_held hm h
end
end Go.Proofs.YtdmcidljjfogjaaDoor

/- Printed by gen_u5t.py. What has been gathered, as tables. -/
namespace Go.Proofs.YtdmcidljjfogjaaDoor
set_option maxRecDepth 100000
open Go.ChangeShapes Go.WideShapes Go.ChangeAt Go.RowKit
set_option linter.unusedVariables false
set_option linter.unusedSimpArgs false

/-- the twos, one behind the other, below block B -/
def Twos (W : World) (B : Nat) (A : Option Addr) (P : List Pr5) : Prop :=
  P = [] ∨ ∃ b, A = some ⟨b, 0, none⟩ ∧ b < B ∧ ∀ j p, P[j]? = some p → W.cell? ⟨b, j * 2, none⟩ = some (.int .i32 p.x) ∧ W.cell? ⟨b, j * 2 + 1, none⟩ = some (.int .i32 p.y)
theorem Twos.below {W W' : World} {B B' : Nat} {A : Option Addr} {P : List Pr5} (h : Twos W B A P) (hb : Below B' W W') (hB : B ≤ B') : Twos W' B A P := by
  rcases h with h | ⟨b, e, hl, hc⟩
  · exact .inl h
  · exact .inr ⟨b, e, hl, fun j p hj => ⟨(hb.cell (p := ⟨b, j * 2, none⟩) (show b < B' by omega)).trans (hc j p hj).1, (hb.cell (p := ⟨b, j * 2 + 1, none⟩) (show b < B' by omega)).trans (hc j p hj).2⟩⟩
theorem Twos.more {W : World} {B B' : Nat} {A : Option Addr} {P : List Pr5} (h : Twos W B A P) (hB : B ≤ B') : Twos W B' A P := by
  rcases h with h | ⟨b, e, hl, hc⟩
  · exact .inl h
  · exact .inr ⟨b, e, by omega, hc⟩
theorem twV_at : ∀ (P : List Pr5) (j : Nat) (p : Pr5), P[j]? = some p → (twV P)[j * 2]? = some (.int .i32 p.x) ∧ (twV P)[j * 2 + 1]? = some (.int .i32 p.y)
  | [], j, _, h => by simp at h
  | q :: r, 0, p, h => by
    simp only [List.getElem?_cons_zero, Option.some.injEq] at h
    subst h
    exact ⟨rfl, rfl⟩
  | q :: r, j + 1, p, h => by
    simp only [List.getElem?_cons_succ] at h
    obtain ⟨h1, h2⟩ := twV_at r j p h
    have e : twV (q :: r) = .int .i32 q.x :: .int .i32 q.y :: twV r := rfl
    rw [e]
    have e1 : (j + 1) * 2 = j * 2 + 1 + 1 := by omega
    have e2 : (j + 1) * 2 + 1 = j * 2 + 1 + 1 + 1 := by omega
    rw [e2, e1]
    exact ⟨by simpa using h1, by simpa using h2⟩
theorem Twos.own {W : World} {base : Nat} {A : Option Addr} {n c : Nat} {P : List Pr5} (h : W.ownsRow base 90 2 (.slice A n c) n (twV P)) : Twos W W.heap.size A P := by
  rcases h.2 with ⟨e1, e2⟩ | ⟨g, cap, cur, hv, hb, hh, hnc, hm, hcs, ht⟩
  · have hl := h.1
    cases P with
    | nil => exact .inl rfl
    | cons p r => rw [e2] at hl; simp [twV] at hl
  · have hA : A = some ⟨g, 0, none⟩ := by injection hv
    refine .inr ⟨g, hA, (h.lt g (by rw [hA]; rfl)).2, fun j p hj => ?_⟩
    obtain ⟨h1, h2⟩ := twV_at P j p hj
    have hadd : ∀ k, (⟨g, 0, none⟩ : Addr).add k = ⟨g, k, none⟩ := fun k => by unfold Addr.add; split <;> simp_all
    have c1 := h.cells (g := g) (by rw [hA]; rfl) (j * 2) _ h1
    have c2 := h.cells (g := g) (by rw [hA]; rfl) (j * 2 + 1) _ h2
    rw [hadd] at c1 c2
    exact ⟨c1, c2⟩

/-- block g holds the tables -/
structure TblIs (W : World) (B g : Nat) (C : List (Nat × Nat)) (P : List Pr5) (S : List (Nat × Nat)) (g0 g1 g2 g3 mb : Nat) (A4 : Option Addr) (cap4 k0 k1 k2 k3 : Nat) : Prop where
  low : g < B
  mlow : mb < B
  blk : Blk W g 95 #[.pointer (some ⟨g0, 0, none⟩), .pointer (some ⟨g1, 0, none⟩), .pointer (some ⟨g2, 0, none⟩), .pointer (some ⟨g3, 0, none⟩), .slice A4 P.length cap4, .map (some mb), .int .i64 C.length, .int .i64 P.length, .int .i64 S.length, .int .i64 (outs P)]
  cap : P.length ≤ cap4
  t0 : TabAt W B g0 (tab (castE C)) k0
  t1 : TabAt W B g1 (tab (castE (prI 0 P))) k1
  t2 : TabAt W B g2 (tab (castE S)) k2
  t3 : TabAt W B g3 (tab (castE (scL P))) k3
  tw : Twos W B A4 P
  map : MapIs W mb (arrV .i32) (Value.int .i32) DD (jst P).1 (jst P).2
def TblAt (W : World) (B g : Nat) (C : List (Nat × Nat)) (P : List Pr5) (S : List (Nat × Nat)) : Prop := ∃ g0 g1 g2 g3 mb A4 cap4 k0 k1 k2 k3, TblIs W B g C P S g0 g1 g2 g3 mb A4 cap4 k0 k1 k2 k3
theorem TblAt.below {W W' : World} {B B' g : Nat} {C : List (Nat × Nat)} {P : List Pr5} {S : List (Nat × Nat)} (h : TblAt W B g C P S) (hb : Below B' W W') (hB : B ≤ B') : TblAt W' B g C P S := by
  obtain ⟨g0, g1, g2, g3, mb, A4, cap4, k0, k1, k2, k3, h⟩ := h
  have h1 := h.low
  have h2 := h.mlow
  exact ⟨g0, g1, g2, g3, mb, A4, cap4, k0, k1, k2, k3, h.low, h.mlow, h.blk.below hb (by omega), h.cap, h.t0.below hb hB, h.t1.below hb hB, h.t2.below hb hB, h.t3.below hb hB, h.tw.below hb hB, h.map.below hb (by omega)⟩
theorem TblAt.more {W : World} {B B' g : Nat} {C : List (Nat × Nat)} {P : List Pr5} {S : List (Nat × Nat)} (h : TblAt W B g C P S) (hB : B ≤ B') : TblAt W B' g C P S := by
  obtain ⟨g0, g1, g2, g3, mb, A4, cap4, k0, k1, k2, k3, h⟩ := h
  have h1 := h.low
  have h2 := h.mlow
  exact ⟨g0, g1, g2, g3, mb, A4, cap4, k0, k1, k2, k3, by omega, by omega, h.blk, h.cap, h.t0.more hB, h.t1.more hB, h.t2.more hB, h.t3.more hB, h.tw.more hB, h.map⟩
def TPost (w : World) (C : List (Nat × Nat)) (P : List Pr5) (S : List (Nat × Nat)) (e : Ending) (w' : World) : Prop :=
  ∃ g, e = .returned (.pointer (some ⟨g, 0, none⟩)) ∧ TblAt w' w'.heap.size g C P S ∧ Below w.heap.size w w'

set_option maxRecDepth 100000 in
set_option maxHeartbeats 4000000 in
theorem tables_any (w : World) (gb mb base lo up : Nat) (C : List (Nat × Nat)) (P : List Pr5) (S : List (Nat × Nat)) (hG : GAt w gb mb base lo up C P S) (hC : C.length ≤ 100000000) (hP : P.length ≤ 100000000) (hS : S.length ≤ 100000000)
    (f0 : FitE (castE C)) (f1 : FitE (castE (prI 0 P))) (f2 : FitE (castE S)) (f3 : FitE (castE (scL P))) :
    Calls Tryd.prog 30 #[.pointer (some ⟨gb, 0, none⟩)] w (TPost w C P S) := by
  have hgb2 : Hid (gb < w.drew.heap.size) := Lib.hid hG.lt
  have hsl := scL_len P
  obtain ⟨v0, v1, v2, v3, v4, hM, hmap, hmb2, hne⟩ := hG
  have o0 : w.ownsRow base 89 2 v0 C.length (entsV (castE C)) := hM.own 0 _ rfl
  have o1 : w.ownsRow base 89 2 v1 P.length (entsV (castE (prI 0 P))) := hM.own 1 _ rfl
  have o2 : w.ownsRow base 89 2 v2 S.length (entsV (castE S)) := hM.own 2 _ rfl
  have o3 : w.ownsRow base 89 2 v3 (scL P).length (entsV (castE (scL P))) := hM.own 3 _ rfl
  have o4 : w.ownsRow base 90 2 v4 P.length (twV P) := hM.own 4 _ rfl
  obtain ⟨A0, cap0, rfl, x1, x2⟩ := own_form' o0
  obtain ⟨A1, cap1, rfl, x3, x4⟩ := own_form' o1
  obtain ⟨A2, cap2, rfl, x5, x6⟩ := own_form' o2
  obtain ⟨A3, cap3, rfl, x7, x8⟩ := own_form' o3
  obtain ⟨A4, cap4, rfl, x9, x10⟩ := own_form' o4
  have HE00 : Hid (Ents w.drew w.drew.heap.size A0 (castE C)) := Lib.hid ((Ents.own o0).below (Below.refl _ _).drew (Nat.le_refl _))
  have HE10 : Hid (Ents w.drew w.drew.heap.size A1 (castE (prI 0 P))) := Lib.hid ((Ents.own o1).below (Below.refl _ _).drew (Nat.le_refl _))
  have HE20 : Hid (Ents w.drew w.drew.heap.size A2 (castE S)) := Lib.hid ((Ents.own o2).below (Below.refl _ _).drew (Nat.le_refl _))
  have HE30 : Hid (Ents w.drew w.drew.heap.size A3 (castE (scL P))) := Lib.hid ((Ents.own o3).below (Below.refl _ _).drew (Nat.le_refl _))
  have HTW : Hid (Twos w.drew w.drew.heap.size A4 P) := Lib.hid ((Twos.own o4).below (Below.refl _ _).drew (Nat.le_refl _))
  have HMAP := Lib.hid hmap.drew
  have HLOW : Hid (Below w.heap.size w w.drew) := Lib.hid (Below.refl _ _).drew
  have HSZ : Hid (w.heap.size = w.drew.heap.size) := Lib.hid rfl
  have HFit0 := Lib.hid f0
  have HFit1 := Lib.hid f1
  have HFit2 := Lib.hid f2
  have HFit3 := Lib.hid f3
  have HL0 : Hid ((castE C).length = C.length) := Lib.hid (castE_len _)
  have HL1 : Hid ((castE (prI 0 P)).length = P.length) := Lib.hid (by rw [castE_len, prI_len])
  have HL2 : Hid ((castE S).length = S.length) := Lib.hid (castE_len _)
  have HL3 : Hid ((castE (scL P)).length = (scL P).length) := Lib.hid (castE_len _)
  have hB := hM.blk.drew
  have c0 : Hid (w.drew.cell? ⟨gb, 0, none⟩ = some (.slice A0 C.length cap0)) := Lib.hid (hB.cell 0)
  have c1 : Hid (w.drew.cell? ⟨gb, 1, none⟩ = some (.slice A1 P.length cap1)) := Lib.hid (hB.cell 1)
  have c2 : Hid (w.drew.cell? ⟨gb, 2, none⟩ = some (.slice A2 S.length cap2)) := Lib.hid (hB.cell 2)
  have c3 : Hid (w.drew.cell? ⟨gb, 3, none⟩ = some (.slice A3 (scL P).length cap3)) := Lib.hid (hB.cell 3)
  have c4 : Hid (w.drew.cell? ⟨gb, 4, none⟩ = some (.slice A4 P.length cap4)) := Lib.hid (hB.cell 4)
  have c5 : Hid (w.drew.cell? ⟨gb, 5, none⟩ = some (.map (some mb))) := Lib.hid (hB.cell 5)
  have c6 : Hid (w.drew.cell? ⟨gb, 6, none⟩ = some (.int .i64 (outs P))) := Lib.hid (hB.cell 6)
  clear hB hM hmap o0 o1 o2 o3 o4 f0 f1 f2 f3
  generalize hN0 : C.length = N0 at *
  generalize hN1 : P.length = N1 at *
  generalize hN2 : S.length = N2 at *
  generalize hN3 : (scL P).length = N3 at *
  have HN0 := Lib.hid hN0
  have HN1 := Lib.hid hN1
  have HN2 := Lib.hid hN2
  clear hN0 hN1 hN2 hN3
  go_enter Tryd.func30, Tryd.ntmps30
  go_wp2
  refine wp_region_G (by kernel_rfl) ?_
  generalize w.drew = w2 at *
  refine wpG_take 0 3 (v := ?v0) rfl rfl (by kernel_rfl) (by kernel_rfl) (by kernel_rfl) (fun _ _ _ h => h) (Or.inl ⟨by rfl, ?y0⟩) ?r0
  case y0 => (intro W hW; (go_simp; try with_reducible rfl))
  simp only [Act.put, List.setIfInBounds_toArray, List.set_cons_zero, List.set_cons_succ]
  refine wpG_take 1 4 (v := ?v1) rfl rfl (by kernel_rfl) (by kernel_rfl) (by kernel_rfl) (fun _ _ _ h => h) (Or.inl ⟨by rfl, ?y1⟩) ?r1
  case y1 => (intro W hW; (go_simp; try with_reducible rfl))
  simp only [Act.put, List.setIfInBounds_toArray, List.set_cons_zero, List.set_cons_succ]
  refine wpG_take 2 5 (v := ?v2) rfl rfl (by kernel_rfl) (by kernel_rfl) (by kernel_rfl) (fun _ _ _ h => h) (Or.inl ⟨by rfl, ?y2⟩) ?r2
  case y2 => (intro W hW; (go_simp; try with_reducible rfl))
  simp only [Act.put, List.setIfInBounds_toArray, List.set_cons_zero, List.set_cons_succ]
  refine wpG_take 3 6 (v := ?v3) rfl rfl (by kernel_rfl) (by kernel_rfl) (by kernel_rfl) (fun _ _ _ h => h) (Or.inl ⟨by rfl, ?y3⟩) ?r3
  case y3 => (intro W hW; have f0 := (hW.below.cell (p := ⟨gb, 0, none⟩) hgb2.out).trans c0.out; (go_simp; try with_reducible rfl))
  simp only [Act.put, List.setIfInBounds_toArray, List.set_cons_zero, List.set_cons_succ]
  refine wpG_take 5 8 (v := ?v5) rfl rfl (by kernel_rfl) (by kernel_rfl) (by kernel_rfl) (fun _ _ _ h => h) (Or.inl ⟨by rfl, ?y5⟩) ?r5
  case y5 => (intro W hW; (go_simp; try with_reducible rfl))
  simp only [Act.put, List.setIfInBounds_toArray, List.set_cons_zero, List.set_cons_succ]
  refine wpG_take 6 9 (v := ?v6) rfl rfl (by kernel_rfl) (by kernel_rfl) (by kernel_rfl) (fun _ _ _ h => h) (Or.inl ⟨by rfl, ?y6⟩) ?r6
  case y6 => (intro W hW; (go_simp; try with_reducible rfl))
  simp only [Act.put, List.setIfInBounds_toArray, List.set_cons_zero, List.set_cons_succ]
  refine wpG_take 7 10 (v := ?v7) rfl rfl (by kernel_rfl) (by kernel_rfl) (by kernel_rfl) (fun _ _ _ h => h) (Or.inl ⟨by rfl, ?y7⟩) ?r7
  case y7 => (intro W hW; (go_simp; try with_reducible rfl))
  simp only [Act.put, List.setIfInBounds_toArray, List.set_cons_zero, List.set_cons_succ]
  refine wpG_take 8 11 (v := ?v8) rfl rfl (by kernel_rfl) (by kernel_rfl) (by kernel_rfl) (fun _ _ _ h => h) (Or.inl ⟨by rfl, ?y8⟩) ?r8
  case y8 => (intro W hW; have f0 := (hW.below.cell (p := ⟨gb, 1, none⟩) hgb2.out).trans c1.out; (go_simp; try with_reducible rfl))
  simp only [Act.put, List.setIfInBounds_toArray, List.set_cons_zero, List.set_cons_succ]
  refine wpG_take 10 13 (v := ?v10) rfl rfl (by kernel_rfl) (by kernel_rfl) (by kernel_rfl) (fun _ _ _ h => h) (Or.inl ⟨by rfl, ?y10⟩) ?r10
  case y10 => (intro W hW; (go_simp; try with_reducible rfl))
  simp only [Act.put, List.setIfInBounds_toArray, List.set_cons_zero, List.set_cons_succ]
  refine wpG_take 11 14 (v := ?v11) rfl rfl (by kernel_rfl) (by kernel_rfl) (by kernel_rfl) (fun _ _ _ h => h) (Or.inl ⟨by rfl, ?y11⟩) ?r11
  case y11 => (intro W hW; (go_simp; try with_reducible rfl))
  simp only [Act.put, List.setIfInBounds_toArray, List.set_cons_zero, List.set_cons_succ]
  refine wpG_take 12 15 (v := ?v12) rfl rfl (by kernel_rfl) (by kernel_rfl) (by kernel_rfl) (fun _ _ _ h => h) (Or.inl ⟨by rfl, ?y12⟩) ?r12
  case y12 => (intro W hW; (go_simp; try with_reducible rfl))
  simp only [Act.put, List.setIfInBounds_toArray, List.set_cons_zero, List.set_cons_succ]
  refine wpG_take 13 16 (v := ?v13) rfl rfl (by kernel_rfl) (by kernel_rfl) (by kernel_rfl) (fun _ _ _ h => h) (Or.inl ⟨by rfl, ?y13⟩) ?r13
  case y13 => (intro W hW; have f0 := (hW.below.cell (p := ⟨gb, 2, none⟩) hgb2.out).trans c2.out; (go_simp; try with_reducible rfl))
  simp only [Act.put, List.setIfInBounds_toArray, List.set_cons_zero, List.set_cons_succ]
  refine wpG_take 15 18 (v := ?v15) rfl rfl (by kernel_rfl) (by kernel_rfl) (by kernel_rfl) (fun _ _ _ h => h) (Or.inl ⟨by rfl, ?y15⟩) ?r15
  case y15 => (intro W hW; (go_simp; try with_reducible rfl))
  simp only [Act.put, List.setIfInBounds_toArray, List.set_cons_zero, List.set_cons_succ]
  refine wpG_take 16 19 (v := ?v16) rfl rfl (by kernel_rfl) (by kernel_rfl) (by kernel_rfl) (fun _ _ _ h => h) (Or.inl ⟨by rfl, ?y16⟩) ?r16
  case y16 => (intro W hW; (go_simp; try with_reducible rfl))
  simp only [Act.put, List.setIfInBounds_toArray, List.set_cons_zero, List.set_cons_succ]
  refine wpG_take 17 20 (v := ?v17) rfl rfl (by kernel_rfl) (by kernel_rfl) (by kernel_rfl) (fun _ _ _ h => h) (Or.inl ⟨by rfl, ?y17⟩) ?r17
  case y17 => (intro W hW; (go_simp; try with_reducible rfl))
  simp only [Act.put, List.setIfInBounds_toArray, List.set_cons_zero, List.set_cons_succ]
  refine wpG_take 18 21 (v := ?v18) rfl rfl (by kernel_rfl) (by kernel_rfl) (by kernel_rfl) (fun _ _ _ h => h) (Or.inl ⟨by rfl, ?y18⟩) ?r18
  case y18 => (intro W hW; have f0 := (hW.below.cell (p := ⟨gb, 3, none⟩) hgb2.out).trans c3.out; (go_simp; try with_reducible rfl))
  simp only [Act.put, List.setIfInBounds_toArray, List.set_cons_zero, List.set_cons_succ]
  refine wpG_take 20 23 (v := ?v20) rfl rfl (by kernel_rfl) (by kernel_rfl) (by kernel_rfl) (fun _ _ _ h => h) (Or.inl ⟨by rfl, ?y20⟩) ?r20
  case y20 => (intro W hW; (go_simp; try with_reducible rfl))
  simp only [Act.put, List.setIfInBounds_toArray, List.set_cons_zero, List.set_cons_succ]
  refine wpG_take 21 24 (v := ?v21) rfl rfl (by kernel_rfl) (by kernel_rfl) (by kernel_rfl) (fun _ _ _ h => h) (Or.inl ⟨by rfl, ?y21⟩) ?r21
  case y21 => (intro W hW; (go_simp; try with_reducible rfl))
  simp only [Act.put, List.setIfInBounds_toArray, List.set_cons_zero, List.set_cons_succ]
  refine wpG_take 22 25 (v := ?v22) rfl rfl (by kernel_rfl) (by kernel_rfl) (by kernel_rfl) (fun _ _ _ h => h) (Or.inl ⟨by rfl, ?y22⟩) ?r22
  case y22 => (intro W hW; (go_simp; try with_reducible rfl))
  simp only [Act.put, List.setIfInBounds_toArray, List.set_cons_zero, List.set_cons_succ]
  refine wpG_take 23 26 (v := ?v23) rfl rfl (by kernel_rfl) (by kernel_rfl) (by kernel_rfl) (fun _ _ _ h => h) (Or.inl ⟨by rfl, ?y23⟩) ?r23
  case y23 => (intro W hW; have f0 := (hW.below.cell (p := ⟨gb, 4, none⟩) hgb2.out).trans c4.out; (go_simp; try with_reducible rfl))
  simp only [Act.put, List.setIfInBounds_toArray, List.set_cons_zero, List.set_cons_succ]
  refine wpG_take 24 27 (v := ?v24) rfl rfl (by kernel_rfl) (by kernel_rfl) (by kernel_rfl) (fun _ _ _ h => h) (Or.inl ⟨by rfl, ?y24⟩) ?r24
  case y24 => (intro W hW; (go_simp; try with_reducible rfl))
  simp only [Act.put, List.setIfInBounds_toArray, List.set_cons_zero, List.set_cons_succ]
  refine wpG_take 25 28 (v := ?v25) rfl rfl (by kernel_rfl) (by kernel_rfl) (by kernel_rfl) (fun _ _ _ h => h) (Or.inl ⟨by rfl, ?y25⟩) ?r25
  case y25 => (intro W hW; (go_simp; try with_reducible rfl))
  simp only [Act.put, List.setIfInBounds_toArray, List.set_cons_zero, List.set_cons_succ]
  refine wpG_take 26 29 (v := ?v26) rfl rfl (by kernel_rfl) (by kernel_rfl) (by kernel_rfl) (fun _ _ _ h => h) (Or.inl ⟨by rfl, ?y26⟩) ?r26
  case y26 => (intro W hW; (go_simp; try with_reducible rfl))
  simp only [Act.put, List.setIfInBounds_toArray, List.set_cons_zero, List.set_cons_succ]
  refine wpG_take 27 30 (v := ?v27) rfl rfl (by kernel_rfl) (by kernel_rfl) (by kernel_rfl) (fun _ _ _ h => h) (Or.inl ⟨by rfl, ?y27⟩) ?r27
  case y27 => (intro W hW; have f0 := (hW.below.cell (p := ⟨gb, 5, none⟩) hgb2.out).trans c5.out; (go_simp; try with_reducible rfl))
  simp only [Act.put, List.setIfInBounds_toArray, List.set_cons_zero, List.set_cons_succ]
  refine wpG_take 28 31 (v := ?v28) rfl rfl (by kernel_rfl) (by kernel_rfl) (by kernel_rfl) (fun _ _ _ h => h) (Or.inl ⟨by rfl, ?y28⟩) ?r28
  case y28 => (intro W hW; (go_simp; try with_reducible rfl))
  simp only [Act.put, List.setIfInBounds_toArray, List.set_cons_zero, List.set_cons_succ]
  refine wpG_take 29 32 (v := ?v29) rfl rfl (by kernel_rfl) (by kernel_rfl) (by kernel_rfl) (fun _ _ _ h => h) (Or.inl ⟨by rfl, ?y29⟩) ?r29
  case y29 => (intro W hW; (go_simp; try with_reducible rfl))
  simp only [Act.put, List.setIfInBounds_toArray, List.set_cons_zero, List.set_cons_succ]
  refine wpG_take 30 33 (v := ?v30) rfl rfl (by kernel_rfl) (by kernel_rfl) (by kernel_rfl) (fun _ _ _ h => h) (Or.inl ⟨by rfl, ?y30⟩) ?r30
  case y30 => (intro W hW; (go_simp; try with_reducible rfl))
  simp only [Act.put, List.setIfInBounds_toArray, List.set_cons_zero, List.set_cons_succ]
  refine wpG_take 31 34 (v := ?v31) rfl rfl (by kernel_rfl) (by kernel_rfl) (by kernel_rfl) (fun _ _ _ h => h) (Or.inl ⟨by rfl, ?y31⟩) ?r31
  case y31 => (intro W hW; have f0 := (hW.below.cell (p := ⟨gb, 0, none⟩) hgb2.out).trans c0.out; (go_simp; try with_reducible rfl))
  simp only [Act.put, List.setIfInBounds_toArray, List.set_cons_zero, List.set_cons_succ]
  refine wpG_take 32 35 (v := ?v32) rfl rfl (by kernel_rfl) (by kernel_rfl) (by kernel_rfl) (fun _ _ _ h => h) (Or.inl ⟨by rfl, ?y32⟩) ?r32
  case y32 => (intro W hW; (go_simp; try with_reducible rfl))
  simp only [Act.put, List.setIfInBounds_toArray, List.set_cons_zero, List.set_cons_succ]
  refine wpG_take 33 36 (v := ?v33) rfl rfl (by kernel_rfl) (by kernel_rfl) (by kernel_rfl) (fun _ _ _ h => h) (Or.inl ⟨by rfl, ?y33⟩) ?r33
  case y33 => (intro W hW; (go_simp; try with_reducible rfl))
  simp only [Act.put, List.setIfInBounds_toArray, List.set_cons_zero, List.set_cons_succ]
  refine wpG_take 34 37 (v := ?v34) rfl rfl (by kernel_rfl) (by kernel_rfl) (by kernel_rfl) (fun _ _ _ h => h) (Or.inl ⟨by rfl, ?y34⟩) ?r34
  case y34 => (intro W hW; (go_simp; try with_reducible rfl))
  simp only [Act.put, List.setIfInBounds_toArray, List.set_cons_zero, List.set_cons_succ]
  refine wpG_take 35 38 (v := ?v35) rfl rfl (by kernel_rfl) (by kernel_rfl) (by kernel_rfl) (fun _ _ _ h => h) (Or.inl ⟨by rfl, ?y35⟩) ?r35
  case y35 => (intro W hW; (go_simp; try with_reducible rfl))
  simp only [Act.put, List.setIfInBounds_toArray, List.set_cons_zero, List.set_cons_succ]
  refine wpG_take 36 39 (v := ?v36) rfl rfl (by kernel_rfl) (by kernel_rfl) (by kernel_rfl) (fun _ _ _ h => h) (Or.inl ⟨by rfl, ?y36⟩) ?r36
  case y36 => (intro W hW; have f0 := (hW.below.cell (p := ⟨gb, 1, none⟩) hgb2.out).trans c1.out; (go_simp; try with_reducible rfl))
  simp only [Act.put, List.setIfInBounds_toArray, List.set_cons_zero, List.set_cons_succ]
  refine wpG_take 37 40 (v := ?v37) rfl rfl (by kernel_rfl) (by kernel_rfl) (by kernel_rfl) (fun _ _ _ h => h) (Or.inl ⟨by rfl, ?y37⟩) ?r37
  case y37 => (intro W hW; (go_simp; try with_reducible rfl))
  simp only [Act.put, List.setIfInBounds_toArray, List.set_cons_zero, List.set_cons_succ]
  refine wpG_take 38 41 (v := ?v38) rfl rfl (by kernel_rfl) (by kernel_rfl) (by kernel_rfl) (fun _ _ _ h => h) (Or.inl ⟨by rfl, ?y38⟩) ?r38
  case y38 => (intro W hW; (go_simp; try with_reducible rfl))
  simp only [Act.put, List.setIfInBounds_toArray, List.set_cons_zero, List.set_cons_succ]
  refine wpG_take 39 42 (v := ?v39) rfl rfl (by kernel_rfl) (by kernel_rfl) (by kernel_rfl) (fun _ _ _ h => h) (Or.inl ⟨by rfl, ?y39⟩) ?r39
  case y39 => (intro W hW; (go_simp; try with_reducible rfl))
  simp only [Act.put, List.setIfInBounds_toArray, List.set_cons_zero, List.set_cons_succ]
  refine wpG_take 40 43 (v := ?v40) rfl rfl (by kernel_rfl) (by kernel_rfl) (by kernel_rfl) (fun _ _ _ h => h) (Or.inl ⟨by rfl, ?y40⟩) ?r40
  case y40 => (intro W hW; (go_simp; try with_reducible rfl))
  simp only [Act.put, List.setIfInBounds_toArray, List.set_cons_zero, List.set_cons_succ]
  refine wpG_take 41 44 (v := ?v41) rfl rfl (by kernel_rfl) (by kernel_rfl) (by kernel_rfl) (fun _ _ _ h => h) (Or.inl ⟨by rfl, ?y41⟩) ?r41
  case y41 => (intro W hW; have f0 := (hW.below.cell (p := ⟨gb, 2, none⟩) hgb2.out).trans c2.out; (go_simp; try with_reducible rfl))
  simp only [Act.put, List.setIfInBounds_toArray, List.set_cons_zero, List.set_cons_succ]
  refine wpG_take 42 45 (v := ?v42) rfl rfl (by kernel_rfl) (by kernel_rfl) (by kernel_rfl) (fun _ _ _ h => h) (Or.inl ⟨by rfl, ?y42⟩) ?r42
  case y42 => (intro W hW; (go_simp; try with_reducible rfl))
  simp only [Act.put, List.setIfInBounds_toArray, List.set_cons_zero, List.set_cons_succ]
  refine wpG_take 43 46 (v := ?v43) rfl rfl (by kernel_rfl) (by kernel_rfl) (by kernel_rfl) (fun _ _ _ h => h) (Or.inl ⟨by rfl, ?y43⟩) ?r43
  case y43 => (intro W hW; (go_simp; try with_reducible rfl))
  simp only [Act.put, List.setIfInBounds_toArray, List.set_cons_zero, List.set_cons_succ]
  refine wpG_take 44 47 (v := ?v44) rfl rfl (by kernel_rfl) (by kernel_rfl) (by kernel_rfl) (fun _ _ _ h => h) (Or.inl ⟨by rfl, ?y44⟩) ?r44
  case y44 => (intro W hW; (go_simp; try with_reducible rfl))
  simp only [Act.put, List.setIfInBounds_toArray, List.set_cons_zero, List.set_cons_succ]
  refine wpG_take 45 48 (v := ?v45) rfl rfl (by kernel_rfl) (by kernel_rfl) (by kernel_rfl) (fun _ _ _ h => h) (Or.inl ⟨by rfl, ?y45⟩) ?r45
  case y45 => (intro W hW; (go_simp; try with_reducible rfl))
  simp only [Act.put, List.setIfInBounds_toArray, List.set_cons_zero, List.set_cons_succ]
  refine wpG_take 46 49 (v := ?v46) rfl rfl (by kernel_rfl) (by kernel_rfl) (by kernel_rfl) (fun _ _ _ h => h) (Or.inl ⟨by rfl, ?y46⟩) ?r46
  case y46 => (intro W hW; have f0 := (hW.below.cell (p := ⟨gb, 6, none⟩) hgb2.out).trans c6.out; (go_simp; try with_reducible rfl))
  simp only [Act.put, List.setIfInBounds_toArray, List.set_cons_zero, List.set_cons_succ]
  refine wpG_take 47 50 (v := ?v47) rfl rfl (by kernel_rfl) (by kernel_rfl) (by kernel_rfl) (fun _ _ _ h => h) (Or.inl ⟨by rfl, ?y47⟩) ?r47
  case y47 => (intro W hW; (go_simp; try with_reducible rfl))
  simp only [Act.put, List.setIfInBounds_toArray, List.set_cons_zero, List.set_cons_succ]
  refine wpG_call 4 (by kernel_rfl) rfl (fun K hK => ?_)
  go_simp
  refine (build_any w2 A0 N0 cap0 (castE C) HL0.out (by omega) HE00.out HFit0.out).mono ?_
  rintro e wa ⟨g0, U0, rfl, hd0, ht0, hb0⟩
  refine hK.out _ _ ?_ ?_
  · exact hb0
  clear hK K
  have HB0 := Lib.hid hb0
  have HT00 := Lib.hid ht0
  have HE11 := Lib.hid ((HE10.out.below hb0 (Nat.le_refl _)).more hb0.size)
  clear HE10
  have HE21 := Lib.hid ((HE20.out.below hb0 (Nat.le_refl _)).more hb0.size)
  clear HE20
  have HE31 := Lib.hid ((HE30.out.below hb0 (Nat.le_refl _)).more hb0.size)
  clear HE30
  clear hd0 ht0 hb0
  refine wpG_call 9 (by kernel_rfl) rfl (fun K hK => ?_)
  go_simp
  refine (build_any wa A1 N1 cap1 (castE (prI 0 P)) HL1.out (by omega) HE11.out HFit1.out).mono ?_
  rintro e wb ⟨g1, U1, rfl, hd1, ht1, hb1⟩
  refine hK.out _ _ ?_ ?_
  · exact hb1
  clear hK K
  have HB1 := Lib.hid hb1
  have HT01 := Lib.hid ((HT00.out.below hb1 (Nat.le_refl _)).more hb1.size)
  clear HT00
  have HT11 := Lib.hid ht1
  have HE22 := Lib.hid ((HE21.out.below hb1 (Nat.le_refl _)).more hb1.size)
  clear HE21
  have HE32 := Lib.hid ((HE31.out.below hb1 (Nat.le_refl _)).more hb1.size)
  clear HE31
  clear hd1 ht1 hb1
  refine wpG_call 14 (by kernel_rfl) rfl (fun K hK => ?_)
  go_simp
  refine (build_any wb A2 N2 cap2 (castE S) HL2.out (by omega) HE22.out HFit2.out).mono ?_
  rintro e wc ⟨g2, U2, rfl, hd2, ht2, hb2⟩
  refine hK.out _ _ ?_ ?_
  · exact hb2
  clear hK K
  have HB2 := Lib.hid hb2
  have HT02 := Lib.hid ((HT01.out.below hb2 (Nat.le_refl _)).more hb2.size)
  clear HT01
  have HT12 := Lib.hid ((HT11.out.below hb2 (Nat.le_refl _)).more hb2.size)
  clear HT11
  have HT22 := Lib.hid ht2
  have HE33 := Lib.hid ((HE32.out.below hb2 (Nat.le_refl _)).more hb2.size)
  clear HE32
  clear hd2 ht2 hb2
  refine wpG_call 19 (by kernel_rfl) rfl (fun K hK => ?_)
  go_simp
  refine (build_any wc A3 N3 cap3 (castE (scL P)) HL3.out (by omega) HE33.out HFit3.out).mono ?_
  rintro e wd ⟨g3, U3, rfl, hd3, ht3, hb3⟩
  refine hK.out _ _ ?_ ?_
  · exact hb3
  clear hK K
  have HB3 := Lib.hid hb3
  have HT03 := Lib.hid ((HT02.out.below hb3 (Nat.le_refl _)).more hb3.size)
  clear HT02
  have HT13 := Lib.hid ((HT12.out.below hb3 (Nat.le_refl _)).more hb3.size)
  clear HT12
  have HT23 := Lib.hid ((HT22.out.below hb3 (Nat.le_refl _)).more hb3.size)
  clear HT22
  have HT33 := Lib.hid ht3
  clear hd3 ht3 hb3
  refine wpG_take 48 51 (v := ?v48) rfl rfl (by kernel_rfl) (by kernel_rfl) (by kernel_rfl) (fun _ _ _ h => h) (Or.inl ⟨by rfl, ?y48⟩) ?r48
  case y48 => (intro W hW; (go_simp; try with_reducible rfl))
  simp only [Act.put, List.setIfInBounds_toArray, List.set_cons_zero, List.set_cons_succ]
  refine wpG_call 49 (by kernel_rfl) rfl (fun K hK => ?_)
  go_simp
  refine hK.out _ _ ?_ ?_
  · exact (Below.refl _ _).alloc (Nat.le_refl _) _
  clear hK K
  refine wpG_take 50 2 (v := ?v50) rfl rfl (by kernel_rfl) (by kernel_rfl) (by kernel_rfl) (fun _ _ _ h => h) (Or.inl ⟨by rfl, ?y50⟩) ?r50
  case y50 => (intro W hW; (go_simp; try with_reducible rfl))
  simp only [Act.put, List.setIfInBounds_toArray, List.set_cons_zero, List.set_cons_succ]
  refine wpG_done (by kernel_rfl) ?_ _

  go_wp2
  go_ret
  have hb01 := Grow.trans HB0.out HB1.out
  have hb02 := hb01.trans HB2.out
  have hb03 := hb02.trans HB3.out
  have hb04 : Below wd.heap.size wd (wd.alloc (.cells #[.pointer (some ⟨g0, 0, none⟩), .pointer (some ⟨g1, 0, none⟩), .pointer (some ⟨g2, 0, none⟩), .pointer (some ⟨g3, 0, none⟩), .slice A4 N1 cap4, .map (some mb), .int .i64 N0, .int .i64 N1, .int .i64 N2, .int .i64 (outs P)] 95)) := (Below.refl _ _).alloc (Nat.le_refl _) _
  have hb05 := hb03.trans hb04
  have hml := HMAP.out.lt
  have hms := hb05.below.size
  refine ⟨wd.heap.size, rfl, ⟨g0, g1, g2, g3, mb, A4, cap4, _, _, _, _, by simp, by omega, ?_, by rw [HN1.out]; exact x9, (HT03.out.below hb04 (Nat.le_refl _)).more hb04.size, (HT13.out.below hb04 (Nat.le_refl _)).more hb04.size, (HT23.out.below hb04 (Nat.le_refl _)).more hb04.size, (HT33.out.below hb04 (Nat.le_refl _)).more hb04.size, (HTW.out.below hb05 (Nat.le_refl _)).more hms, HMAP.out.below hb05 hml⟩, HLOW.out.trans (by rw [HSZ.out]; exact hb05)⟩
  rw [HN0.out, HN1.out, HN2.out]
  exact Blk.new _ _ _
end Go.Proofs.YtdmcidljjfogjaaDoor
