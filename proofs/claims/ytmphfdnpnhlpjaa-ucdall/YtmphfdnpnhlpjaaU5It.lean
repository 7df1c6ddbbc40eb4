/- ucd's iterator over the entries of a text: entries$1 and entries by contracts. -/
import Derived.RangeFuncNested
import Derived.RangeFuncBound
import Derived.RangeFuncCalls
import Derived.RangeFuncLeaves
import Derived.RangeFuncBox
import Derived.Shelf.Abstract
import Derived.WalkKit
import Derived.OwnWalkIn
import Derived.TacticsInMore
import Derived.LoopNIn
import Derived.LoopIn
import Derived.StillTailTactics
import Derived.Laws.BitsLemmas
import Derived.Test.YtmphfdnpnhlpjaaU5Dig
import Derived.Test.YtmphfdnpnhlpjaaTexts
import Derived.Test.YtmphfdnpnhlpjaaRfE
namespace Go.Proofs.Ytmphfdnpnhlpjaa
open Go.RowKit Go.Shelf
set_option linter.unusedVariables false
set_option linter.unusedSimpArgs false
attribute [local go_sem] Oper.semAt_some

/-- a fence that lets everything by -/
structure Wide (F : Fence) : Prop where
  fn : ∀ k, F.fn k
  depth : F.depth = none
  round : F.round = none
  calls : ∀ {n : Nat} {f : FuncId} {args : Array Value} {w : World} {R : Ending → World → Prop}, Calls Try.prog f args w R → CallsIn F n Try.prog f args w R
  wp : ∀ {n : Nat} {c : Code} {Q : Exit → Act → World → Prop} {a : Act} {w : World}, c.wp Try.prog Q a w → c.wpIn F n Try.prog Q a w
  out : ∀ {n : Nat} {c : Code} {Q : Exit → Act → World → Prop} {a : Act} {w : World}, c.wpIn F n Try.prog Q a w → c.wp Try.prog Q a w
theorem wide_is : Wide Fence.wide := ⟨fun _ => trivial, rfl, rfl, fun h => callsIn_wide.2 h, fun h => wpIn_wide.2 h, fun h => wpIn_wide.1 h⟩

/-- cells of an entry -/
def isEnt (o : Obj) : Prop := ∃ cs, o = .cells cs 60 (0, 0)
def entC (e : Ent) : Array Value := #[.int .i32 e.n0, .int .i32 e.n1, .int .i32 e.n2, .int .i64 e.l, .bool e.o]
def entV (e : Ent) : Value := .agg (entC e)

theorem i32_or4 {x y : Int} (hx₀ : 0 ≤ x) (hx : x % 16 = 0) (hx₁ : x < 2147483648) (h₀ : 0 ≤ y) (h₁ : y < 16) : bits .or .i32 x y = x + y :=
  bits_join .i32 31 (by decide) wraps_i32 4 x y hx₀ hx hx₁ h₀ h₁ (by omega)
theorem still_but (g : Nat) (w : World) : But g w { w with drawn := w.drawn + 1 } := ⟨rfl, rfl, rfl, Nat.le_refl _, fun _ _ _ => rfl⟩
/-- a struct of five cells written whole -/
abbrev five (w : World) (g : Nat) (a b c d e : Value) : World := ((((w.setCell ⟨g, 0, none⟩ a).setCell ⟨g, 1, none⟩ b).setCell ⟨g, 2, none⟩ c).setCell ⟨g, 3, none⟩ d).setCell ⟨g, 4, none⟩ e
theorem five_but (w : World) (g : Nat) (a b c d e : Value) : But g w (five w g a b c d e) := (((((But.refl g w).set 0 a).set 1 b).set 2 c).set 3 d).set 4 e
theorem five_blk {w : World} {g : Nat} {t : TypeId} {u0 u1 u2 u3 u4 : Value} (h : Blk w g t #[u0, u1, u2, u3, u4]) (a b c d e : Value) : Blk (five w g a b c d e) g t #[a, b, c, d, e] := by
  have := ((((h.set 0 a).set 1 b).set 2 c).set 3 d).set 4 e
  simpa using this
/-- where the iterator stands behind k bytes -/
def ItRel (s : ByteArray) (Bs E : Nat) (J : List Ent → World → Prop) (k : Nat) (w : World) : Prop :=
  J (ems ((bytesOf s).take k) zeroE) w ∧ Blk w E 60 (entC (cur ((bytesOf s).take k) zeroE)) ∧ Blk w Bs 9 #[.string s]

set_option maxRecDepth 100000 in
set_option maxHeartbeats 2000000 in
theorem entries1_in (F : Fence) (hF : Wide F) (n l B Bs : Nat) (s : ByteArray) (hs : s.size ≤ 65536) (hok : okAll (bytesOf s) zeroE = true) (J Jx : List Ent → World → Prop)
    (hJ : ∀ p W W', J p W → But (B + 2) W W' → J p W') (hJx : ∀ p W W', Jx p W → But (B + 2) W W' → Jx p W')
    (hY : ∀ pre x W, J pre W → pre ++ [x] <+: ents (bytesOf s) → (∃ o, W.heap[B + 2]? = some o ∧ isEnt o) → YieldAt F (n - 1) Try.prog l #[entV x] W fun e W' =>
      (e = .returned (.bool true) ∧ J (pre ++ [x]) W' ∧ Kept [B + 2, Bs] W W') ∨ (e = .returned (.bool false) ∧ Jx (pre ++ [x]) W'))
    (W : World) (hsz : W.heap.size = B + 2) (hBs : Blk W Bs 9 #[.string s]) (hBl : Bs < B) (h0 : J [] W) :
    CallsIn F n Try.prog 27 #[.func (.yield l) #[] #[], .pointer (some ⟨Bs, 0, none⟩)] W fun e W' => (∃ v, e = .returned v) ∧
      ((∃ ys, ys = ents (bytesOf s) ∧ J ys W') ∨ (∃ pre, pre <+: ents (bytesOf s) ∧ Jx pre W')) := by
  have hd := hF.depth
  have hro := hF.round
  have hdd : ∀ k : Nat, (F.depth.isSome = true → 1 ≤ k) := fun k h => by rw [hd] at h; cases h
  have h35 := hF.fn 27
  have h36 := hF.fn 28
  have hc0 : W.cell? ⟨Bs, 0, none⟩ = some (.string s) := hBs.cell 0
  have hlt0 : Bs < W.heap.size := hBs.lt
  have HY := Lib.hid hY
  have HJ := Lib.hid hJ
  have HOK := Lib.hid hok
  have HSZ := Lib.hid hsz
  clear hY hJ hok hsz
  refine callsIn_of_wp Try.func27 rfl h35 ?_ hro
  simp only [Try.ntmps27, List.size_toArray, List.length_cons, List.length_nil, Nat.reduceAdd, Nat.reduceSub, Array.replicate_succ, Array.replicate_zero, List.push_toArray, List.append_toArray, List.nil_append, List.cons_append]
  gi_wp2
  gi_loopw [8] (fun i wr => ∃ k : Nat, k ≤ s.size ∧ i = .int .i64 k ∧ ItRel s Bs W.heap.size J k wr) (fun i _ => s.size - (intOf i).toNat)
  case atStart => exact ⟨0, Nat.zero_le _, rfl, HJ.out _ _ _ h0 (but_alloc _ _ _), Blk.new W 60 _, hBs.alloc _⟩
  case round =>
    obtain ⟨k, hk, rfl, hJs, hE, hBk⟩ := hrel
    have cs : wr.cell? ⟨Bs, 0, none⟩ = some (.string s) := hBk.cell 0
    by_cases hlt : k < s.size
    · have hlt' : (k : Int) < s.size := by omega
      have HX := Lib.hid (bytesOf_at s k hlt)
      have HT : Hid ((bytesOf s).take (k + 1) = (bytesOf s).take k ++ [s[k].toNat]) := Lib.hid (by
        rw [List.take_succ_eq_append_getElem (by rw [bytesOf_len]; exact hlt), ← bytesOf_at s k hlt, List.getD_eq_getElem?_getD, List.getElem?_eq_getElem (by rw [bytesOf_len]; exact hlt)]; rfl)
      have HO := Lib.hid (okAll_at _ _ HOK.out k (by rw [bytesOf_len]; exact hlt))
      have HJs := Lib.hid hJs
      have hsn := ems_snoc s[k].toNat ((bytesOf s).take k) zeroE
      have hcn := cur_snoc s[k].toNat ((bytesOf s).take k) zeroE
      have hpre := ems_pre (bytesOf s) (k + 1)
      rw [HT.out, hsn] at hpre
      rw [HX.out] at HO
      have HE := Lib.hid hE
      have HB := Lib.hid hBk
      have HSN := Lib.hid hsn
      have HCN := Lib.hid hcn
      have HP := Lib.hid hpre
      clear hJs hE hBk hc0 hsn hcn hpre
      have hli := cur_l ((bytesOf s).take k) zeroE
      have hli2 : ((bytesOf s).take k).length ≤ k := List.length_take_le _ _
      have hli : (cur ((bytesOf s).take k) zeroE).l ≤ 65536 := by simp only [zeroE] at hli ⊢; omega
      clear hli2
      generalize cur ((bytesOf s).take k) zeroE = e at *
      obtain ⟨n0, n1, n2, li, o⟩ := e
      dsimp only at hli
      have c0 : wr.cell? ⟨W.heap.size, 0, none⟩ = some (.int .i32 n0) := HE.out.cell 0
      have c1 : wr.cell? ⟨W.heap.size, 1, none⟩ = some (.int .i32 n1) := HE.out.cell 1
      have c2 : wr.cell? ⟨W.heap.size, 2, none⟩ = some (.int .i32 n2) := HE.out.cell 2
      have c3 : wr.cell? ⟨W.heap.size, 3, none⟩ = some (.int .i64 li) := HE.out.cell 3
      have c4 : wr.cell? ⟨W.heap.size, 4, none⟩ = some (.bool o) := HE.out.cell 4
      by_cases hsep : isSep s[k].toNat = true
      · have HPX : Hid (ems ((bytesOf s).take k) zeroE ++ [⟨n0, n1, n2, li, o⟩] <+: ents (bytesOf s)) := Lib.hid (by
          have := HP.out; rwa [hsep] at this)
        have b44 : ((s[k].toNat : Int) == 44) = true ∨ (((s[k].toNat : Int) == 44) = false ∧ ((s[k].toNat : Int) == 10) = true) := by
          simp only [isSep, Bool.or_eq_true, Nat.beq_eq] at hsep
          by_cases h : s[k].toNat = 44
          · exact .inl (by simp [h])
          · exact .inr ⟨by simp; omega, by simp; omega⟩
        rcases b44 with b44 | ⟨b44, b10⟩
        all_goals
          have hy' := HY.out (ems ((bytesOf s).take k) zeroE) ⟨n0, n1, n2, li, o⟩ wr HJs.out HPX.out (by rw [← HSZ.out]; exact ⟨_, HE.out, _, rfl⟩)
          obtain ⟨fn, tmps, assign, body, hy, hR⟩ := hy'
          dsimp only [entV, entC] at hy
          gi_wp2_with fail
          refine hR.mono ?_
          clear hR
          rintro e W3 (⟨rfl, hJ3, hk3⟩ | ⟨rfl, hx3⟩)
          · have E3 : Blk W3 W.heap.size 60 (entC ⟨n0, n1, n2, li, o⟩) := (hk3 _ (by rw [HSZ.out]; simp)).trans HE.out
            have B3 : Blk W3 Bs 9 #[.string s] := (hk3 _ (by simp)).trans HB.out
            have d0 : W3.cell? ⟨W.heap.size, 0, none⟩ = some (.int .i32 n0) := E3.cell 0
            have d1 : W3.cell? ⟨W.heap.size, 1, none⟩ = some (.int .i32 n1) := E3.cell 1
            have d2 : W3.cell? ⟨W.heap.size, 2, none⟩ = some (.int .i32 n2) := E3.cell 2
            have d3 : W3.cell? ⟨W.heap.size, 3, none⟩ = some (.int .i64 li) := E3.cell 3
            have d4 : W3.cell? ⟨W.heap.size, 4, none⟩ = some (.bool o) := E3.cell 4
            have g0 := E3.frozen 0
            have g1 := E3.frozen 1
            have g2 := E3.frozen 2
            have g3 := E3.frozen 3
            have g4 := E3.frozen 4
            have HE3 := Lib.hid E3
            have HB3 := Lib.hid B3
            have HJ3 := Lib.hid hJ3
            clear hy hk3 E3 B3 hJ3
            gi_wp2
            go_roundw
            case rel =>
              refine ⟨k + 1, by omega, by go_num, ?_, ?_, ?_⟩
              · rw [HT.out, HSN.out, hsep]
                exact HJ.out _ _ _ HJ3.out (by rw [← HSZ.out]; exact five_but _ _ _ _ _ _ _)
              · rw [HT.out, HCN.out, show estep ⟨n0, n1, n2, li, o⟩ s[k].toNat = zeroE by unfold estep; rw [hsep]; rfl]
                exact five_blk HE3.out _ _ _ _ _
              · exact (five_but _ _ _ _ _ _ _).blk HB3.out (by omega)
            case measure => simp [intOf]; omega
          · clear hy
            gi_wp2
            refine bodyPost_ret (results_none rfl _ _ _) rfl ?_
            exact ⟨⟨_, rfl⟩, .inr ⟨_, HPX.out, hx3⟩⟩
      · have hs0 : isSep s[k].toNat = false := by simpa using hsep
        have hns : s[k].toNat ≠ 44 ∧ s[k].toNat ≠ 10 := by
          constructor <;> (intro h; rw [h] at hs0; exact absurd hs0 (by decide))
        have b44 : ((s[k].toNat : Int) == 44) = false := by simp; omega
        have b10 : ((s[k].toNat : Int) == 10) = false := by simp; omega
        have HS0 := Lib.hid hs0
        clear hsep hs0
        have g0 := HE.out.frozen 0
        have g1 := HE.out.frozen 1
        have g2 := HE.out.frozen 2
        have g3 := HE.out.frozen 3
        have g4 := HE.out.frozen 4
        by_cases h32 : s[k].toNat = 32
        · have b32 : ((s[k].toNat : Int) == 32) = true := by simp [h32]
          have H32 := Lib.hid h32
          have hl0 : (0 : Int) ≤ li := by omega
          have hl1 : (li : Int) ≤ 65536 := by omega
          clear h32
          gi_wp2
          go_roundw
          case rel =>
            refine ⟨k + 1, by omega, by go_num, ?_, ?_, ?_⟩
            · rw [HT.out, HSN.out, HS0.out]
              simp only [cond_false, List.append_nil]
              exact HJ.out _ _ _ HJs.out (by rw [← HSZ.out]; exact (But.refl _ _).set _ _)
            · rw [HT.out, HCN.out, show estep ⟨n0, n1, n2, li, o⟩ s[k].toNat = ⟨n0, n1, n2, li + 1, o⟩ by unfold estep; rw [HS0.out, H32.out]; rfl]
              have := HE.out.set 3 (.int .i64 (li + 1))
              simpa [entC] using this
            · exact ((But.refl _ _).set _ _).blk HB.out (by omega)
          case measure => simp [intOf]; omega
        · have b32 : ((s[k].toNat : Int) == 32) = false := by simp; omega
          have n32 : Nat.beq s[k].toNat 32 = false := by rw [Bool.eq_false_iff]; simpa [Nat.beq_eq] using h32
          have N32 := Lib.hid n32
          clear n32 h32
          by_cases h33 : s[k].toNat = 33
          · have b33 : ((s[k].toNat : Int) == 33) = true := by simp [h33]
            have H33 := Lib.hid h33
            clear h33
            gi_wp2
            go_roundw
            case rel =>
              refine ⟨k + 1, by omega, by go_num, ?_, ?_, ?_⟩
              · rw [HT.out, HSN.out, HS0.out]
                simp only [cond_false, List.append_nil]
                exact HJ.out _ _ _ HJs.out (by rw [← HSZ.out]; exact (But.refl _ _).set _ _)
              · rw [HT.out, HCN.out, show estep ⟨n0, n1, n2, li, o⟩ s[k].toNat = ⟨n0, n1, n2, li, true⟩ by unfold estep; rw [HS0.out, N32.out, H33.out]; rfl]
                have := HE.out.set 4 (.bool true)
                simpa [entC] using this
              · exact ((But.refl _ _).set _ _).blk HB.out (by omega)
            case measure => simp [intOf]; omega
          · have b33 : ((s[k].toNat : Int) == 33) = false := by simp; omega
            have n33 : Nat.beq s[k].toNat 33 = false := by rw [Bool.eq_false_iff]; simpa [Nat.beq_eq] using h33
            have hoo := HO.out
            simp only [okE, HS0.out, N32.out, n33, Bool.false_or, Bool.and_eq_true, Nat.ble_eq] at hoo
            obtain ⟨hl2, hdig, hnth⟩ := hoo
            have N33 := Lib.hid n33
            have hd16 := dgt_lt hdig
            have HD := Lib.hid (fun w => (udigit_any s[k].toNat w hdig).mono (R' := fun e w' => e = .returned (.int .i32 (dgt s[k].toNat)) ∧ w' = w) fun _ _ h => ⟨h.1, h.2.symm⟩)
            clear n33 h33 hdig
            have hst : Hid (∀ v, estep ⟨n0, n1, n2, li, o⟩ s[k].toNat = v → True) := Lib.hid (fun _ _ => trivial)
            generalize hdd2 : dgt s[k].toNat = dg at *
            have HDG := Lib.hid hdd2
            clear hdd2
            obtain rfl | rfl | rfl : li = 0 ∨ li = 1 ∨ li = 2 := by omega
            · have hn0 : (0 : Int) ≤ n0 := by omega
              have hn1 : (n0 : Int) ≤ 100000000 := by simp only [Ent.nth] at hnth; omega
              have hd0 : (0 : Int) ≤ dg := by omega
              have hd1 : (dg : Int) < 16 := by omega
              have hbit : bits .or .i32 ((n0 : Int) * 16) dg = (n0 : Int) * 16 + dg := i32_or4 (by omega) (by omega) (by omega) hd0 hd1
              clear hnth hd16 hl2 hst
              gi_wp2
              refine hF.wp ?_
              refine wp_region_still_tail 13 (by kernel_rfl) (by kernel_rfl) ?_
              simp only [List.take_succ_cons, List.take_zero, List.drop_succ_cons, List.drop_zero]
              generalize hW1 : ({ wr with drawn := wr.drawn + 1 } : World) = W1
              have e0 : W1.cell? ⟨W.heap.size, 0, none⟩ = some (.int .i32 n0) := by rw [← hW1]; exact c0
              have e1 : W1.cell? ⟨W.heap.size, 1, none⟩ = some (.int .i32 n1) := by rw [← hW1]; exact c1
              have e2 : W1.cell? ⟨W.heap.size, 2, none⟩ = some (.int .i32 n2) := by rw [← hW1]; exact c2
              have e3 : W1.cell? ⟨W.heap.size, 3, none⟩ = some (.int .i64 0) := by rw [← hW1]; exact c3
              have f0 : W1.frozen? ⟨W.heap.size, 0, none⟩ = false := by rw [← hW1]; exact g0
              have f1 : W1.frozen? ⟨W.heap.size, 1, none⟩ = false := by rw [← hW1]; exact g1
              have f2 : W1.frozen? ⟨W.heap.size, 2, none⟩ = false := by rw [← hW1]; exact g2
              have HW1 := Lib.hid hW1
              clear hW1 c0 c1 c2 c3 c4 g0 g1 g2 g3 g4 cs
              repeat still_step
              still_call (HD.out _)
              repeat still_step
              refine wpStill_nil ?_
              go_wp2
              gi_wp2
              go_roundw
              case rel =>
                refine ⟨k + 1, by omega, by go_num, ?_, ?_, ?_⟩
                · rw [HT.out, HSN.out, HS0.out]
                  simp only [cond_false, List.append_nil]
                  exact HJ.out _ _ _ HJs.out (by rw [← HSZ.out, ← HW1.out]; exact (still_but _ _).set _ _)
                · rw [HT.out, HCN.out, show estep ⟨n0, n1, n2, 0, o⟩ s[k].toNat = ⟨16 * n0 + dg, n1, n2, 0, o⟩ by unfold estep; rw [HS0.out, N32.out, N33.out, HDG.out]; rfl]
                  rw [← HW1.out]
                  have := (HE.out.drew).set 0 (.int .i32 ((16 * n0 + dg : Nat) : Int))
                  simpa [entC, Int.mul_comm] using this
                · rw [← HW1.out]; exact ((still_but _ _).set _ _).blk HB.out (by omega)
              case measure => simp [intOf]; omega
            · have hn0 : (0 : Int) ≤ n1 := by omega
              have hn1 : (n1 : Int) ≤ 100000000 := by simp only [Ent.nth] at hnth; omega
              have hd0 : (0 : Int) ≤ dg := by omega
              have hd1 : (dg : Int) < 16 := by omega
              have hbit : bits .or .i32 ((n1 : Int) * 16) dg = (n1 : Int) * 16 + dg := i32_or4 (by omega) (by omega) (by omega) hd0 hd1
              clear hnth hd16 hl2 hst
              gi_wp2
              refine hF.wp ?_
              refine wp_region_still_tail 13 (by kernel_rfl) (by kernel_rfl) ?_
              simp only [List.take_succ_cons, List.take_zero, List.drop_succ_cons, List.drop_zero]
              generalize hW1 : ({ wr with drawn := wr.drawn + 1 } : World) = W1
              have e0 : W1.cell? ⟨W.heap.size, 0, none⟩ = some (.int .i32 n0) := by rw [← hW1]; exact c0
              have e1 : W1.cell? ⟨W.heap.size, 1, none⟩ = some (.int .i32 n1) := by rw [← hW1]; exact c1
              have e2 : W1.cell? ⟨W.heap.size, 2, none⟩ = some (.int .i32 n2) := by rw [← hW1]; exact c2
              have e3 : W1.cell? ⟨W.heap.size, 3, none⟩ = some (.int .i64 1) := by rw [← hW1]; exact c3
              have f0 : W1.frozen? ⟨W.heap.size, 0, none⟩ = false := by rw [← hW1]; exact g0
              have f1 : W1.frozen? ⟨W.heap.size, 1, none⟩ = false := by rw [← hW1]; exact g1
              have f2 : W1.frozen? ⟨W.heap.size, 2, none⟩ = false := by rw [← hW1]; exact g2
              have HW1 := Lib.hid hW1
              clear hW1 c0 c1 c2 c3 c4 g0 g1 g2 g3 g4 cs
              repeat still_step
              still_call (HD.out _)
              repeat still_step
              refine wpStill_nil ?_
              go_wp2
              gi_wp2
              go_roundw
              case rel =>
                refine ⟨k + 1, by omega, by go_num, ?_, ?_, ?_⟩
                · rw [HT.out, HSN.out, HS0.out]
                  simp only [cond_false, List.append_nil]
                  exact HJ.out _ _ _ HJs.out (by rw [← HSZ.out, ← HW1.out]; exact (still_but _ _).set _ _)
                · rw [HT.out, HCN.out, show estep ⟨n0, n1, n2, 1, o⟩ s[k].toNat = ⟨n0, 16 * n1 + dg, n2, 1, o⟩ by unfold estep; rw [HS0.out, N32.out, N33.out, HDG.out]; rfl]
                  rw [← HW1.out]
                  have := (HE.out.drew).set 1 (.int .i32 ((16 * n1 + dg : Nat) : Int))
                  simpa [entC, Int.mul_comm] using this
                · rw [← HW1.out]; exact ((still_but _ _).set _ _).blk HB.out (by omega)
              case measure => simp [intOf]; omega
            · have hn0 : (0 : Int) ≤ n2 := by omega
              have hn1 : (n2 : Int) ≤ 100000000 := by simp only [Ent.nth] at hnth; omega
              have hd0 : (0 : Int) ≤ dg := by omega
              have hd1 : (dg : Int) < 16 := by omega
              have hbit : bits .or .i32 ((n2 : Int) * 16) dg = (n2 : Int) * 16 + dg := i32_or4 (by omega) (by omega) (by omega) hd0 hd1
              clear hnth hd16 hl2 hst
              gi_wp2
              refine hF.wp ?_
              refine wp_region_still_tail 13 (by kernel_rfl) (by kernel_rfl) ?_
              simp only [List.take_succ_cons, List.take_zero, List.drop_succ_cons, List.drop_zero]
              generalize hW1 : ({ wr with drawn := wr.drawn + 1 } : World) = W1
              have e0 : W1.cell? ⟨W.heap.size, 0, none⟩ = some (.int .i32 n0) := by rw [← hW1]; exact c0
              have e1 : W1.cell? ⟨W.heap.size, 1, none⟩ = some (.int .i32 n1) := by rw [← hW1]; exact c1
              have e2 : W1.cell? ⟨W.heap.size, 2, none⟩ = some (.int .i32 n2) := by rw [← hW1]; exact c2
              have e3 : W1.cell? ⟨W.heap.size, 3, none⟩ = some (.int .i64 2) := by rw [← hW1]; exact c3
              have f0 : W1.frozen? ⟨W.heap.size, 0, none⟩ = false := by rw [← hW1]; exact g0
              have f1 : W1.frozen? ⟨W.heap.size, 1, none⟩ = false := by rw [← hW1]; exact g1
              have f2 : W1.frozen? ⟨W.heap.size, 2, none⟩ = false := by rw [← hW1]; exact g2
              have HW1 := Lib.hid hW1
              clear hW1 c0 c1 c2 c3 c4 g0 g1 g2 g3 g4 cs
              repeat still_step
              still_call (HD.out _)
              repeat still_step
              refine wpStill_nil ?_
              go_wp2
              gi_wp2
              go_roundw
              case rel =>
                refine ⟨k + 1, by omega, by go_num, ?_, ?_, ?_⟩
                · rw [HT.out, HSN.out, HS0.out]
                  simp only [cond_false, List.append_nil]
                  exact HJ.out _ _ _ HJs.out (by rw [← HSZ.out, ← HW1.out]; exact (still_but _ _).set _ _)
                · rw [HT.out, HCN.out, show estep ⟨n0, n1, n2, 2, o⟩ s[k].toNat = ⟨n0, n1, 16 * n2 + dg, 2, o⟩ by unfold estep; rw [HS0.out, N32.out, N33.out, HDG.out]; rfl]
                  rw [← HW1.out]
                  have := (HE.out.drew).set 2 (.int .i32 ((16 * n2 + dg : Nat) : Int))
                  simpa [entC, Int.mul_comm] using this
                · rw [← HW1.out]; exact ((still_but _ _).set _ _).blk HB.out (by omega)
              case measure => simp [intOf]; omega
    · obtain rfl : k = s.size := by omega
      have hlt' : ¬ (s.size : Int) < s.size := by omega
      rw [List.take_of_length_le (by rw [bytesOf_len]; exact Nat.le_refl _)] at hJs hE
      have HJs := Lib.hid hJs
      have HE := Lib.hid hE
      have HEN : Hid (ems (bytesOf s) zeroE ++ [cur (bytesOf s) zeroE] = ents (bytesOf s)) := Lib.hid rfl
      have HLN : Hid ((ems (bytesOf s) zeroE).length < (ents (bytesOf s)).length) := Lib.hid (by unfold ents; rw [List.length_append]; simp)
      clear hJs hE hBk hc0
      generalize cur (bytesOf s) zeroE = e at *
      obtain ⟨n0, n1, n2, li, o⟩ := e
      have c0 : wr.cell? ⟨W.heap.size, 0, none⟩ = some (.int .i32 n0) := HE.out.cell 0
      have c1 : wr.cell? ⟨W.heap.size, 1, none⟩ = some (.int .i32 n1) := HE.out.cell 1
      have c2 : wr.cell? ⟨W.heap.size, 2, none⟩ = some (.int .i32 n2) := HE.out.cell 2
      have c3 : wr.cell? ⟨W.heap.size, 3, none⟩ = some (.int .i64 li) := HE.out.cell 3
      have c4 : wr.cell? ⟨W.heap.size, 4, none⟩ = some (.bool o) := HE.out.cell 4
      have hy' := HY.out (ems (bytesOf s) zeroE) ⟨n0, n1, n2, li, o⟩ wr HJs.out (by rw [HEN.out]; exact List.prefix_rfl) (by rw [← HSZ.out]; exact ⟨_, HE.out, _, rfl⟩)
      obtain ⟨fn, tmps, assign, body, hy, hR⟩ := hy'
      dsimp only [entV, entC] at hy
      gi_wp2_with fail
      refine hR.mono ?_
      clear hR
      rintro e W3 (⟨rfl, hJ3, hk3⟩ | ⟨rfl, hx3⟩)
      · clear hy
        gi_wp2
        go_end0
        exact ⟨⟨_, rfl⟩, .inl ⟨_, HEN.out, hJ3⟩⟩
      · clear hy
        gi_wp2
        go_end0
        exact ⟨⟨_, rfl⟩, .inr ⟨_, by rw [HEN.out]; exact List.prefix_rfl, hx3⟩⟩

set_option maxHeartbeats 1000000 in
theorem entries_in (F : Fence) (hF : Wide F) (n : Nat) (s : ByteArray) (w : World) :
    CallsIn F n Try.prog 19 #[.string s] w fun e w' => e = .returned (.func (.func 27) #[] #[.pointer (some ⟨w.heap.size, 0, none⟩)]) ∧ w' = w.alloc (.cells #[.string s] 9) := by
  have hro := hF.round
  refine callsIn_of_wp Try.func19 rfl (hF.fn _) ?_ hro
  simp only [Try.ntmps19, List.size_toArray, List.length_cons, List.length_nil, Nat.reduceAdd, Nat.reduceSub, Array.replicate_succ, Array.replicate_zero, List.push_toArray, List.append_toArray, List.nil_append, List.cons_append]
  gi_wp2
  go_ret
  exact ⟨rfl, rfl⟩

theorem entries_seq (F : Fence) (hF : Wide F) (n : Nat) (Bs B : Nat) (s : ByteArray) (hs : s.size ≤ 65536) (hok : okAll (bytesOf s) zeroE = true) (W1 : World) (hsz : W1.heap.size = B + 2) (hBs : Blk W1 Bs 9 #[.string s]) (hBl : Bs < B) :
    SeqE F n Try.prog 27 #[.pointer (some ⟨Bs, 0, none⟩)] (fun x : Ent => #[entV x]) [Bs] (fun ys => ys = ents (bytesOf s)) (fun pre => pre <+: ents (bytesOf s)) isEnt B W1 := fun l J Jx hJ hJx hY h0 =>
  entries1_in F hF n l B Bs s hs hok J Jx hJ hJx hY W1 hsz hBs hBl h0
end Go.Proofs.Ytmphfdnpnhlpjaa
