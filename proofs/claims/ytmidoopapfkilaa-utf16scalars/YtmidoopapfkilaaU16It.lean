/- utf16's iterator: tell, units$1, units, by their contracts. -/
import Derived.RangeFuncNested
import Derived.RangeFuncBound
import Derived.RangeFuncCalls
import Derived.RangeFuncLeaves
import Derived.RangeFuncBox
import Derived.Shelf.Abstract
import Derived.WalkKit
import Derived.OwnWalkIn
import Derived.TacticsInMore
import Derived.LoopNIn
import Derived.LoopIn
import Derived.Maps.AppendAt
import Derived.Test.YtmidoopapfkilaaScJoin
import Derived.Test.YtmidoopapfkilaaU16Math
import Derived.Test.YtmidoopapfkilaaApp
namespace Go.Proofs.Ytmidoopapfkilaa
open Go.RowKit Go.Shelf
set_option linter.unusedVariables false
attribute [local go_sem] Oper.semAt_some

/-- a fence that lets everything by -/
structure Wide (F : Fence) : Prop where
  fn : ∀ k, F.fn k
  depth : F.depth = none
  round : F.round = none
  calls : ∀ {n : Nat} {f : FuncId} {args : Array Value} {w : World} {R : Ending → World → Prop}, Calls Try.prog f args w R → CallsIn F n Try.prog f args w R
theorem wide_is : Wide Fence.wide := ⟨fun _ => trivial, rfl, rfl, fun h => callsIn_wide.2 h⟩
theorem room_of_none {F : Fence} (hd : F.depth = none) (k : Nat) : F.room k := fun d h => by rw [hd] at h; cases h
theorem roundIn_any {F : Fence} (hd : F.depth = none) {m m' : Nat} {P : Program} {l : Nat} {f : FuncId} {tmps : Array Value} {assign body : Code} {w : World} {R : Ending → World → Prop}
    (h : RoundIn F m P l f tmps assign body w R) : RoundIn F m' P l f tmps assign body w R := ⟨h.1, fun c cs _ => h.2 c cs (room_of_none hd _)⟩
theorem yieldAt_any {F : Fence} (hd : F.depth = none) {m : Nat} (m' : Nat) {P : Program} {l : Nat} {args : Array Value} {W : World} {R : Ending → World → Prop} (h : YieldAt F m P l args W R) : YieldAt F m' P l args W R := by
  obtain ⟨fn, tmps, assign, body, hy, hR⟩ := h
  exact ⟨fn, tmps, assign, body, hy, roundIn_any hd hR⟩

set_option maxRecDepth 100000 in
set_option maxHeartbeats 2000000 in
theorem tell_in (F : Fence) (hF : Wide F) (l n₀ N : Nat) (J Jx : List Int → World → Prop)
    (hY : ∀ m pre x W, J pre W → pre.length < N → YieldAt F m Try.prog l #[.int .u16 x] W fun e W' =>
      (e = .returned (.bool true) ∧ J (pre ++ [x]) W' ∧ Below n₀ W W') ∨ (e = .returned (.bool false) ∧ Jx (pre ++ [x]) W'))
    (c : Int) (n : Nat) (pre : List Int) (W : World) (hJ : J pre W) (hN : pre.length + (un1 c).length ≤ N) :
    CallsIn F n Try.prog 36 #[.int .i32 c, .func (.yield l) #[] #[]] W fun e W' =>
      (e = .returned (.bool true) ∧ J (pre ++ un1 c) W' ∧ Below n₀ W W') ∨ (e = .returned (.bool false) ∧ ∃ q, q <+: un1 c ∧ Jx (pre ++ q) W') := by
  have hd := hF.depth
  have hro := hF.round
  have hdd : ∀ k : Nat, (F.depth.isSome = true → 1 ≤ k) := fun k h => by rw [hd] at h; cases h
  have h36 := hF.fn 36
  have h40 := hF.fn 40
  have h31 := hF.fn 31
  rcases un1_cases c with ⟨hi, e⟩ | ⟨hi, hc, e⟩ | ⟨hc, hg, e⟩
  · -- no scalar
    rw [e]
    have hs := of_decide_eq_false hi
    have hsp := hF.calls (n := n - 1) (split_no c W (by omega))
    have his := hF.calls (n := n - 1) (is_any c W)
    rw [hi] at his
    clear hi hs e
    refine callsIn_of_wp Try.func36 rfl h36 ?_ hro
    simp only [Try.ntmps36, List.size_toArray, List.length_cons, List.length_nil, Nat.reduceAdd, Nat.reduceSub, Array.replicate_succ, Array.replicate_zero, List.push_toArray, List.append_toArray, List.nil_append, List.cons_append]
    gi_wp2_with (first
      | ((try refine ⟨hdd _, ?_⟩); gi_at_call 40; refine hsp.mono ?_; clear hsp; rintro e W1 ⟨rfl, rfl⟩)
      | ((try refine ⟨hdd _, ?_⟩); gi_at_call 31; refine his.mono ?_; clear his; rintro e W1 ⟨rfl, rfl⟩))
    refine ⟨fun _ h => (by cases h), ?_⟩
    gi_wp2
    go_ret
    exact .inl ⟨rfl, by simpa using hJ, Below.refl _ _⟩
  · -- one unit
    rw [e] at hN ⊢
    have hcc := of_decide_eq_true hi
    have hsp := hF.calls (n := n - 1) (split_no c W (by omega))
    have his := hF.calls (n := n - 1) (is_any c W)
    rw [hi] at his
    obtain ⟨fn, tmps, assign, body, hy, hR⟩ := hY (n - 1) pre c W hJ (by simp at hN; omega)
    have hc0 : 0 ≤ c := by omega
    clear hi hcc e hY
    refine callsIn_of_wp Try.func36 rfl h36 ?_ hro
    simp only [Try.ntmps36, List.size_toArray, List.length_cons, List.length_nil, Nat.reduceAdd, Nat.reduceSub, Array.replicate_succ, Array.replicate_zero, List.push_toArray, List.append_toArray, List.nil_append, List.cons_append]
    gi_wp2_with (first
      | ((try refine ⟨hdd _, ?_⟩); gi_at_call 40; refine hsp.mono ?_; clear hsp; rintro e W1 ⟨rfl, rfl⟩)
      | ((try refine ⟨hdd _, ?_⟩); gi_at_call 31; refine his.mono ?_; clear his; rintro e W1 ⟨rfl, rfl⟩)
      | ((try refine ⟨hdd _, ?_⟩); refine hR.mono ?_; clear hR; rintro e W2 (⟨rfl, hJ2, hb2⟩ | ⟨rfl, hx2⟩)))
    · go_ret
      exact .inl ⟨rfl, hJ2, hb2⟩
    · go_ret
      exact .inr ⟨rfl, [c], List.prefix_rfl, hx2⟩
  · -- two units
    rw [e] at hN ⊢
    have hsp := hF.calls (n := n - 1) (split_yes c W hc hg)
    generalize 55296 + (c - 65536) / 1024 = a at *
    generalize 56320 + (c - 65536) % 1024 = b at *
    have hy2 : ∀ W1, J (pre ++ [a]) W1 → Below n₀ W W1 → YieldAt F (n - 1) Try.prog l #[.int .u16 b] W1 fun e W2 =>
        (e = .returned (.bool true) ∧ J (pre ++ [a] ++ [b]) W2 ∧ Below n₀ W W2) ∨ (e = .returned (.bool false) ∧ Jx (pre ++ [a] ++ [b]) W2) := fun W1 hJ1 hb1 =>
      YieldAt.mono (hY (n - 1) _ b W1 hJ1 (by simp at hN ⊢; omega)) fun e W2 h => h.elim (fun ⟨he, hj, hb2⟩ => .inl ⟨he, hj, hb1.trans hb2⟩) .inr
    have hy1 := YieldAt.mono (hY (n - 1) pre a W hJ (by simp at hN; omega)) (R' := fun e W1 =>
        (e = .returned (.bool true) ∧ YieldAt F (n - 1) Try.prog l #[.int .u16 b] W1 fun e W2 =>
          (e = .returned (.bool true) ∧ J (pre ++ [a] ++ [b]) W2 ∧ Below n₀ W W2) ∨ (e = .returned (.bool false) ∧ Jx (pre ++ [a] ++ [b]) W2)) ∨
        (e = .returned (.bool false) ∧ Jx (pre ++ [a]) W1))
      (fun e W1 h => h.elim (fun ⟨he, hj, hb1⟩ => .inl ⟨he, hy2 W1 hj hb1⟩) .inr)
    clear hy2 hY e
    obtain ⟨fn, tmps, assign, body, hy, hR⟩ := hy1
    refine callsIn_of_wp Try.func36 rfl h36 ?_ hro
    simp only [Try.ntmps36, List.size_toArray, List.length_cons, List.length_nil, Nat.reduceAdd, Nat.reduceSub, Array.replicate_succ, Array.replicate_zero, List.push_toArray, List.append_toArray, List.nil_append, List.cons_append]
    gi_wp2_with (first
      | ((try refine ⟨hdd _, ?_⟩); gi_at_call 40; refine hsp.mono ?_; clear hsp; rintro e W1 ⟨rfl, rfl⟩)
      | ((try refine ⟨hdd _, ?_⟩); refine hR.mono ?_; clear hR; rintro e W2 (⟨rfl, fn2, tmps2, assign2, body2, hy2, hR2⟩ | ⟨rfl, hx2⟩))
      | ((try refine ⟨hdd _, ?_⟩); refine hR2.mono ?_; clear hR2; rintro e W3 (⟨rfl, hJ3, hb3⟩ | ⟨rfl, hx3⟩)))
    · go_ret
      exact .inl ⟨rfl, by simpa using hJ3, hb3⟩
    · go_ret
      exact .inr ⟨rfl, [a, b], List.prefix_rfl, by simpa using hx3⟩
    · refine ⟨fun _ h => (by cases h), ?_⟩
      gi_wp2
      go_ret
      exact .inr ⟨rfl, [a], ⟨[b], rfl⟩, hx2⟩

set_option maxRecDepth 100000 in
set_option maxHeartbeats 2000000 in
/-- what units hands back, called with a loop's body -/
theorem units1_in (F : Fence) (hF : Wide F) (n l Bs n₀ : Nat) (a : Option Addr) (cap : Nat) (zs : List Int) (hm : zs.length ≤ 65536) (J Jx : List Int → World → Prop)
    (hY : ∀ pre x W, J pre W → pre.length < (uns zs).length → YieldAt F (n - 1) Try.prog l #[.int .u16 x] W fun e W' =>
      (e = .returned (.bool true) ∧ J (pre ++ [x]) W' ∧ Below n₀ W W') ∨ (e = .returned (.bool false) ∧ Jx (pre ++ [x]) W'))
    (W : World) (hBs : W.cell? ⟨Bs, 0, none⟩ = some (.slice a zs.length cap)) (hI : Ints W n₀ .i32 a zs) (h0 : J [] W) :
    CallsIn F n Try.prog 35 #[.func (.yield l) #[] #[], .pointer (some ⟨Bs, 0, none⟩)] W fun e W' => (∃ v, e = .returned v) ∧
      ((∃ ys, ys = uns zs ∧ J ys W') ∨ (∃ pre, pre <+: uns zs ∧ Jx pre W')) := by
  have hd := hF.depth
  have hro := hF.round
  have hdd : ∀ k : Nat, (F.depth.isSome = true → 1 ≤ k) := fun k h => by rw [hd] at h; cases h
  have h35 := hF.fn 35
  have h36 := hF.fn 36
  have ht := fun c m pre W hJ hN => tell_in F hF l n₀ (uns zs).length J Jx (fun m pre x W hj hl => yieldAt_any hd m (hY pre x W hj hl)) c m pre W hJ hN
  have HT := Lib.hid ht
  have HI := Lib.hid hI
  clear hY ht hI
  refine callsIn_of_wp Try.func35 rfl h35 ?_ hro
  simp only [Try.ntmps35, List.size_toArray, List.length_cons, List.length_nil, Nat.reduceAdd, Nat.reduceSub, Array.replicate_succ, Array.replicate_zero, List.push_toArray, List.append_toArray, List.nil_append, List.cons_append]
  gi_wp2
  gi_loopw [7] (fun i wr => ∃ k : Nat, k ≤ zs.length ∧ i = .int .i64 k ∧ J (uns (zs.take k)) wr ∧ Below n₀ W wr)
    (fun i _ => zs.length - (intOf i).toNat)
  case atStart => exact ⟨0, Nat.zero_le _, rfl, h0, Below.refl _ _⟩
  case round =>
    obtain ⟨k, hk, rfl, hJs, hnx⟩ := hrel
    by_cases hlt : k < zs.length
    · obtain ⟨b, o, rfl, hb, hc⟩ := HI.out.at (by omega)
      have hcell : wr.cell? ⟨b, o + k, none⟩ = some (.int .i32 (zs.getD k 0)) := (hnx.cell (p := ⟨b, o + k, none⟩) hb).trans (hc k hlt)
      have hlt' : (k : Int) < zs.length := by omega
      have htk := HT.out (zs.getD k 0) (n - 1) (uns (zs.take k)) wr hJs (uns_take_len zs k hlt)
      have HX := Lib.hid (uns_snoc zs k hlt)
      have HP := Lib.hid (fun q hq => uns_take_pre zs k hlt (q := q) hq)
      clear hc
      generalize zs.getD k 0 = x at hcell htk HX HP
      gi_wp2_with ((try refine ⟨hdd _, ?_⟩); gi_at_call 36; refine htk.mono ?_; clear htk; rintro e W3 (⟨rfl, hJ3, hb3⟩ | ⟨rfl, q, hq, hx3⟩))
      · go_roundw
        case rel => exact ⟨k + 1, by omega, by go_num, by rw [HX.out]; exact hJ3, hnx.trans hb3⟩
        case measure => simp [intOf]; omega
      · refine bodyPost_ret (results_none rfl _ _ _) rfl ?_
        exact ⟨⟨_, rfl⟩, .inr ⟨_, HP.out q hq, hx3⟩⟩
    · obtain rfl : k = zs.length := by omega
      have hlt' : ¬ (zs.length : Int) < zs.length := by omega
      rw [List.take_length] at hJs
      gi_wp2
      go_end0
      exact ⟨⟨_, rfl⟩, .inl hJs⟩

set_option maxHeartbeats 1000000 in
theorem units_in (F : Fence) (hF : Wide F) (n : Nat) (a : Option Addr) (len cap : Nat) (w : World) :
    CallsIn F n Try.prog 28 #[.slice a len cap] w fun e w' => e = .returned (.func (.func 35) #[] #[.pointer (some ⟨w.heap.size, 0, none⟩)]) ∧ w' = w.alloc (.cells #[.slice a len cap] 22) := by
  have hro := hF.round
  refine callsIn_of_wp Try.func28 rfl (hF.fn _) ?_ hro
  simp only [Try.ntmps28, List.size_toArray, List.length_cons, List.length_nil, Nat.reduceAdd, Nat.reduceSub, Array.replicate_succ, Array.replicate_zero, List.push_toArray, List.append_toArray, List.nil_append, List.cons_append]
  gi_wp2
  go_ret
  exact ⟨rfl, rfl⟩

theorem units_stops (F : Fence) (hF : Wide F) (n : Nat) (Bs n₀ : Nat) (a : Option Addr) (cap : Nat) (zs : List Int) (hm : zs.length ≤ 65536) (w : World) (hBs : Bs < w.heap.size) (hn₀ : n₀ ≤ w.heap.size)
    (hc : w.cell? ⟨Bs, 0, none⟩ = some (.slice a zs.length cap)) (hI : Ints w n₀ .i32 a zs) :
    SeqStopsK F n Try.prog 35 #[.pointer (some ⟨Bs, 0, none⟩)] (fun x : Int => #[Value.int .u16 x]) (Below n₀) (fun ys => ys = uns zs) (fun pre => pre <+: uns zs) (uns zs).length w := fun l J Jx W hW _ _ hY h0 =>
  units1_in F hF n l Bs n₀ a cap zs hm J Jx hY W ((hW.cell (p := ⟨Bs, 0, none⟩) hBs).trans hc) (hI.below (hW.mono hn₀) (Nat.le_refl _)) h0
end Go.Proofs.Ytmidoopapfkilaa
