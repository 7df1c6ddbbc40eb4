/- The program's decimal (package fault) by its contract: as digits.Print is walked (P10Print). -/
import Derived.Test.YtakbbhhhdcnlnaaDoorG14Pr
import Derived.Laws.Strings2
import Derived.Laws.Concat
import Derived.Deep.CutRange
namespace Go.Proofs.YtakbbhhhdcnlnaaDoor
set_option maxRecDepth 100000
open Go.ChangeShapes Go.WideShapes Go.ChangeAt Go.RowKit
set_option linter.unusedVariables false
set_option linter.unusedSimpArgs false

theorem nums_bs (l : List UInt8) : strOfNums (l.map fun c => (c.toNat : Int)) = bs l := by
  unfold strOfNums bs
  rw [List.map_map]
  have : (fun n : Int => UInt8.ofNat n.toNat) ∘ (fun c : UInt8 => (c.toNat : Int)) = id := by
    funext c; simp
  rw [this, List.map_id]
/-- the room as it lies in memory -/
def roomC (l : List UInt8) : Array Value := (l.map fun c => Value.int .u8 (c.toNat : Int)).toArray
theorem room_set (l : List UInt8) (k : Nat) (c : UInt8) : (roomC l).setIfInBounds k (.int .u8 (c.toNat : Int)) = roomC (l.set k c) := by
  unfold roomC
  rw [List.setIfInBounds_toArray, List.map_set]
theorem room_at {l : List UInt8} {k : Nat} (h : k < l.length) : (roomC l)[k]? = some (.int .u8 ((l.getD k 0).toNat : Int)) := by
  unfold roomC
  simp [h]
theorem drop_set {l : List UInt8} {k : Nat} (h : k < l.length) (c : UInt8) : (l.set k c).drop k = c :: l.drop (k + 1) := by
  have hk : k < (l.set k c).length := by rw [List.length_set]; exact h
  rw [List.drop_eq_getElem_cons hk, List.getElem_set_self, List.drop_set_of_lt (by omega)]
theorem room_zero : roomC (List.replicate 20 0) = #[.int .u8 0, .int .u8 0, .int .u8 0, .int .u8 0, .int .u8 0, .int .u8 0, .int .u8 0, .int .u8 0, .int .u8 0, .int .u8 0, .int .u8 0, .int .u8 0, .int .u8 0, .int .u8 0, .int .u8 0, .int .u8 0, .int .u8 0, .int .u8 0, .int .u8 0, .int .u8 0] := rfl

/-- where the loop stands: M is left, k places are free, what stands behind them is told -/
def PrL (w : World) (g N : Nat) (a v : Value) (wr : World) : Prop :=
  ∃ (M k : Nat) (l : List UInt8), a = .int .u64 M ∧ v = .int .i64 k ∧ l.length = 20 ∧ k ≤ 20 ∧ ((0 < M ∧ dig N = dig M ++ l.drop k) ∨ (k = 20 ∧ M = N)) ∧ M ≤ N ∧ Blk wr g 98 (roomC l) ∧ Below g w wr
theorem PrL.here {w wr : World} {g N M k : Nat} {l : List UInt8} (h : l.length = 20) (hk : k ≤ 20) (hd : (0 < M ∧ dig N = dig M ++ l.drop k) ∨ (k = 20 ∧ M = N)) (hM : M ≤ N) (hB : Blk wr g 98 (roomC l)) (hw : Below g w wr) : PrL w g N (.int .u64 M) (.int .i64 k) wr := ⟨M, k, l, rfl, rfl, h, hk, hd, hM, hB, hw⟩
theorem dgt_of {m : Nat} : (UInt8.ofNat (48 + m % 10)).toNat = 48 + m % 10 := ofD (by omega)
/-- what a round makes of it -/
theorem pr_round {N M k : Nat} {l : List UInt8} (hN : N ≤ 9223372036854775808) (h : l.length = 20) (hk : k ≤ 20) (hd : (0 < M ∧ dig N = dig M ++ l.drop k) ∨ (k = 20 ∧ M = N)) (hM : M ≤ N) :
    2 ≤ k ∧ (l.set (k - 1) (UInt8.ofNat (48 + M % 10))).length = 20 ∧ (if M / 10 = 0 then dig N = (l.set (k - 1) (UInt8.ofNat (48 + M % 10))).drop (k - 1) else dig N = dig (M / 10) ++ (l.set (k - 1) (UInt8.ofNat (48 + M % 10))).drop (k - 1)) := by
  have hlen := dig_len (n := N) (k := 19) (by omega) (by omega)
  have hd' : dig N = dig M ++ l.drop k := by
    rcases hd with h | ⟨rfl, rfl⟩
    · exact h.2
    · rw [List.drop_of_length_le (by omega), List.append_nil]
  have h2 : 2 ≤ k := by
    rw [hd', List.length_append, List.length_drop] at hlen
    have := List.length_pos_iff.2 (dig_ne M)
    omega
  refine ⟨h2, by rw [List.length_set]; exact h, ?_⟩
  have hs := drop_set (l := l) (k := k - 1) (by omega) (UInt8.ofNat (48 + M % 10))
  have e : k - 1 + 1 = k := by omega
  rw [e] at hs
  rw [hs, hd']
  by_cases h10 : M < 10
  · rw [if_pos (by omega), dig_lo h10, Nat.mod_eq_of_lt h10]; rfl
  · rw [if_neg (by omega), dig_hi h10, List.append_assoc]; rfl
theorem slice_room (w : World) (g k : Nat) (hk : k < 20) : (Instr.sliceAt 98 (.pointer (some ⟨g, 0, none⟩)) (some (.int .i64 k)) none none).run Tryd.prog w = .ok (.slice (some ⟨g, k, none⟩) (20 - k) (20 - k)) w := by
  have h1 : Tryd.prog.arrayLen 98 = 20 := by kernel_rfl
  have h2 : Tryd.prog.elem 98 = 5 := by kernel_rfl
  have h3 : Tryd.prog.underlying 98 = some (.array (Tryd.prog.arrayLen 98) (Tryd.prog.elem 98)) := by kernel_rfl
  rw [run_sliceAt_array_l w 98 ⟨g, 0, none⟩ h3 .i64 k (by omega) (by rw [h1]; omega), h1, h2]
  have h4 : ∀ w, (sizeOf 5).run Tryd.prog w = .ok 1 w := by intro w; kernel_rfl
  rw [h4]
  simp only [Result.andThen, slicedAt]
  rw [if_neg (by omega)]
  simp [Addr.add]
  omega
/-- the row's bytes from a place on, as a string -/
theorem conv_room (w : World) (g k n c : Nat) (l : List UInt8) (h : l.length = 20) (hk : n = 20 - k) (hk2 : k ≤ 20) (hB : Blk w g 98 (roomC l)) : (convert 61 9 (.slice (some ⟨g, k, none⟩) n c)).run Tryd.prog w = .ok (.string (bs (l.drop k))) w := by
  rw [← nums_bs]
  subst hk
  refine run_convert_bytes_arg w 61 5 Tryd.underlying61 Tryd.underlying5 g k _ c _ ?_ (fun j hj => ?_) _ Tryd.underlying9
  · rw [List.length_map, List.length_drop]; omega
  · rw [hB.cell (k + j), room_at (by omega)]
    congr 2
    simp only [List.getD_eq_getElem?_getD, List.getElem?_map, List.getElem?_drop]
    rw [List.getElem?_eq_getElem (by omega)]
    rfl

set_option maxHeartbeats 4000000 in
theorem decimal_any (n : Int) (w : World) (h0 : -9223372036854775808 ≤ n) (h1 : n ≤ 9223372036854775807) : Calls Tryd.prog 32 #[.int .i64 n] w fun e w' => e = .returned (.string (bs (printF n))) ∧ Below w.heap.size w w' := by
  obtain ⟨N, hN⟩ : ∃ N : Nat, Hid (N = n.natAbs) := ⟨_, Lib.hid rfl⟩
  have hNb : N ≤ 9223372036854775808 := by have := hN.out; omega
  by_cases hneg : n < 0
  · have hw1 : IntKind.u64.wrap n = n + 18446744073709551616 := by have := hN.out; simp [IntKind.wrap, IntKind.bits, IntKind.signed]; omega
    have hw2 : IntKind.u64.wrap (-(n + 18446744073709551616)) = N := by have := hN.out; simp [IntKind.wrap, IntKind.bits, IntKind.signed]; omega
    go_enter Tryd.func32, Tryd.ntmps32
    go_wp2_with fail
    have HB0 : Hid (Below w.heap.size w (w.alloc (.cells (roomC (List.replicate 20 0)) 98))) := Lib.hid ((Below.refl _ _).alloc (Nat.le_refl _) _)
    have HX0 : Hid (Blk (w.alloc (.cells (roomC (List.replicate 20 0)) 98)) w.heap.size 98 (roomC (List.replicate 20 0))) := Lib.hid (Blk.new w 98 _)
    rw [room_zero] at HB0 HX0
    go_loopw [3, 5] (PrL w w.heap.size N) (fun a _ _ => (intOf a).toNat + 1)
    case atStart => exact PrL.here (l := List.replicate 20 0) (k := 20) (M := N) rfl (Nat.le_refl _) (.inr ⟨rfl, rfl⟩) (Nat.le_refl _) HX0.out HB0.out
    case round =>
      obtain ⟨M, k, l, rfl, rfl, hl, hk, hd, hM, hX, hB⟩ := hrel
      obtain ⟨h2, hl2, hst⟩ := pr_round (by omega) hl hk hd hM
      obtain ⟨j, rfl⟩ : ∃ j, k = j + 1 := ⟨k - 1, by omega⟩
      rw [Nat.add_sub_cancel] at hl2 hst
      have HS := Lib.hid hst
      have HX := Lib.hid hX
      have HB := Lib.hid hB
      have HL := Lib.hid hl
      have HL2 := Lib.hid hl2
      have hjl : j < l.length := by omega
      have hcell := (hX.cell j).trans (room_at hjl)
      have hfr := hX.frozen j
      have hlt := hX.lt
      have hRS : Hid (((roomC l).setIfInBounds j (.int .u8 ((UInt8.ofNat (48 + M % 10)).toNat : Int))) = roomC (l.set j (UInt8.ofNat (48 + M % 10)))) := Lib.hid (room_set l j _)
      have hdg : ((UInt8.ofNat (48 + M % 10)).toNat : Int) = 48 + (M : Int) % 10 := by rw [dgt_of]; omega
      rw [hdg] at hRS
      have hwd : IntKind.u8.wrap (48 + (M : Int) % 10) = 48 + (M : Int) % 10 := by have := hN.out; simp [IntKind.wrap, IntKind.bits, IntKind.signed]; omega
      have hMb : (M : Int) ≤ 9223372036854775808 := by omega
      clear hst hX hB hl hl2 hd hdg
      by_cases h0 : M / 10 = 0
      · have h0' : ((M : Int) / 10 == 0) = true := by rw [beq_iff_eq]; omega
        rw [if_pos h0] at HS
        clear h0
        go_upto_region 10 with fail
        have hX1 := HX.out.set j (.int .u8 (48 + (M : Int) % 10))
        rw [hRS.out] at hX1
        have HX1 := Lib.hid hX1
        have HB1 := Lib.hid (HB.out.setCell (p := ⟨w.heap.size, j, none⟩) (by simp) (.int .u8 (48 + (M : Int) % 10)))
        clear hX1 hRS HX HB hcell hfr hwd
        generalize wr.setCell ⟨w.heap.size, j, none⟩ (.int .u8 (48 + (M : Int) % 10)) = w1 at *
        generalize l.set j (UInt8.ofNat (48 + M % 10)) = l2 at *
        obtain ⟨i, rfl⟩ : ∃ i, j = i + 1 := ⟨j - 1, by omega⟩
        have hi2 : i < l2.length := by rw [HL2.out]; omega
        have hP : Hid (L8 (bs (printF n)) = (l2.set i 45).drop i) := Lib.hid (by
          rw [L8_bs, drop_set hi2]
          unfold printF
          rw [if_pos hneg, ← hN.out, HS.out]; rfl)
        have hc2 := (HX1.out.cell i).trans (room_at hi2)
        have hf2 := HX1.out.frozen i
        have hlt2 := HX1.out.lt
        have hX2 := HX1.out.set i (.int .u8 ((45 : UInt8).toNat : Int))
        rw [room_set] at hX2
        have hcv := conv_room (w1.setCell ⟨w.heap.size, i, none⟩ (.int .u8 ((45 : UInt8).toNat : Int))) w.heap.size i (20 - i) (20 - i) (l2.set i 45) (by rw [List.length_set]; exact HL2.out) rfl (by omega) hX2
        clear hX2
        have hi20 : i ≤ 20 := by omega
        have hsl := slice_room (w1.setCell ⟨w.heap.size, i, none⟩ (.int .u8 ((45 : UInt8).toNat : Int))) w.heap.size i (by omega)
        have hneg' : decide (n < 0) = true := decide_eq_true hneg
        have e45 : ((45 : UInt8).toNat : Int) = 45 := rfl
        rw [e45] at hcv hsl
        clear e45
        go_wp2
        go_ret
        exact ⟨ret_str (by rw [← hP.out, bs_L8]), HB1.out.setCell (by simp) _⟩
      · have h0' : ((M : Int) / 10 == 0) = false := by rw [beq_eq_false_iff_ne]; omega
        rw [if_neg h0] at HS
        go_wp2
        go_roundw
        case rel =>
          have hX1 := HX.out.set j (.int .u8 (48 + (M : Int) % 10))
          rw [hRS.out] at hX1
          exact PrL.here (M := M / 10) (k := j) HL2.out (by omega) (.inl ⟨by omega, HS.out⟩) (by omega) hX1 (HB.out.setCell (p := ⟨w.heap.size, j, none⟩) (by simp) _)
        case measure => simp [intOf]; omega
  · have hw1 : IntKind.u64.wrap n = N := by have := hN.out; simp [IntKind.wrap, IntKind.bits, IntKind.signed]; omega
    go_enter Tryd.func32, Tryd.ntmps32
    go_wp2_with fail
    have HB0 : Hid (Below w.heap.size w (w.alloc (.cells (roomC (List.replicate 20 0)) 98))) := Lib.hid ((Below.refl _ _).alloc (Nat.le_refl _) _)
    have HX0 : Hid (Blk (w.alloc (.cells (roomC (List.replicate 20 0)) 98)) w.heap.size 98 (roomC (List.replicate 20 0))) := Lib.hid (Blk.new w 98 _)
    rw [room_zero] at HB0 HX0
    go_loopw [3, 5] (PrL w w.heap.size N) (fun a _ _ => (intOf a).toNat + 1)
    case atStart => exact PrL.here (l := List.replicate 20 0) (k := 20) (M := N) rfl (Nat.le_refl _) (.inr ⟨rfl, rfl⟩) (Nat.le_refl _) HX0.out HB0.out
    case round =>
      obtain ⟨M, k, l, rfl, rfl, hl, hk, hd, hM, hX, hB⟩ := hrel
      obtain ⟨h2, hl2, hst⟩ := pr_round (by omega) hl hk hd hM
      obtain ⟨j, rfl⟩ : ∃ j, k = j + 1 := ⟨k - 1, by omega⟩
      rw [Nat.add_sub_cancel] at hl2 hst
      have HS := Lib.hid hst
      have HX := Lib.hid hX
      have HB := Lib.hid hB
      have HL := Lib.hid hl
      have HL2 := Lib.hid hl2
      have hjl : j < l.length := by omega
      have hcell := (hX.cell j).trans (room_at hjl)
      have hfr := hX.frozen j
      have hlt := hX.lt
      have hRS : Hid (((roomC l).setIfInBounds j (.int .u8 ((UInt8.ofNat (48 + M % 10)).toNat : Int))) = roomC (l.set j (UInt8.ofNat (48 + M % 10)))) := Lib.hid (room_set l j _)
      have hdg : ((UInt8.ofNat (48 + M % 10)).toNat : Int) = 48 + (M : Int) % 10 := by rw [dgt_of]; omega
      rw [hdg] at hRS
      have hwd : IntKind.u8.wrap (48 + (M : Int) % 10) = 48 + (M : Int) % 10 := by have := hN.out; simp [IntKind.wrap, IntKind.bits, IntKind.signed]; omega
      have hMb : (M : Int) ≤ 9223372036854775808 := by omega
      clear hst hX hB hl hl2 hd hdg
      by_cases h0 : M / 10 = 0
      · have h0' : ((M : Int) / 10 == 0) = true := by rw [beq_iff_eq]; omega
        rw [if_pos h0] at HS
        clear h0
        go_upto_region 10 with fail
        have hX1 := HX.out.set j (.int .u8 (48 + (M : Int) % 10))
        rw [hRS.out] at hX1
        have HX1 := Lib.hid hX1
        have HB1 := Lib.hid (HB.out.setCell (p := ⟨w.heap.size, j, none⟩) (by simp) (.int .u8 (48 + (M : Int) % 10)))
        clear hX1 hRS HX HB hcell hfr hwd
        generalize wr.setCell ⟨w.heap.size, j, none⟩ (.int .u8 (48 + (M : Int) % 10)) = w1 at *
        generalize l.set j (UInt8.ofNat (48 + M % 10)) = l2 at *
        have hP : Hid (L8 (bs (printF n)) = l2.drop j) := Lib.hid (by
          rw [L8_bs]
          unfold printF
          rw [if_neg (by omega), List.nil_append, ← hN.out, HS.out])
        have hcv := conv_room w1 w.heap.size j (20 - j) (20 - j) l2 HL2.out rfl (by omega) HX1.out
        have hj2 : j ≤ 20 := by omega
        have hsl := slice_room w1 w.heap.size j (by omega)
        have hneg' : decide (n < 0) = false := decide_eq_false (by omega)
        go_wp2
        go_ret
        exact ⟨ret_str (by rw [← hP.out, bs_L8]), HB1.out⟩
      · have h0' : ((M : Int) / 10 == 0) = false := by rw [beq_eq_false_iff_ne]; omega
        rw [if_neg h0] at HS
        go_wp2
        go_roundw
        case rel =>
          have hX1 := HX.out.set j (.int .u8 (48 + (M : Int) % 10))
          rw [hRS.out] at hX1
          exact PrL.here (M := M / 10) (k := j) HL2.out (by omega) (.inl ⟨by omega, HS.out⟩) (by omega) hX1 (HB.out.setCell (p := ⟨w.heap.size, j, none⟩) (by simp) _)
        case measure => simp [intOf]; omega
end Go.Proofs.YtakbbhhhdcnlnaaDoor
