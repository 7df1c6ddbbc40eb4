/- Joined of: N12Fou, N12UnM. -/
import Derived.Test.YtdcfhkiajeiaoaaDoorJ12D
import Derived.Test.YtdcfhkiajeiaoaaDoorJ12F
import Derived.Test.YtdcfhkiajeiaoaaDoorJ12C
import Derived.StillTail
import Derived.StillTailTactics
import Derived.Test.YtdcfhkiajeiaoaaDoorJ12N
/- Printed by gen_n12fou.py. The law's four: an escape's digits, small or great. -/
namespace Go.Proofs.YtdcfhkiajeiaoaaDoor
set_option maxRecDepth 100000
open Go.ChangeShapes Go.WideShapes Go.ChangeAt Go.RowKit
set_option linter.unusedVariables false
set_option linter.unusedSimpArgs false

/-- a digit's letter -/
def dgc (g : Bool) (k : Int) : Int := if k < 10 then 48 + k else if g = true then 55 + k else 87 + k
theorem ixS_0 (w : World) : (Instr.index 9 (.string ⟨#[48, 49, 50, 51, 52, 53, 54, 55, 56, 57, 97, 98, 99, 100, 101, 102]⟩) (.int .u16 ((0 : Nat) : Int))).run Tryd.prog w = .ok (.int .u8 (dgc false ((0 : Nat) : Int))) w := by kernel_rfl
theorem ixS_1 (w : World) : (Instr.index 9 (.string ⟨#[48, 49, 50, 51, 52, 53, 54, 55, 56, 57, 97, 98, 99, 100, 101, 102]⟩) (.int .u16 ((1 : Nat) : Int))).run Tryd.prog w = .ok (.int .u8 (dgc false ((1 : Nat) : Int))) w := by kernel_rfl
theorem ixS_2 (w : World) : (Instr.index 9 (.string ⟨#[48, 49, 50, 51, 52, 53, 54, 55, 56, 57, 97, 98, 99, 100, 101, 102]⟩) (.int .u16 ((2 : Nat) : Int))).run Tryd.prog w = .ok (.int .u8 (dgc false ((2 : Nat) : Int))) w := by kernel_rfl
theorem ixS_3 (w : World) : (Instr.index 9 (.string ⟨#[48, 49, 50, 51, 52, 53, 54, 55, 56, 57, 97, 98, 99, 100, 101, 102]⟩) (.int .u16 ((3 : Nat) : Int))).run Tryd.prog w = .ok (.int .u8 (dgc false ((3 : Nat) : Int))) w := by kernel_rfl
theorem ixS_4 (w : World) : (Instr.index 9 (.string ⟨#[48, 49, 50, 51, 52, 53, 54, 55, 56, 57, 97, 98, 99, 100, 101, 102]⟩) (.int .u16 ((4 : Nat) : Int))).run Tryd.prog w = .ok (.int .u8 (dgc false ((4 : Nat) : Int))) w := by kernel_rfl
theorem ixS_5 (w : World) : (Instr.index 9 (.string ⟨#[48, 49, 50, 51, 52, 53, 54, 55, 56, 57, 97, 98, 99, 100, 101, 102]⟩) (.int .u16 ((5 : Nat) : Int))).run Tryd.prog w = .ok (.int .u8 (dgc false ((5 : Nat) : Int))) w := by kernel_rfl
theorem ixS_6 (w : World) : (Instr.index 9 (.string ⟨#[48, 49, 50, 51, 52, 53, 54, 55, 56, 57, 97, 98, 99, 100, 101, 102]⟩) (.int .u16 ((6 : Nat) : Int))).run Tryd.prog w = .ok (.int .u8 (dgc false ((6 : Nat) : Int))) w := by kernel_rfl
theorem ixS_7 (w : World) : (Instr.index 9 (.string ⟨#[48, 49, 50, 51, 52, 53, 54, 55, 56, 57, 97, 98, 99, 100, 101, 102]⟩) (.int .u16 ((7 : Nat) : Int))).run Tryd.prog w = .ok (.int .u8 (dgc false ((7 : Nat) : Int))) w := by kernel_rfl
theorem ixS_8 (w : World) : (Instr.index 9 (.string ⟨#[48, 49, 50, 51, 52, 53, 54, 55, 56, 57, 97, 98, 99, 100, 101, 102]⟩) (.int .u16 ((8 : Nat) : Int))).run Tryd.prog w = .ok (.int .u8 (dgc false ((8 : Nat) : Int))) w := by kernel_rfl
theorem ixS_9 (w : World) : (Instr.index 9 (.string ⟨#[48, 49, 50, 51, 52, 53, 54, 55, 56, 57, 97, 98, 99, 100, 101, 102]⟩) (.int .u16 ((9 : Nat) : Int))).run Tryd.prog w = .ok (.int .u8 (dgc false ((9 : Nat) : Int))) w := by kernel_rfl
theorem ixS_10 (w : World) : (Instr.index 9 (.string ⟨#[48, 49, 50, 51, 52, 53, 54, 55, 56, 57, 97, 98, 99, 100, 101, 102]⟩) (.int .u16 ((10 : Nat) : Int))).run Tryd.prog w = .ok (.int .u8 (dgc false ((10 : Nat) : Int))) w := by kernel_rfl
theorem ixS_11 (w : World) : (Instr.index 9 (.string ⟨#[48, 49, 50, 51, 52, 53, 54, 55, 56, 57, 97, 98, 99, 100, 101, 102]⟩) (.int .u16 ((11 : Nat) : Int))).run Tryd.prog w = .ok (.int .u8 (dgc false ((11 : Nat) : Int))) w := by kernel_rfl
theorem ixS_12 (w : World) : (Instr.index 9 (.string ⟨#[48, 49, 50, 51, 52, 53, 54, 55, 56, 57, 97, 98, 99, 100, 101, 102]⟩) (.int .u16 ((12 : Nat) : Int))).run Tryd.prog w = .ok (.int .u8 (dgc false ((12 : Nat) : Int))) w := by kernel_rfl
theorem ixS_13 (w : World) : (Instr.index 9 (.string ⟨#[48, 49, 50, 51, 52, 53, 54, 55, 56, 57, 97, 98, 99, 100, 101, 102]⟩) (.int .u16 ((13 : Nat) : Int))).run Tryd.prog w = .ok (.int .u8 (dgc false ((13 : Nat) : Int))) w := by kernel_rfl
theorem ixS_14 (w : World) : (Instr.index 9 (.string ⟨#[48, 49, 50, 51, 52, 53, 54, 55, 56, 57, 97, 98, 99, 100, 101, 102]⟩) (.int .u16 ((14 : Nat) : Int))).run Tryd.prog w = .ok (.int .u8 (dgc false ((14 : Nat) : Int))) w := by kernel_rfl
theorem ixS_15 (w : World) : (Instr.index 9 (.string ⟨#[48, 49, 50, 51, 52, 53, 54, 55, 56, 57, 97, 98, 99, 100, 101, 102]⟩) (.int .u16 ((15 : Nat) : Int))).run Tryd.prog w = .ok (.int .u8 (dgc false ((15 : Nat) : Int))) w := by kernel_rfl
theorem ixS (k : Nat) (hk : k < 16) (w : World) : (Instr.index 9 (.string ⟨#[48, 49, 50, 51, 52, 53, 54, 55, 56, 57, 97, 98, 99, 100, 101, 102]⟩) (.int .u16 (k : Int))).run Tryd.prog w = .ok (.int .u8 (dgc false (k : Int))) w := by
  match k, hk with
  | 0, _ => exact ixS_0 w
  | 1, _ => exact ixS_1 w
  | 2, _ => exact ixS_2 w
  | 3, _ => exact ixS_3 w
  | 4, _ => exact ixS_4 w
  | 5, _ => exact ixS_5 w
  | 6, _ => exact ixS_6 w
  | 7, _ => exact ixS_7 w
  | 8, _ => exact ixS_8 w
  | 9, _ => exact ixS_9 w
  | 10, _ => exact ixS_10 w
  | 11, _ => exact ixS_11 w
  | 12, _ => exact ixS_12 w
  | 13, _ => exact ixS_13 w
  | 14, _ => exact ixS_14 w
  | 15, _ => exact ixS_15 w
  | k + 16, h => exact absurd h (by omega)
theorem ixG_0 (w : World) : (Instr.index 9 (.string ⟨#[48, 49, 50, 51, 52, 53, 54, 55, 56, 57, 65, 66, 67, 68, 69, 70]⟩) (.int .u16 ((0 : Nat) : Int))).run Tryd.prog w = .ok (.int .u8 (dgc true ((0 : Nat) : Int))) w := by kernel_rfl
theorem ixG_1 (w : World) : (Instr.index 9 (.string ⟨#[48, 49, 50, 51, 52, 53, 54, 55, 56, 57, 65, 66, 67, 68, 69, 70]⟩) (.int .u16 ((1 : Nat) : Int))).run Tryd.prog w = .ok (.int .u8 (dgc true ((1 : Nat) : Int))) w := by kernel_rfl
theorem ixG_2 (w : World) : (Instr.index 9 (.string ⟨#[48, 49, 50, 51, 52, 53, 54, 55, 56, 57, 65, 66, 67, 68, 69, 70]⟩) (.int .u16 ((2 : Nat) : Int))).run Tryd.prog w = .ok (.int .u8 (dgc true ((2 : Nat) : Int))) w := by kernel_rfl
theorem ixG_3 (w : World) : (Instr.index 9 (.string ⟨#[48, 49, 50, 51, 52, 53, 54, 55, 56, 57, 65, 66, 67, 68, 69, 70]⟩) (.int .u16 ((3 : Nat) : Int))).run Tryd.prog w = .ok (.int .u8 (dgc true ((3 : Nat) : Int))) w := by kernel_rfl
theorem ixG_4 (w : World) : (Instr.index 9 (.string ⟨#[48, 49, 50, 51, 52, 53, 54, 55, 56, 57, 65, 66, 67, 68, 69, 70]⟩) (.int .u16 ((4 : Nat) : Int))).run Tryd.prog w = .ok (.int .u8 (dgc true ((4 : Nat) : Int))) w := by kernel_rfl
theorem ixG_5 (w : World) : (Instr.index 9 (.string ⟨#[48, 49, 50, 51, 52, 53, 54, 55, 56, 57, 65, 66, 67, 68, 69, 70]⟩) (.int .u16 ((5 : Nat) : Int))).run Tryd.prog w = .ok (.int .u8 (dgc true ((5 : Nat) : Int))) w := by kernel_rfl
theorem ixG_6 (w : World) : (Instr.index 9 (.string ⟨#[48, 49, 50, 51, 52, 53, 54, 55, 56, 57, 65, 66, 67, 68, 69, 70]⟩) (.int .u16 ((6 : Nat) : Int))).run Tryd.prog w = .ok (.int .u8 (dgc true ((6 : Nat) : Int))) w := by kernel_rfl
theorem ixG_7 (w : World) : (Instr.index 9 (.string ⟨#[48, 49, 50, 51, 52, 53, 54, 55, 56, 57, 65, 66, 67, 68, 69, 70]⟩) (.int .u16 ((7 : Nat) : Int))).run Tryd.prog w = .ok (.int .u8 (dgc true ((7 : Nat) : Int))) w := by kernel_rfl
theorem ixG_8 (w : World) : (Instr.index 9 (.string ⟨#[48, 49, 50, 51, 52, 53, 54, 55, 56, 57, 65, 66, 67, 68, 69, 70]⟩) (.int .u16 ((8 : Nat) : Int))).run Tryd.prog w = .ok (.int .u8 (dgc true ((8 : Nat) : Int))) w := by kernel_rfl
theorem ixG_9 (w : World) : (Instr.index 9 (.string ⟨#[48, 49, 50, 51, 52, 53, 54, 55, 56, 57, 65, 66, 67, 68, 69, 70]⟩) (.int .u16 ((9 : Nat) : Int))).run Tryd.prog w = .ok (.int .u8 (dgc true ((9 : Nat) : Int))) w := by kernel_rfl
theorem ixG_10 (w : World) : (Instr.index 9 (.string ⟨#[48, 49, 50, 51, 52, 53, 54, 55, 56, 57, 65, 66, 67, 68, 69, 70]⟩) (.int .u16 ((10 : Nat) : Int))).run Tryd.prog w = .ok (.int .u8 (dgc true ((10 : Nat) : Int))) w := by kernel_rfl
theorem ixG_11 (w : World) : (Instr.index 9 (.string ⟨#[48, 49, 50, 51, 52, 53, 54, 55, 56, 57, 65, 66, 67, 68, 69, 70]⟩) (.int .u16 ((11 : Nat) : Int))).run Tryd.prog w = .ok (.int .u8 (dgc true ((11 : Nat) : Int))) w := by kernel_rfl
theorem ixG_12 (w : World) : (Instr.index 9 (.string ⟨#[48, 49, 50, 51, 52, 53, 54, 55, 56, 57, 65, 66, 67, 68, 69, 70]⟩) (.int .u16 ((12 : Nat) : Int))).run Tryd.prog w = .ok (.int .u8 (dgc true ((12 : Nat) : Int))) w := by kernel_rfl
theorem ixG_13 (w : World) : (Instr.index 9 (.string ⟨#[48, 49, 50, 51, 52, 53, 54, 55, 56, 57, 65, 66, 67, 68, 69, 70]⟩) (.int .u16 ((13 : Nat) : Int))).run Tryd.prog w = .ok (.int .u8 (dgc true ((13 : Nat) : Int))) w := by kernel_rfl
theorem ixG_14 (w : World) : (Instr.index 9 (.string ⟨#[48, 49, 50, 51, 52, 53, 54, 55, 56, 57, 65, 66, 67, 68, 69, 70]⟩) (.int .u16 ((14 : Nat) : Int))).run Tryd.prog w = .ok (.int .u8 (dgc true ((14 : Nat) : Int))) w := by kernel_rfl
theorem ixG_15 (w : World) : (Instr.index 9 (.string ⟨#[48, 49, 50, 51, 52, 53, 54, 55, 56, 57, 65, 66, 67, 68, 69, 70]⟩) (.int .u16 ((15 : Nat) : Int))).run Tryd.prog w = .ok (.int .u8 (dgc true ((15 : Nat) : Int))) w := by kernel_rfl
theorem ixG (k : Nat) (hk : k < 16) (w : World) : (Instr.index 9 (.string ⟨#[48, 49, 50, 51, 52, 53, 54, 55, 56, 57, 65, 66, 67, 68, 69, 70]⟩) (.int .u16 (k : Int))).run Tryd.prog w = .ok (.int .u8 (dgc true (k : Int))) w := by
  match k, hk with
  | 0, _ => exact ixG_0 w
  | 1, _ => exact ixG_1 w
  | 2, _ => exact ixG_2 w
  | 3, _ => exact ixG_3 w
  | 4, _ => exact ixG_4 w
  | 5, _ => exact ixG_5 w
  | 6, _ => exact ixG_6 w
  | 7, _ => exact ixG_7 w
  | 8, _ => exact ixG_8 w
  | 9, _ => exact ixG_9 w
  | 10, _ => exact ixG_10 w
  | 11, _ => exact ixG_11 w
  | 12, _ => exact ixG_12 w
  | 13, _ => exact ixG_13 w
  | 14, _ => exact ixG_14 w
  | 15, _ => exact ixG_15 w
  | k + 16, h => exact absurd h (by omega)
def fourD (g : Bool) (u : Int) : List Int := [dgc g (u / 4096), dgc g (u / 256 % 16), dgc g (u / 16 % 16), dgc g (u % 16)]
set_option maxHeartbeats 4000000 in
theorem four_any (u : Int) (g : Bool) (w : World) (h0 : 0 ≤ u) (h1 : u ≤ 65535) : Calls Tryd.prog 22 #[.int .u16 u, .bool g] w fun e w' => e = .returned (.string (strOfNums (fourD g u))) ∧ Below w.heap.size w w' := by
  unfold fourD
  obtain ⟨a, ea⟩ : ∃ a : Nat, (a : Int) = u / 4096 := ⟨(u / 4096).toNat, by omega⟩
  obtain ⟨p, ep⟩ : ∃ p : Nat, (p : Int) = u / 256 := ⟨(u / 256).toNat, by omega⟩
  obtain ⟨q, eq⟩ : ∃ q : Nat, (q : Int) = u / 16 := ⟨(u / 16).toNat, by omega⟩
  obtain ⟨b, eb⟩ : ∃ b : Nat, (b : Int) = (p : Int) % 16 := ⟨((p : Int) % 16).toNat, by omega⟩
  obtain ⟨c, ec⟩ : ∃ c : Nat, (c : Int) = (q : Int) % 16 := ⟨((q : Int) % 16).toNat, by omega⟩
  obtain ⟨d, ed⟩ : ∃ d : Nat, (d : Int) = u % 16 := ⟨(u % 16).toNat, by omega⟩
  have ha : a < 16 := by omega
  have hb : b < 16 := by omega
  have hc : c < 16 := by omega
  have hd : d < 16 := by omega
  have hp : (p : Int) ≤ 65535 := by omega
  have hq : (q : Int) ≤ 65535 := by omega
  have t1 : u.tdiv 4096 = (a : Int) := by rw [Int.tdiv_eq_ediv_of_nonneg h0, ea]
  have t2 : u.tdiv 256 = (p : Int) := by rw [Int.tdiv_eq_ediv_of_nonneg h0, ep]
  have t3 : u.tdiv 16 = (q : Int) := by rw [Int.tdiv_eq_ediv_of_nonneg h0, eq]
  have t4 : (p : Int).tmod 16 = (b : Int) := by rw [Int.tmod_eq_emod_of_nonneg (by omega), eb]
  have t5 : (q : Int).tmod 16 = (c : Int) := by rw [Int.tmod_eq_emod_of_nonneg (by omega), ec]
  have t6 : u.tmod 16 = (d : Int) := by rw [Int.tmod_eq_emod_of_nonneg h0, ed]
  have s1 : u / 4096 = (a : Int) := ea.symm
  have s2 : u / 256 = (p : Int) := ep.symm
  have s3 : u / 16 = (q : Int) := eq.symm
  have s4 : (p : Int) % 16 = (b : Int) := eb.symm
  have s5 : (q : Int) % 16 = (c : Int) := ec.symm
  have s6 : u % 16 = (d : Int) := ed.symm
  have w1 : IntKind.u16.wrap (a : Int) = a := IntWalk.u16_in _ (by omega)
  have w2 : IntKind.u16.wrap (p : Int) = p := IntWalk.u16_in _ (by omega)
  have w3 : IntKind.u16.wrap (q : Int) = q := IntWalk.u16_in _ (by omega)
  have w4 : IntKind.u16.wrap (b : Int) = b := IntWalk.u16_in _ (by omega)
  have w5 : IntKind.u16.wrap (c : Int) = c := IntWalk.u16_in _ (by omega)
  have w6 : IntKind.u16.wrap (d : Int) = d := IntWalk.u16_in _ (by omega)
  rw [s1, s2, s3, s4, s5, s6]
  clear ea ep eq eb ec ed
  cases g with
  | false =>
    have i1 := fun w => ixS a ha w
    have i2 := fun w => ixS b hb w
    have i3 := fun w => ixS c hc w
    have i4 := fun w => ixS d hd w
    generalize dgc false (a : Int) = da at *
    generalize dgc false (b : Int) = db at *
    generalize dgc false (c : Int) = dc at *
    generalize dgc false (d : Int) = dd at *
    go_enter Tryd.func22, Tryd.ntmps22
    go_wp2_with fail
    refine wp_region_still_tail 18 (by kernel_rfl) (by kernel_rfl) ?_
    simp only [List.take_succ_cons, List.take_zero, List.drop_succ_cons, List.drop_zero]
    generalize hW1 : ({ w with drawn := w.drawn + 1 } : World) = W1
    have HB1 : Hid (Below w.heap.size w W1) := Lib.hid (by rw [← hW1]; exact (Below.refl _ _).drew)
    have hcv := conv_str (W1.alloc (.cells #[.int .u8 da, .int .u8 db, .int .u8 dc, .int .u8 dd] 5)) _ (some ⟨W1.heap.size, 0, none⟩) 4 4 [da, db, dc, dd] rfl (Ints.own (own_lit W1 W1.heap.size 5 .u8 [da, db, dc, dd] (Nat.le_refl _) (by simp [maxLen])))
    clear hW1
    repeat still_step
    refine wpStill_nil ?_
    go_wp2
    go_ret
    exact ⟨rfl, HB1.out.alloc HB1.out.size _⟩
  | true =>
    have i1 := fun w => ixG a ha w
    have i2 := fun w => ixG b hb w
    have i3 := fun w => ixG c hc w
    have i4 := fun w => ixG d hd w
    generalize dgc true (a : Int) = da at *
    generalize dgc true (b : Int) = db at *
    generalize dgc true (c : Int) = dc at *
    generalize dgc true (d : Int) = dd at *
    go_enter Tryd.func22, Tryd.ntmps22
    go_wp2_with fail
    refine wp_region_still_tail 18 (by kernel_rfl) (by kernel_rfl) ?_
    simp only [List.take_succ_cons, List.take_zero, List.drop_succ_cons, List.drop_zero]
    generalize hW1 : ({ w with drawn := w.drawn + 1 } : World) = W1
    have HB1 : Hid (Below w.heap.size w W1) := Lib.hid (by rw [← hW1]; exact (Below.refl _ _).drew)
    have hcv := conv_str (W1.alloc (.cells #[.int .u8 da, .int .u8 db, .int .u8 dc, .int .u8 dd] 5)) _ (some ⟨W1.heap.size, 0, none⟩) 4 4 [da, db, dc, dd] rfl (Ints.own (own_lit W1 W1.heap.size 5 .u8 [da, db, dc, dd] (Nat.le_refl _) (by simp [maxLen])))
    clear hW1
    repeat still_step
    refine wpStill_nil ?_
    go_wp2
    go_ret
    exact ⟨rfl, HB1.out.alloc HB1.out.size _⟩
end Go.Proofs.YtdcfhkiajeiaoaaDoor

/- Two escapes of any two units: whether the string is over behind them. No program in it. -/
namespace Go.Proofs.YtdcfhkiajeiaoaaDoor
set_option maxRecDepth 100000
set_option linter.unusedVariables false
set_option linter.unusedSimpArgs false

theorem hex_dgc (g : Bool) {k : Int} (h0 : 0 ≤ k) (h1 : k ≤ 15) : hexF (dgc g k) = k ∧ 32 ≤ dgc g k := by
  have e : dgc g k = 48 + k ∧ k < 10 ∨ dgc g k = 55 + k ∧ 10 ≤ k ∨ dgc g k = 87 + k ∧ 10 ≤ k := by
    unfold dgc
    by_cases h : k < 10
    · rw [if_pos h]; exact .inl ⟨rfl, h⟩
    · rw [if_neg h]
      cases g
      · exact .inr (.inr ⟨rfl, by omega⟩)
      · exact .inr (.inl ⟨rfl, by omega⟩)
  rcases e with ⟨e, h⟩ | ⟨e, h⟩ | ⟨e, h⟩ <;> rw [e] <;> refine ⟨?_, by omega⟩ <;> unfold hexF <;> (repeat' split) <;> omega
/-- behind \u with the digits h -/
def stU (o : List Int) (h : List Int) (k : Int) : Ss := ⟨o, [], 2, h, k, false⟩
theorem push_stU (o h : List Int) (k : Int) (g : Bool) {a : Int} (h0 : 0 ≤ a) (h1 : a ≤ 15) : pushS (stU o h k) (dgc g a) = (false, (digS (stU o h k) (dgc g a)).1, (digS (stU o h k) (dgc g a)).2) := push_dig rfl rfl (hex_dgc g h0 h1).2
theorem stp {o h : List Int} {k a : Int} {g : Bool} {l : List Int} {i : Nat} (h0 : 0 ≤ a) (h1 : a ≤ 15) (hb : badH k (h ++ [a]) = false) (hn : (decide (k = 0) && nonH (h ++ [a])) = false) (hl : h.length + 1 < 4) :
    feedS (stU o h k) (dgc g a :: l) i = feedS (stU o (h ++ [a]) k) l (i + 1) := by
  rw [feed_cons, push_stU o h k g h0 h1, dig_more (s := stU o h k) (hex_dgc g h0 h1).1 h0 hb hn hl, if_neg (by simp)]
  rfl
theorem stp_bad {o h : List Int} {k a : Int} {g : Bool} {l : List Int} {i : Nat} (h0 : 0 ≤ a) (h1 : a ≤ 15) (hb : badH k (h ++ [a]) = true) : (feedS (stU o h k) (dgc g a :: l) i).2.2.1 = false := by
  rw [feed_cons, push_stU o h k g h0 h1]
  have e : digS (stU o h k) (dgc g a) = (5, stU o h k) := by
    unfold digS
    rw [(hex_dgc g h0 h1).1, if_neg (by omega)]
    exact if_pos hb
  rw [e, if_pos (by simp)]
theorem stp_non {o h : List Int} {k a : Int} {g : Bool} {l : List Int} {i : Nat} (h0 : 0 ≤ a) (h1 : a ≤ 15) (hb : badH k (h ++ [a]) = false) (hn : (decide (k = 0) && nonH (h ++ [a])) = true) : (feedS (stU o h k) (dgc g a :: l) i).2.2.1 = false := by
  rw [feed_cons, push_stU o h k g h0 h1]
  have e : digS (stU o h k) (dgc g a) = (6, stU o h k) := by
    unfold digS
    rw [(hex_dgc g h0 h1).1, if_neg (by omega), if_neg (by show ¬ badH k (h ++ [a]) = true; rw [hb]; decide)]
    exact if_pos hn
  rw [e, if_pos (by simp)]
theorem stp_wait {o h : List Int} {k a : Int} {g : Bool} {l : List Int} {i : Nat} (h0 : 0 ≤ a) (h1 : a ≤ 15) (hb : badH k (h ++ [a]) = false) (hn : (decide (k = 0) && nonH (h ++ [a])) = false) (hl : h.length = 3) (hh : (decide (k = 0) && highB (valH (h ++ [a]))) = true) :
    feedS (stU o h k) (dgc g a :: l) i = feedS ⟨o, [], 0, [], valH (h ++ [a]), false⟩ l (i + 1) := by
  rw [feed_cons, push_stU o h k g h0 h1, dig_wait (s := stU o h k) (hex_dgc g h0 h1).1 h0 hb hn hl hh, if_neg (by simp)]
  rfl
theorem stp_says {o h : List Int} {k a : Int} {g : Bool} {l : List Int} {i : Nat} (h0 : 0 ≤ a) (h1 : a ≤ 15) (hb : badH k (h ++ [a]) = false) (hn : (decide (k = 0) && nonH (h ++ [a])) = false) (hl : h.length = 3) (hh : (decide (k = 0) && highB (valH (h ++ [a]))) = false) (hc : noncharB (joinF k (valH (h ++ [a]))) = false) :
    feedS (stU o h k) (dgc g a :: l) i = feedS ⟨o ++ [joinF k (valH (h ++ [a]))], [], 0, [], 0, false⟩ l (i + 1) := by
  rw [feed_cons, push_stU o h k g h0 h1, dig_says (s := stU o h k) (hex_dgc g h0 h1).1 h0 hb hn hl hh hc, if_neg (by simp)]
  rfl
theorem stp_last {o h : List Int} {k a : Int} {g : Bool} {l : List Int} {i : Nat} (h0 : 0 ≤ a) (h1 : a ≤ 15) (hb : badH k (h ++ [a]) = false) (hn : (decide (k = 0) && nonH (h ++ [a])) = false) (hl : h.length = 3) (hh : (decide (k = 0) && highB (valH (h ++ [a]))) = false) (hc : noncharB (joinF k (valH (h ++ [a]))) = true) :
    (feedS (stU o h k) (dgc g a :: l) i).2.2.1 = false := by
  rw [feed_cons, push_stU o h k g h0 h1]
  have e : digS (stU o h k) (dgc g a) = (6, stU o h k) := by
    unfold digS
    rw [(hex_dgc g h0 h1).1, if_neg (by omega), if_neg (by show ¬ badH k (h ++ [a]) = true; rw [hb]; decide), if_neg (by show ¬ (decide (k = 0) && nonH (h ++ [a])) = true; rw [hn]; decide), if_neg (by show ¬ h.length + 1 < 4; omega), if_neg (by show ¬ (decide (k = 0) && highB (valH (h ++ [a]))) = true; rw [hh]; decide)]
    exact if_pos hc
  rw [e, if_pos (by simp)]
/-- a unit's digits -/
theorem unit_digs {u : Int} (h0 : 0 ≤ u) (h1 : u ≤ 65535) : ∃ a b c d : Int, (0 ≤ a ∧ a ≤ 15) ∧ (0 ≤ b ∧ b ≤ 15) ∧ (0 ≤ c ∧ c ≤ 15) ∧ (0 ≤ d ∧ d ≤ 15) ∧ u = ((a * 16 + b) * 16 + c) * 16 + d ∧ ∀ g, fourD g u = [dgc g a, dgc g b, dgc g c, dgc g d] :=
  ⟨u / 4096, u / 256 % 16, u / 16 % 16, u % 16, by omega, by omega, by omega, by omega, by omega, fun g => rfl⟩
theorem four_lone {o : List Int} {u : Int} {g : Bool} {l : List Int} {i : Nat} (h0 : 0 ≤ u) (h1 : u ≤ 65535) :
    ((lowB u = true ∨ noncharB u = true) → (feedS (stU o [] 0) (fourD g u ++ l) i).2.2.1 = false)
    ∧ (highB u = true → feedS (stU o [] 0) (fourD g u ++ l) i = feedS ⟨o, [], 0, [], u, false⟩ l (i + 1 + 1 + 1 + 1))
    ∧ (lowB u = false → highB u = false → noncharB u = false → feedS (stU o [] 0) (fourD g u ++ l) i = feedS ⟨o ++ [u], [], 0, [], 0, false⟩ l (i + 1 + 1 + 1 + 1)) := by
  obtain ⟨a, b, c, d, ha, hb, hc, hd, hu, hf⟩ := unit_digs h0 h1
  rw [hf]
  have b1 : badH 0 ([] ++ [a]) = false := rfl
  have b2 : badH 0 ([a] ++ [b]) = decide (a = 13 ∧ 12 ≤ b) := rfl
  have b3 : badH 0 ([a, b] ++ [c]) = decide (a = 13 ∧ 12 ≤ b) := rfl
  have b4 : badH 0 ([a, b, c] ++ [d]) = decide (a = 13 ∧ 12 ≤ b) := rfl
  have n3 : (decide ((0 : Int) = 0) && nonH ([a, b] ++ [c])) = decide (a = 15 ∧ b = 13 ∧ (c = 13 ∨ c = 14)) := by simp [nonH]
  have v4 : valH ([a, b, c] ++ [d]) = u := by rw [hu]; exact valH_4 a b c d
  have j4 : joinF 0 (valH ([a, b, c] ++ [d])) = u := by rw [v4]; rfl
  have s1 : ∀ l i, feedS (stU o [] 0) (dgc g a :: l) i = feedS (stU o [a] 0) l (i + 1) := fun l i => stp ha.1 ha.2 b1 rfl (by simp)
  have s2 : lowB u = false → ∀ l i, feedS (stU o [a] 0) (dgc g b :: l) i = feedS (stU o [a, b] 0) l (i + 1) := fun hl l i => stp hb.1 hb.2 (by rw [b2]; unfold lowB at hl; have := of_decide_eq_false hl; exact decide_eq_false (by omega)) rfl (by simp)
  have s3 : lowB u = false → noncharB u = false ∨ ¬ (a = 15 ∧ b = 13 ∧ (c = 13 ∨ c = 14)) → ∀ l i, feedS (stU o [a, b] 0) (dgc g c :: l) i = feedS (stU o [a, b, c] 0) l (i + 1) := fun hl hn l i => stp hc.1 hc.2 (by rw [b3]; unfold lowB at hl; have := of_decide_eq_false hl; exact decide_eq_false (by omega)) (by
    rw [n3]
    rcases hn with hn | hn
    · unfold noncharB at hn; have := of_decide_eq_false hn; exact decide_eq_false (by omega)
    · exact decide_eq_false hn) (by simp)
  have hlow : lowB u = false → badH 0 ([a, b, c] ++ [d]) = false := fun hl => by rw [b4]; unfold lowB at hl; have := of_decide_eq_false hl; exact decide_eq_false (by omega)
  have hlh : highB u = true → lowB u = false ∧ noncharB u = false := fun hh => by
    unfold highB at hh
    have := of_decide_eq_true hh
    unfold lowB noncharB
    exact ⟨decide_eq_false (by omega), decide_eq_false (by omega)⟩
  refine ⟨fun h => ?_, fun hh => ?_, fun hl hh hn => ?_⟩
  · show (feedS (stU o [] 0) (dgc g a :: dgc g b :: dgc g c :: dgc g d :: l) i).2.2.1 = false
    rw [s1]
    cases hl : lowB u with
    | true =>
      refine stp_bad hb.1 hb.2 ?_
      rw [b2]
      unfold lowB at hl
      have := of_decide_eq_true hl
      exact decide_eq_true (by omega)
    | false =>
      rw [hl] at h
      have hn : noncharB u = true := by rcases h with h | h; exact absurd h (by decide); exact h
      rw [s2 hl]
      by_cases h3 : a = 15 ∧ b = 13 ∧ (c = 13 ∨ c = 14)
      · exact stp_non hc.1 hc.2 (by rw [b3]; unfold lowB at hl; have := of_decide_eq_false hl; exact decide_eq_false (by omega)) (by rw [n3]; exact decide_eq_true h3)
      · rw [s3 hl (.inr h3)]
        refine stp_last hd.1 hd.2 (hlow hl) rfl rfl ?_ (by rw [j4]; exact hn)
        rw [v4]
        cases hh : highB u with
        | true => rw [(hlh hh).2] at hn; cases hn
        | false => rfl
  · show feedS (stU o [] 0) (dgc g a :: dgc g b :: dgc g c :: dgc g d :: l) i = _
    obtain ⟨hl, hn⟩ := hlh hh
    rw [s1, s2 hl, s3 hl (.inl hn), stp_wait hd.1 hd.2 (hlow hl) rfl rfl (by rw [v4, hh]; rfl), v4]
  · show feedS (stU o [] 0) (dgc g a :: dgc g b :: dgc g c :: dgc g d :: l) i = _
    rw [s1, s2 hl, s3 hl (.inl hn), stp_says hd.1 hd.2 (hlow hl) rfl rfl (by rw [v4, hh]; rfl) (by rw [j4]; exact hn), j4]
theorem four_pair {o : List Int} {k u : Int} {g : Bool} {l : List Int} {i : Nat} (hk : 0 < k) (h0 : 0 ≤ u) (h1 : u ≤ 65535) :
    (lowB u = false ∨ noncharB (joinF k u) = true → (feedS (stU o [] k) (fourD g u ++ l) i).2.2.1 = false)
    ∧ (lowB u = true → noncharB (joinF k u) = false → feedS (stU o [] k) (fourD g u ++ l) i = feedS ⟨o ++ [joinF k u], [], 0, [], 0, false⟩ l (i + 1 + 1 + 1 + 1)) := by
  obtain ⟨a, b, c, d, ha, hb, hc, hd, hu, hf⟩ := unit_digs h0 h1
  rw [hf]
  have k0 : decide (k = 0) = false := decide_eq_false (by omega)
  have v4 : valH ([a, b, c] ++ [d]) = u := by rw [hu]; exact valH_4 a b c d
  have b1 : badH k ([] ++ [a]) = decide (a ≠ 13) := by unfold badH; rw [if_pos hk]; simp
  have bb : ∀ r, badH k (a :: b :: r) = (decide (a ≠ 13) || !decide (a = 13 ∧ 12 ≤ b)) := fun r => by unfold badH; rw [if_pos hk]; simp [lowH]
  have hz : ∀ q : Bool, (decide (k = 0) && q) = false := fun q => by rw [k0]; rfl
  have good : lowB u = true → a = 13 ∧ 12 ≤ b := fun hl => by unfold lowB at hl; have := of_decide_eq_true hl; omega
  have gb : lowB u = true → ∀ r, badH k (a :: b :: r) = false := fun hl r => by
    have := good hl
    rw [bb]
    simp [this]
  have ga : lowB u = true → badH k ([] ++ [a]) = false := fun hl => by rw [b1]; simp [(good hl).1]
  refine ⟨fun h => ?_, fun hl hn => ?_⟩
  · show (feedS (stU o [] k) (dgc g a :: dgc g b :: dgc g c :: dgc g d :: l) i).2.2.1 = false
    cases hl : lowB u with
    | true =>
      rw [hl] at h
      have hn : noncharB (joinF k u) = true := by rcases h with h | h; exact absurd h (by decide); exact h
      rw [stp ha.1 ha.2 (ga hl) (hz _) (by simp), stp (h := [] ++ [a]) hb.1 hb.2 (gb hl _) (hz _) (by simp), stp (h := [] ++ [a] ++ [b]) hc.1 hc.2 (gb hl _) (hz _) (by simp)]
      exact stp_last (h := [a, b, c]) hd.1 hd.2 (gb hl _) (hz _) rfl (hz _) (by rw [v4]; exact hn)
    | false =>
      unfold lowB at hl
      have := of_decide_eq_false hl
      by_cases ha13 : a = 13
      · rw [stp ha.1 ha.2 (by rw [b1]; simp [ha13]) (hz _) (by simp)]
        refine stp_bad hb.1 hb.2 ?_
        show badH k (a :: b :: []) = true
        rw [bb]
        have : ¬ 12 ≤ b := by omega
        simp [this]
      · refine stp_bad ha.1 ha.2 ?_
        rw [b1]
        simp [ha13]
  · show feedS (stU o [] k) (dgc g a :: dgc g b :: dgc g c :: dgc g d :: l) i = _
    rw [stp ha.1 ha.2 (ga hl) (hz _) (by simp), stp (h := [] ++ [a]) hb.1 hb.2 (gb hl _) (hz _) (by simp), stp (h := [] ++ [a] ++ [b]) hc.1 hc.2 (gb hl _) (hz _) (by simp)]
    have h4 := stp_says (o := o) (h := [a, b, c]) (k := k) (g := g) (l := l) (i := i + 1 + 1 + 1) hd.1 hd.2 (gb hl _) (hz _) rfl (hz _) (by rw [v4]; exact hn)
    rw [v4] at h4
    exact h4
theorem esc_u (o : List Int) (k : Int) (l : List Int) (i : Nat) : feedS ⟨o, [], 0, [], k, false⟩ (92 :: 117 :: l) i = feedS (stU o [] k) l (i + 1 + 1) := by
  rw [feed_cons]
  have e1 : pushS ⟨o, [], 0, [], k, false⟩ 92 = (false, 0, ⟨o, [], 1, [], k, false⟩) := by unfold pushS; simp
  rw [e1, if_neg (by simp), feed_cons]
  have e2 : pushS ⟨o, [], 1, [], k, false⟩ 117 = (false, 0, stU o [] k) := by unfold pushS escS stU; simp
  rw [e2, if_neg (by simp)]
theorem end_q (o : List Int) (k : Int) (i : Nat) : (feedS ⟨o, [], 0, [], k, false⟩ [34] i).2.2.1 = decide (¬ 0 < k) := by
  rw [feed_cons]
  by_cases hk : 0 < k
  · have e1 : pushS ⟨o, [], 0, [], k, false⟩ 34 = (false, 5, ⟨o, [], 0, [], k, false⟩) := by unfold pushS; simp [hk]
    rw [e1]
    simp [hk]
  · have e1 : pushS ⟨o, [], 0, [], k, false⟩ 34 = (true, 0, ⟨o, [], 0, [], k, true⟩) := by unfold pushS; simp [hk]
    rw [e1]
    simp [hk]
def rightB (u v : Int) : Bool := (highB u && lowB v && !noncharB (joinF u v)) || (!highB u && !lowB u && !highB v && !lowB v && !noncharB u && !noncharB v)
def unitsT (u v : Int) (g : Bool) : List Int := 92 :: 117 :: (fourD g u ++ (92 :: 117 :: (fourD (!g) v ++ [34])))
theorem units_over (u v : Int) (g : Bool) (h0 : 0 ≤ u) (h1 : u ≤ 65535) (k0 : 0 ≤ v) (k1 : v ≤ 65535) : (feedS ss0 (unitsT u v g) 0).2.2.1 = rightB u v := by
  unfold unitsT
  show (feedS ⟨[], [], 0, [], 0, false⟩ _ 0).2.2.1 = _
  rw [esc_u]
  have four_u := four_lone (o := []) (g := g) (l := 92 :: 117 :: (fourD (!g) v ++ [34])) (i := 0 + 1 + 1) h0 h1
  cases hh : highB u with
  | true =>
    have hu := of_decide_eq_true hh
    rw [four_u.2.1 hh, esc_u]
    have four_v := four_pair (o := []) (k := u) (g := !g) (l := [34]) (i := 0 + 1 + 1 + 1 + 1 + 1 + 1 + 1 + 1) (by omega) k0 k1
    cases hl : lowB v with
    | false =>
      rw [four_v.1 (.inl hl)]
      simp [rightB, hh, hl]
    | true =>
      cases hn : noncharB (joinF u v) with
      | true =>
        rw [four_v.1 (.inr hn)]
        simp [rightB, hh, hl, hn]
      | false =>
        rw [four_v.2 hl hn, end_q]
        simp [rightB, hh, hl, hn]
  | false =>
    cases hl : lowB u with
    | true =>
      rw [four_u.1 (.inl hl)]
      simp [rightB, hh, hl]
    | false =>
      cases hn : noncharB u with
      | true =>
        rw [four_u.1 (.inr hn)]
        simp [rightB, hh, hl, hn]
      | false =>
        rw [four_u.2.2 hl hh hn, esc_u]
        have four_v := four_lone (o := [] ++ [u]) (g := !g) (l := [34]) (i := 0 + 1 + 1 + 1 + 1 + 1 + 1 + 1 + 1) k0 k1
        cases hlv : lowB v with
        | true =>
          rw [four_v.1 (.inl hlv)]
          simp [rightB, hh, hl, hn, hlv]
        | false =>
          cases hhv : highB v with
          | true =>
            have hv := of_decide_eq_true hhv
            have hv0 : 0 < v := by omega
            rw [four_v.2.1 hhv, end_q]
            simp [rightB, hh, hl, hn, hlv, hhv, hv0]
          | false =>
            cases hnv : noncharB v with
            | true =>
              rw [four_v.1 (.inr hnv)]
              simp [rightB, hh, hl, hn, hlv, hhv, hnv]
            | false =>
              rw [four_v.2.2 hlv hhv hnv, end_q]
              simp [rightB, hh, hl, hn, hlv, hhv, hnv]
end Go.Proofs.YtdcfhkiajeiaoaaDoor
