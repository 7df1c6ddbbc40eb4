/- The program's withoutEnd and Norm by their contracts. -/
import Derived.Test.YtiibfejgiilakaaDoorP10Trim
import Derived.Laws.BytesArg
import Derived.Lib.ConvBytes
import Derived.Laws.AppendOwn
namespace Go.Proofs.YtiibfejgiilakaaDoor
set_option maxRecDepth 100000
open Go.ChangeShapes Go.WideShapes Go.ChangeAt Go.RowKit
set_option linter.unusedVariables false
set_option linter.unusedSimpArgs false

theorem end_cut {t : ByteArray} {j : Nat} (h : j < t.size) (hc : t[j] = 48) : endL ((L8 t).take j) = endL ((L8 t).take (j + 1)) := by
  rw [L8_take t j h, end_snoc, if_pos hc]
theorem end_stay {t : ByteArray} {k : Nat} (h : k = 0 ∨ ∃ j, ∃ h : j < t.size, k = j + 1 ∧ t[j] ≠ 48) : endL ((L8 t).take k) = (L8 t).take k := by
  rcases h with rfl | ⟨j, h, rfl, hc⟩
  · rfl
  · rw [L8_take t j h, end_snoc, if_neg hc]
theorem ret_rows {a : Option Addr} {m m' : Nat} {z z' : Int} (h : m = m') (h2 : z = z') : Ending.returned (.tuple #[.slice a m m, .int .i64 z]) = .returned (.tuple #[.slice a m' m', .int .i64 z']) := by rw [h, h2]
set_option maxHeartbeats 2000000 in
theorem withoutEnd_any (t : ByteArray) (b c : Nat) (w : World) (ht : t.size ≤ 1000000) (hc : t.size ≤ c) (hm : c ≤ maxLen) (hB : ∀ j (h : j < t.size), w.cell? ⟨b, j, none⟩ = some (.int .u8 (t[j].toNat : Int))) :
    Calls Tryd.prog 45 #[.slice (some ⟨b, 0, none⟩) t.size c] w fun e w' => e = .returned (.tuple #[.slice (some ⟨b, 0, none⟩) (endL (L8 t)).length (endL (L8 t)).length, .int .i64 ((t.size : Int) - (endL (L8 t)).length)]) ∧ w = w' := by
  generalize hr : endL (L8 t) = r
  have HR := Lib.hid hr
  have HB := Lib.hid hB
  clear hr hB
  go_enter Tryd.func45, Tryd.ntmps45
  go_wp2_with fail
  go_loop [4] (fun n => ∃ k : Nat, k ≤ t.size ∧ n = .int .i64 k ∧ endL ((L8 t).take k) = endL (L8 t)) (fun n => (intOf n).toNat)
  case atStart => exact ⟨t.size, Nat.le_refl _, rfl, by rw [List.take_of_length_le (by rw [L8_len]; exact Nat.le_refl _)]⟩
  case round =>
    obtain ⟨k, hk, rfl, hen⟩ := hrel
    have HE := Lib.hid hen
    clear hen
    cases k with
    | zero =>
      have HQ : Hid (r = (L8 t).take 0) := Lib.hid (by rw [← HR.out, ← HE.out]; rfl)
      have HL : Hid (r.length = 0) := Lib.hid (by rw [HQ.out]; rfl)
      go_wp2
      go_ret2
      exact ⟨ret_rows HL.out.symm (by have := HL.out; omega), rfl⟩
    | succ j =>
      have hlt : j < t.size := by omega
      have hcell := HB.out j hlt
      rcases byte_is t[j] 48 48 rfl with ⟨h48, hcb⟩ | ⟨h48, hcb⟩
      · have HC := Lib.hid (end_cut hlt h48)
        clear h48
        go_wp2
        go_round
        case rel => exact ⟨j, by omega, by go_num, by rw [HC.out, HE.out]⟩
        case measure => simp [intOf]
      · have HQ : Hid (r = (L8 t).take (j + 1)) := Lib.hid (by rw [← HR.out, ← HE.out, end_stay (.inr ⟨j, hlt, rfl, h48⟩)])
        have HL : Hid (r.length = j + 1) := Lib.hid (by rw [HQ.out, List.length_take, L8_len]; omega)
        clear h48
        go_wp2
        go_ret2
        exact ⟨ret_rows HL.out.symm (by have := HL.out; omega), rfl⟩

theorem conv_in (w : World) (t : ByteArray) : ∃ w', (convert 9 22 (.string t)).run Tryd.prog w = .ok (.slice (some ⟨w.heap.size, 0, none⟩) t.size (grownCap w t.size 0 5)) w' ∧ Below w.heap.size w w' ∧ ∀ j (h : j < t.size), w'.cell? ⟨w.heap.size, j, none⟩ = some (.int .u8 (t[j].toNat : Int)) := by
  refine ⟨_, Lib.run_convert_string_bytes (P := Tryd.prog) w 9 22 5 t Tryd.underlying9 Tryd.underlying22 Tryd.underlying5, ⟨rfl, rfl, rfl, by rw [Lib.bytesWorld_size]; omega, fun i hi => Lib.bytesWorld_at_old w _ t i hi⟩, fun j h => ?_⟩
  rw [Lib.bytesWorld_cell w _ t j h]
  have e : t.data.toList.getD j 0 = t[j] := by
    have := L8_at t j h
    unfold L8 at this
    rw [List.getD_eq_getElem?_getD, this]; rfl
  rw [e]
theorem nums_bs (l : List UInt8) : strOfNums (l.map fun c => (c.toNat : Int)) = bs l := by
  unfold strOfNums bs
  rw [List.map_map]
  have : (fun n : Int => UInt8.ofNat n.toNat) ∘ (fun c : UInt8 => (c.toNat : Int)) = id := by
    funext c; simp
  rw [this, List.map_id]
/-- string(b) of the first bytes of a row -/
theorem conv_out (w : World) (t : ByteArray) (b c k : Nat) (hk : k ≤ t.size) (hB : ∀ j (h : j < t.size), w.cell? ⟨b, j, none⟩ = some (.int .u8 (t[j].toNat : Int))) : (convert 22 9 (.slice (some ⟨b, 0, none⟩) k c)).run Tryd.prog w = .ok (.string (bs ((L8 t).take k))) w := by
  rw [← nums_bs]
  refine run_convert_bytes_arg w 22 5 Tryd.underlying22 Tryd.underlying5 b 0 _ c _ ?_ (fun j hj => ?_) _ Tryd.underlying9
  · rw [List.length_map, List.length_take, L8_len]; omega
  · have hj2 : j < t.size := by omega
    rw [Nat.zero_add, hB j hj2]
    congr 2
    rw [List.getD_eq_getElem?_getD, List.getElem?_map, List.getElem?_take, if_pos (by omega), L8_at t j hj2]
    rfl
theorem end_take (l : List UInt8) : endL l = l.take (endL l).length := by
  obtain ⟨m, e, _⟩ := end_pre l
  have : (endL l ++ m).take (endL l).length = endL l := List.take_left
  rw [← e] at this
  exact this.symm
set_option maxHeartbeats 4000000 in
theorem norm_any (x : Dc) (w : World) (hx : x.d.length ≤ 1000000) (he0 : -4000000000 ≤ x.e) (he1 : x.e ≤ 4000000000) : Calls Tryd.prog 40 #[dcV x] w fun e w' => e = .returned (dcV (normF x)) ∧ Below w.heap.size w w' := by
  obtain ⟨n, d, e⟩ := x
  unfold dcV
  dsimp only at *
  obtain ⟨s, rfl⟩ : ∃ s, d = L8 s := ⟨bs d, rfl⟩
  rw [bs_L8]
  rw [L8_len] at hx
  generalize hr : normF ⟨n, L8 s, e⟩ = r
  have HR := Lib.hid hr
  clear hr
  have HT := Lib.hid (fun W => trimLeft_any s W hx)
  have hft := front_le (L8 s)
  obtain ⟨t, htt⟩ : ∃ t, bs (frontL (L8 s)) = t := ⟨_, rfl⟩
  have HF : Hid (frontL (L8 s) = L8 t) := Lib.hid (by rw [← htt, L8_bs])
  rw [htt] at HT
  rw [HF.out, L8_len, L8_len] at hft
  clear htt
  have hel := end_le (L8 t)
  rw [L8_len] at hel
  have HE := Lib.hid (end_take (L8 t))
  go_enter Tryd.func40, Tryd.ntmps40
  go_wp2_with fail
  have HB0 : Hid (Below w.heap.size w ((w.alloc (.cells #[.bool n, .string s, .int .i64 e] 52)).alloc (.cells #[.bool false, .string (bs []), .int .i64 0] 52))) := Lib.hid (((Below.refl _ _).alloc (Nat.le_refl _) _).alloc (by rw [World.size_alloc]; omega) _)
  have HD0 : Hid (DcBlk ((w.alloc (.cells #[.bool n, .string s, .int .i64 e] 52)).alloc (.cells #[.bool false, .string (bs []), .int .i64 0] 52)) w.heap.size n s e) := Lib.hid ((Blk.new w 52 _).alloc _)
  have HZ0 : Hid (DcBlk ((w.alloc (.cells #[.bool n, .string s, .int .i64 e] 52)).alloc (.cells #[.bool false, .string (bs []), .int .i64 0] 52)) (w.heap.size + 1) false (bs []) 0) := Lib.hid (by have h := Blk.new (w.alloc (.cells #[.bool n, .string s, .int .i64 e] 52)) 52 #[.bool false, .string (bs []), .int .i64 0]; rwa [World.size_alloc] at h)
  have hbs : (⟨#[]⟩ : ByteArray) = bs [] := rfl
  rw [hbs]
  clear hbs
  generalize (w.alloc (.cells #[.bool n, .string s, .int .i64 e] 52)).alloc (.cells #[.bool false, .string (bs []), .int .i64 0] 52) = w1 at *
  have hw1 : w.heap.size + 1 < w1.heap.size := HZ0.out.lt
  with_reducible refine (HT.out _).mono ?_
  rintro e1 w2 ⟨rfl, rfl⟩
  clear HT
  obtain ⟨w3, hcv, hb3, hrow⟩ := conv_in w1 t
  have HWE := Lib.hid (withoutEnd_any t w1.heap.size (grownCap w1 t.size 0 5) w3 (by omega) (grownCap_ge _ _ _ _) (grownCap_le_maxLen _ _ _ _ (by unfold maxLen; omega)) hrow)
  have HRow := Lib.hid hrow
  have HB3 := Lib.hid (HB0.out.trans (hb3.mono (by omega)))
  have HD3 := Lib.hid (HD0.out.below hb3 HD0.out.lt)
  have HZ3 := Lib.hid (HZ0.out.below hb3 HZ0.out.lt)
  clear hb3 hrow HB0 HD0 HZ0
  generalize grownCap w1 t.size 0 5 = cp at *
  generalize w1.heap.size = q at *
  generalize hml : (endL (L8 t)).length = m at *
  have HM := Lib.hid hml
  clear hml
  go_wp2_with fail
  with_reducible refine HWE.out.mono ?_
  rintro e1 w4 ⟨rfl, rfl⟩
  clear HWE hcv
  have hw3 : w.heap.size + 1 < w3.heap.size := HZ3.out.lt
  have hz0 : w3.cell? ⟨w.heap.size + 1, 0, none⟩ = some (.bool false) := HZ3.out.cell 0
  have hz1 : w3.cell? ⟨w.heap.size + 1, 1, none⟩ = some (.string (bs [])) := HZ3.out.cell 1
  have hz2 : w3.cell? ⟨w.heap.size + 1, 2, none⟩ = some (.int .i64 0) := HZ3.out.cell 2
  have hf0 : w3.frozen? ⟨w.heap.size + 1, 0, none⟩ = false := HZ3.out.frozen 0
  have hf1 : w3.frozen? ⟨w.heap.size + 1, 1, none⟩ = false := HZ3.out.frozen 1
  have hf2 : w3.frozen? ⟨w.heap.size + 1, 2, none⟩ = false := HZ3.out.frozen 2
  by_cases hm0 : m = 0
  · subst hm0
    have hrr : zeroD = r := by
      rw [← HR.out]
      unfold normF
      rw [HF.out, if_pos (List.eq_nil_of_length_eq_zero HM.out)]
    subst hrr
    go_wp2
    refine bodyPost_ret (results_one Tryd.results40 _ _ (w.heap.size + 1) _ _ _ rfl (((HZ3.out.set' 0 (.bool false) rfl).set' 1 (.string (bs [])) rfl).set' 2 (.int .i64 0) rfl) Tryd.underlying52 rfl (by kernel_rfl)) rfl ?_
    exact ⟨rfl, ((HB3.out.setCell (by simp) _).setCell (by simp) _).setCell (by simp) _⟩
  · have hmb : ((m : Int) == 0) = false := by rw [beq_eq_false_iff_ne]; omega
    have hc0 : w3.cell? ⟨w.heap.size, 0, none⟩ = some (.bool n) := HD3.out.cell 0
    have hc2 : w3.cell? ⟨w.heap.size, 2, none⟩ = some (.int .i64 e) := HD3.out.cell 2
    have hcv2 := conv_out w3 t q m m hel HRow.out
    have hrr : (⟨n, (L8 t).take m, e + ((t.size : Int) - m)⟩ : Dc) = r := by
      rw [← HR.out]
      unfold normF
      dsimp only
      have he := HE.out
      rw [HF.out, if_neg (fun h => hm0 (by rw [← HM.out, h]; rfl)), HM.out, L8_len, ← he]
      congr 1
      omega
    have hcv3 : (L8 (bs ((L8 t).take m))) = (L8 t).take m := rfl
    rw [← hcv3] at hrr
    clear hcv3
    generalize bs ((L8 t).take m) = u at *
    subst hrr
    have hmn : ¬ m = 0 := hm0
    clear HR HM HE HF hm0
    go_wp2
    refine bodyPost_ret (results_one Tryd.results40 _ _ (w.heap.size + 1) _ _ _ rfl (((HZ3.out.set' 0 (.bool n) rfl).set' 1 (.string u) rfl).set' 2 (.int .i64 (e + ((t.size : Int) - m))) rfl) Tryd.underlying52 rfl (by kernel_rfl)) rfl ?_
    exact ⟨ret_dc n u _, ((HB3.out.setCell (by simp) _).setCell (by simp) _).setCell (by simp) _⟩
end Go.Proofs.YtiibfejgiilakaaDoor
