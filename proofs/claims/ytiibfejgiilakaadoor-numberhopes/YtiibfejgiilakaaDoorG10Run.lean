/- The document's run, Whole and Print of layer 10 by their contracts. -/
import Derived.Test.YtiibfejgiilakaaDoorG10Norm
import Derived.Deep.QuietTactic
import Derived.BigQuiet
import Derived.IntWalk
namespace Go.Proofs.YtiibfejgiilakaaDoor
set_option maxRecDepth 100000
open Go.ChangeShapes Go.WideShapes Go.ChangeAt Go.RowKit
set_option linter.unusedVariables false
set_option linter.unusedSimpArgs false

/-- how many digits stand at i -/
def runL (l : List UInt8) (i : Nat) : Nat := ((l.drop i).takeWhile isD).length
theorem tw_at {l : List UInt8} {k : Nat} (hk : k ≤ l.length) (h : allB (l.take k) = true) (hs : k = l.length ∨ ∃ c, l[k]? = some c ∧ isD c = false) : l.takeWhile isD = l.take k ∧ l.dropWhile isD = l.drop k := by
  have h1 := take_app (a := l.take k) (b := l.drop k) (fun c hc => List.all_eq_true.1 h c hc) (fun c hc => by
    rcases hs with hs | ⟨x, hx, hd⟩
    · rw [List.drop_eq_nil_of_le (by omega)] at hc; cases hc
    · rw [List.head?_drop, hx] at hc
      simp at hc; subst hc; exact hd)
  rwa [List.take_append_drop] at h1
theorem run_is {s : ByteArray} {i k : Nat} (hi : i + k ≤ s.size) (h : allB (((L8 s).drop i).take k) = true) (hs : i + k = s.size ∨ ∃ h : i + k < s.size, isD s[i + k] = false) : runL (L8 s) i = k := by
  unfold runL
  have hl : ((L8 s).drop i).length = s.size - i := by rw [List.length_drop, L8_len]
  have h1 := (tw_at (l := (L8 s).drop i) (k := k) (by omega) h (by
    rcases hs with hs | ⟨h2, hd⟩
    · exact .inl (by omega)
    · exact .inr ⟨s[i + k], by rw [List.getElem?_drop]; exact L8_at s (i + k) h2, hd⟩)).1
  rw [h1, List.length_take]; omega

set_option maxHeartbeats 2000000 in
theorem rrun_any (s : ByteArray) (i : Nat) (w : World) (hi : i ≤ s.size) (hs : s.size ≤ 1000000) : Calls Tryd.prog 42 #[.string s, .int .i64 i] w fun e w' => e = .returned (.int .i64 (runL (L8 s) i)) ∧ w = w' := by
  generalize hr : runL (L8 s) i = r
  have HR := Lib.hid hr
  clear hr
  go_enter Tryd.func42, Tryd.ntmps42
  go_wp2_with fail
  go_loop [5] (fun n => ∃ k : Nat, i + k ≤ s.size ∧ n = .int .i64 k ∧ allB (((L8 s).drop i).take k) = true) (fun n => s.size - (intOf n).toNat)
  case atStart => exact ⟨0, by omega, rfl, rfl⟩
  case round =>
    obtain ⟨k, hk, rfl, hal⟩ := hrel
    have HA := Lib.hid hal
    clear hal
    by_cases hlt : i + k < s.size
    · have hlt' : (i : Int) + (k : Int) < s.size := by omega
      have HT : Hid (((L8 s).drop i).take (k + 1) = ((L8 s).drop i).take k ++ [s[i + k]]) := Lib.hid (by
        rw [List.take_succ_eq_append_getElem (by rw [List.length_drop, L8_len]; omega), List.getElem_drop]; rfl)
      rcases isD_ask s[i + k] with ⟨hd, h1, h2, h3, h4⟩ | ⟨hd, h1, h3⟩ | ⟨hd, h1, h2, h3, h4⟩
      · have HD := Lib.hid hd
        clear hd
        go_wp2
        go_round
        case rel => exact ⟨k + 1, by omega, by go_num, by rw [HT.out, allB_snoc, HA.out, HD.out]; rfl⟩
        case measure => simp [intOf]; omega
      · have hrr : k = r := by rw [← HR.out]; exact (run_is hk HA.out (.inr ⟨hlt, hd⟩)).symm
        subst hrr
        clear hd HR HT
        go_wp2
        go_ret
        exact ⟨rfl, rfl⟩
      · have hrr : k = r := by rw [← HR.out]; exact (run_is hk HA.out (.inr ⟨hlt, hd⟩)).symm
        subst hrr
        clear hd HR HT
        go_wp2
        go_ret
        exact ⟨rfl, rfl⟩
    · have hlt' : ¬ (i : Int) + (k : Int) < s.size := by omega
      have hrr : k = r := by rw [← HR.out]; exact (run_is hk HA.out (.inl (by omega))).symm
      subst hrr
      clear HR
      go_wp2
      go_ret
      exact ⟨rfl, rfl⟩

theorem field_e (w : World) (x : Dc) : (Instr.field 52 (dcV x) 2).run Tryd.prog w = .ok (.int .i64 x.e) w := by kernel_rfl
set_option maxHeartbeats 1000000 in
theorem rwhole_any (x : Dc) (w : World) (hx : x.d.length ≤ 1000000) (he0 : -4000000000 ≤ x.e) (he1 : x.e ≤ 4000000000) : Calls Tryd.prog 27 #[dcV x] w fun e w' => e = .returned (.bool (wholeF x)) ∧ Below w.heap.size w w' := by
  have HN := Lib.hid (fun W => rnorm_any x W hx he0 he1)
  have HW : Hid (wholeF x = decide (0 ≤ (normF x).e)) := Lib.hid rfl
  have hfe := fun w => field_e w (normF x)
  generalize normF x = y at *
  generalize wholeF x = b at *
  have hb : b = decide (0 ≤ y.e) := HW.out
  subst hb
  clear HW
  obtain ⟨n, d, e⟩ := x
  unfold dcV at HN ⊢
  dsimp only at *
  go_enter Tryd.func27, Tryd.ntmps27
  go_wp2_with fail
  with_reducible refine (HN.out _).mono ?_
  rintro e1 w1 ⟨rfl, hb1⟩
  unfold dcV at hfe
  have HB : Hid (Below w.heap.size w w1) := Lib.hid (((Below.refl _ w).alloc (Nat.le_refl _) (.cells #[.bool n, .string (bs d), .int .i64 e] 52)).trans (hb1.mono (by rw [World.size_alloc]; omega)))
  clear hb1
  go_wp2
  go_ret
  exact ⟨rfl, HB.out⟩
end Go.Proofs.YtiibfejgiilakaaDoor
