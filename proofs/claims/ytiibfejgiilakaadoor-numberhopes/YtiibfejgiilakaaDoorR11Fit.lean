/- Printed by gen_r11fit.py. The document's fit of layer 11 by its contract. -/
import Derived.Test.YtiibfejgiilakaaDoorG11Mor2
import Derived.Test.YtiibfejgiilakaaDoorG10Print
namespace Go.Proofs.YtiibfejgiilakaaDoor
set_option maxRecDepth 100000
open Go.ChangeShapes Go.WideShapes Go.ChangeAt Go.RowKit
set_option linter.unusedVariables false
set_option linter.unusedSimpArgs false

def FitRes (r : Option (List UInt8)) (w : World) (e : Ending) (w' : World) : Prop := e = .returned (.string (bs (r.getD [110, 111, 110, 101]))) ∧ Below w.heap.size w w'
theorem fit_res {r : Option (List UInt8)} {l : List UInt8} {t : ByteArray} {w w' : World} (hr : r = some l) (ht : L8 t = l) (hb : Below w.heap.size w w') : FitRes r w (.returned (.string t)) w' := by
  refine ⟨?_, hb⟩
  rw [hr]
  show Ending.returned (.string t) = .returned (.string (bs l))
  rw [← ht, bs_L8]
theorem fit_none {r : Option (List UInt8)} {w w' : World} (hr : r = none) (hb : Below w.heap.size w w') : FitRes r w (.returned (.string ⟨#[110, 111, 110, 101]⟩)) w' := by
  refine ⟨?_, hb⟩
  rw [hr]
  rfl
/-- fit, its sign worked in -/
def fitG (x : List UInt8) (e : Int) : Option (List UInt8) :=
  if e < 0 then none
  else if frontL x = [] ∧ x ≠ [] ∧ e = 0 then some []
  else if frontL x = [] then some (printF e)
  else if (frontL x).length ≤ (printF e).length ∧ (printF e).take (frontL x).length = frontL x then some ((printF e).drop (frontL x).length)
  else none
theorem fit_g (neg : Bool) (x : List UInt8) (e : Int) : fitF neg x e = fitG x (if neg = true then -e else e) := rfl
set_option maxHeartbeats 8000000 in
theorem rfit_any (t : Nt) (e : Int) (w : World) (hx : t.x.length ≤ 1000) (he : -5000 ≤ e ∧ e ≤ 5000) : Calls Tryd.prog 33 #[partV t, .int .i64 e] w (FitRes (fitF (t.g == 45) t.x e) w) := by
  obtain ⟨e1, he1⟩ : ∃ e1, (if (t.g == 45) = true then -e else e) = e1 := ⟨_, rfl⟩
  rw [fit_g, he1]
  have hb1 : -5000 ≤ e1 ∧ e1 ≤ 5000 := by rw [← he1]; split <;> omega
  have hcs : (((t.g.toNat : Int) == 45) = true ∧ IntKind.i64.wrap (-e) = e1) ∨ (((t.g.toNat : Int) == 45) = false ∧ e = e1) := by
    have hgi : ((t.g.toNat : Int) == 45) = (t.g == 45) := by
      cases h : (t.g == 45) with
      | true =>
        have : t.g = 45 := by simpa using h
        rw [this]
        rfl
      | false =>
        have : t.g ≠ 45 := by simpa using h
        refine beq_eq_false_iff_ne.2 (fun h2 => this ?_)
        apply UInt8.toNat_inj.1
        have : (45 : UInt8).toNat = 45 := rfl
        omega
    rw [hgi]
    cases h : (t.g == 45) with
    | true =>
      left
      rw [h, if_pos rfl] at he1
      exact ⟨rfl, (IntWalk.i64_in _ (by omega)).trans he1⟩
    | false =>
      right
      rw [h, if_neg (by decide)] at he1
      exact ⟨rfl, he1⟩
  clear he1
  have HP : Hid (partV t = _) := Lib.hid (partV.eq_1 t)
  obtain ⟨p, n, d, b, g, x⟩ := t
  dsimp only at *
  rw [HP.out]
  try dsimp only
  clear HP
  generalize hr : fitG x e1 = r
  have HR := Lib.hid hr
  have hxs : (bs x).size = x.length := bs_size x
  have hxs2 : (bs x).size ≤ 1000 := by omega
  have HX : Hid (L8 (bs x) = x) := Lib.hid (L8_bs x)
  have HXS := Lib.hid hxs
  clear hxs
  generalize decide (6 ≤ p) = be at *
  generalize bs d = ds at *
  generalize bs x = xs at *
  have HPB0 : Hid (Blk (w.alloc (.cells #[.string ds, .int .i64 (b : Int), .bool be, .int .u8 (g.toNat : Int), .string xs] 55)) w.heap.size 55 #[.string ds, .int .i64 (b : Int), .bool be, .int .u8 (g.toNat : Int), .string xs]) := Lib.hid (Blk.new w _ _)
  have HB0 : Hid (Below w.heap.size w (w.alloc (.cells #[.string ds, .int .i64 (b : Int), .bool be, .int .u8 (g.toNat : Int), .string xs] 55))) := Lib.hid ((Below.refl _ _).alloc (Nat.le_refl _) _)
  clear hr
  generalize hgx : (g.toNat : Int) = gi at *
  clear hgx
  by_cases hneg : e1 < 0
  · have hrr : r = none := by rw [← HR.out]; unfold fitG; rw [if_pos hneg]
    clear HR
    rcases hcs with ⟨h1, h2⟩ | ⟨h1, h2⟩
    · go_enter Tryd.func33, Tryd.ntmps33
      go_wp2_with fail
      go_ret
      exact fit_none hrr HB0.out
    · rw [h2]
      clear h2
      go_enter Tryd.func33, Tryd.ntmps33
      go_wp2_with fail
      go_ret
      exact fit_none hrr HB0.out
  · have HPR := Lib.hid (fun W => rprint_any e1 (by omega) (by omega) W)
    have HWL : Hid (L8 (bs (printF e1)) = printF e1) := Lib.hid (L8_bs _)
    have hWs : (bs (printF e1)).size ≤ 20 := print_len (by omega) (by omega)
    generalize bs (printF e1) = Wt at *
    rcases hcs with ⟨h1, h2⟩ | ⟨h1, h2⟩
    · go_enter Tryd.func33, Tryd.ntmps33
      go_wp2_with fail
      with_reducible refine (HPR.out _).mono ?_
      rintro en w1 ⟨rfl, hst⟩
      have HPB1 : Hid (Blk w1 w.heap.size 55 #[.string ds, .int .i64 (b : Int), .bool be, .int .u8 gi, .string xs]) := Lib.hid (Blk.below HPB0.out hst.below (Blk.lt HPB0.out))
      have HB1 : Hid (Below w.heap.size w w1) := Lib.hid (HB0.out.trans (hst.lower _))
      have y4 : w1.cell? ⟨w.heap.size, 4, none⟩ = some (.string xs) := Blk.cell HPB1.out 4
      have hlw : w.heap.size < w1.heap.size := Blk.lt HPB1.out
      clear hst HPR HB0 HPB0
      go_wp2_with fail
      go_loop [6] (fun v => ∃ t : ByteArray, v = .string t ∧ t.size ≤ xs.size ∧ frontL (L8 t) = frontL (L8 xs)) (fun v => strLen (some v))
      case atStart => exact ⟨xs, rfl, Nat.le_refl _, rfl⟩
      case round =>
        obtain ⟨t, rfl, hle, hf⟩ := hrel
        have HF := Lib.hid hf
        clear hf
        by_cases h0 : 0 < t.size
        · have h0' : (0 : Int) < t.size := by omega
          rcases byte_is t[0] 48 48 rfl with ⟨hc, hcb⟩ | ⟨hc, hcb⟩
          · obtain ⟨hs1, hs2⟩ := front_step h0 hc
            have HS1 := Lib.hid hs1
            have HS2 := Lib.hid hs2
            clear hc hs1 hs2
            go_wp2
            go_round
            case rel => exact ⟨_, rfl, by have := HS2.out; omega, by rw [HS1.out, HF.out]⟩
            case measure =>
              have := HS2.out
              show (t.extract 1 t.size).size < t.size
              omega
          · have hft : frontL (L8 t) = L8 t := front_stop (.inr ⟨h0, hc⟩)
            have HT : Hid (L8 t = frontL x) := Lib.hid (by rw [← HX.out, ← HF.out, hft])
            have hne : ¬ frontL x = [] := fun h => by
              have := L8_len t
              rw [HT.out, h] at this
              simp at this
              omega
            have hlt2 : (frontL x).length = t.size := by rw [← HT.out, L8_len]
            have hwl : (printF e1).length = Wt.size := by rw [← HWL.out, L8_len]
            have hr2 : r = if t.size ≤ Wt.size ∧ (L8 Wt).take t.size = L8 t then some ((L8 Wt).drop t.size) else none := by
              rw [← HR.out]
              unfold fitG
              rw [if_neg (by omega), if_neg (fun h => hne h.1), if_neg hne, hlt2, hwl, ← HT.out, ← HWL.out]
            have hz : ((t.size : Int) == 0) = false := beq_eq_false_iff_ne.2 (by omega)
            have hz2 : t.size ≠ 0 := by omega
            have HR2 := Lib.hid hr2
            clear hft hne hlt2 hwl hr2 hc HF HX HR
            by_cases hle2 : t.size ≤ Wt.size
            · have hle2' : (t.size : Int) ≤ Wt.size := by omega
              obtain ⟨Y, hY⟩ : ∃ Y, Wt.extract 0 t.size = Y := ⟨_, rfl⟩
              obtain ⟨Z, hZ⟩ : ∃ Z, Wt.extract t.size Wt.size = Z := ⟨_, rfl⟩
              have hYL : L8 Y = (L8 Wt).take t.size := by rw [← hY, L8_cut, List.drop_zero]; rfl
              have hZL : L8 Z = (L8 Wt).drop t.size := by
                rw [← hZ, L8_cut]
                exact List.take_of_length_le (by rw [List.length_drop, L8_len]; exact Nat.le_refl _)
              have HZL := Lib.hid hZL
              by_cases hcmp : (L8 Wt).take t.size = L8 t
              · have hq : (Y.toList == t.toList) = true := by rw [L8_toList, L8_toList, hYL, hcmp]; simp
                have hr3 : r = some ((L8 Wt).drop t.size) := by rw [HR2.out, if_pos ⟨hle2, hcmp⟩]
                have HR3 := Lib.hid hr3
                clear hYL hZL hcmp hr3 HR2
                go_wp2_with fail
                go_ret
                exact fit_res HR3.out HZL.out HB1.out
              · have hq : (Y.toList == t.toList) = false := by rw [L8_toList, L8_toList, hYL]; simpa using hcmp
                have hr3 : r = none := by rw [HR2.out, if_neg (fun h => hcmp h.2)]
                have HR3 := Lib.hid hr3
                clear hYL hZL hcmp hr3 HR2
                go_wp2_with fail
                go_ret
                exact fit_none HR3.out HB1.out
            · have hle2' : ¬ (t.size : Int) ≤ Wt.size := by omega
              have hr3 : r = none := by rw [HR2.out, if_neg (fun h => hle2 h.1)]
              have HR3 := Lib.hid hr3
              clear hr3 HR2
              go_wp2_with fail
              go_ret
              exact fit_none HR3.out HB1.out
        · have hz0 : t.size = 0 := by omega
          have h0' : ¬ (0 : Int) < t.size := by omega
          have hft : frontL (L8 t) = L8 t := front_stop (.inl hz0)
          have hfx : frontL x = [] := by
            rw [← HX.out, ← HF.out, hft]
            exact List.eq_nil_of_length_eq_zero (by rw [L8_len]; exact hz0)
          have hz : ((t.size : Int) == 0) = true := beq_iff_eq.2 (by omega)
          by_cases hx0 : 0 < xs.size ∧ e1 = 0
          · obtain ⟨hx1, hx2⟩ := hx0
            have hx1' : (0 : Int) < xs.size := by omega
            have hb0 : (e1 == 0) = true := beq_iff_eq.2 hx2
            have hxn : x ≠ [] := fun h => by have hxs := HXS.out; rw [h, List.length_nil] at hxs; omega
            have hr3 : r = some [] := by rw [← HR.out]; unfold fitG; rw [if_neg (by omega), if_pos ⟨hfx, hxn, hx2⟩]
            have HR3 := Lib.hid hr3
            clear hft hfx hxn hr3 hx2 hz0 HF HX HR
            go_wp2_with fail
            go_ret
            exact fit_res HR3.out rfl HB1.out
          · have hr3 : r = some (printF e1) := by
              rw [← HR.out]
              unfold fitG
              rw [if_neg (by omega), if_neg (fun h => hx0 ⟨by rw [HXS.out]; exact List.length_pos_iff.2 h.2.1, h.2.2⟩), if_pos hfx]
            have HR3 := Lib.hid hr3
            clear hft hfx hr3 hz0 HF HX HR
            by_cases hx1 : 0 < xs.size
            · have hx1' : (0 : Int) < xs.size := by omega
              have hb0 : (e1 == 0) = false := beq_eq_false_iff_ne.2 (fun h => hx0 ⟨hx1, h⟩)
              clear hx0
              go_wp2_with fail
              go_ret
              exact fit_res HR3.out HWL.out HB1.out
            · have hx1' : ¬ (0 : Int) < xs.size := by omega
              clear hx0
              go_wp2_with fail
              go_ret
              exact fit_res HR3.out HWL.out HB1.out
    · rw [h2]
      clear h2
      go_enter Tryd.func33, Tryd.ntmps33
      go_wp2_with fail
      with_reducible refine (HPR.out _).mono ?_
      rintro en w1 ⟨rfl, hst⟩
      have HPB1 : Hid (Blk w1 w.heap.size 55 #[.string ds, .int .i64 (b : Int), .bool be, .int .u8 gi, .string xs]) := Lib.hid (Blk.below HPB0.out hst.below (Blk.lt HPB0.out))
      have HB1 : Hid (Below w.heap.size w w1) := Lib.hid (HB0.out.trans (hst.lower _))
      have y4 : w1.cell? ⟨w.heap.size, 4, none⟩ = some (.string xs) := Blk.cell HPB1.out 4
      have hlw : w.heap.size < w1.heap.size := Blk.lt HPB1.out
      clear hst HPR HB0 HPB0
      go_wp2_with fail
      go_loop [6] (fun v => ∃ t : ByteArray, v = .string t ∧ t.size ≤ xs.size ∧ frontL (L8 t) = frontL (L8 xs)) (fun v => strLen (some v))
      case atStart => exact ⟨xs, rfl, Nat.le_refl _, rfl⟩
      case round =>
        obtain ⟨t, rfl, hle, hf⟩ := hrel
        have HF := Lib.hid hf
        clear hf
        by_cases h0 : 0 < t.size
        · have h0' : (0 : Int) < t.size := by omega
          rcases byte_is t[0] 48 48 rfl with ⟨hc, hcb⟩ | ⟨hc, hcb⟩
          · obtain ⟨hs1, hs2⟩ := front_step h0 hc
            have HS1 := Lib.hid hs1
            have HS2 := Lib.hid hs2
            clear hc hs1 hs2
            go_wp2
            go_round
            case rel => exact ⟨_, rfl, by have := HS2.out; omega, by rw [HS1.out, HF.out]⟩
            case measure =>
              have := HS2.out
              show (t.extract 1 t.size).size < t.size
              omega
          · have hft : frontL (L8 t) = L8 t := front_stop (.inr ⟨h0, hc⟩)
            have HT : Hid (L8 t = frontL x) := Lib.hid (by rw [← HX.out, ← HF.out, hft])
            have hne : ¬ frontL x = [] := fun h => by
              have := L8_len t
              rw [HT.out, h] at this
              simp at this
              omega
            have hlt2 : (frontL x).length = t.size := by rw [← HT.out, L8_len]
            have hwl : (printF e1).length = Wt.size := by rw [← HWL.out, L8_len]
            have hr2 : r = if t.size ≤ Wt.size ∧ (L8 Wt).take t.size = L8 t then some ((L8 Wt).drop t.size) else none := by
              rw [← HR.out]
              unfold fitG
              rw [if_neg (by omega), if_neg (fun h => hne h.1), if_neg hne, hlt2, hwl, ← HT.out, ← HWL.out]
            have hz : ((t.size : Int) == 0) = false := beq_eq_false_iff_ne.2 (by omega)
            have hz2 : t.size ≠ 0 := by omega
            have HR2 := Lib.hid hr2
            clear hft hne hlt2 hwl hr2 hc HF HX HR
            by_cases hle2 : t.size ≤ Wt.size
            · have hle2' : (t.size : Int) ≤ Wt.size := by omega
              obtain ⟨Y, hY⟩ : ∃ Y, Wt.extract 0 t.size = Y := ⟨_, rfl⟩
              obtain ⟨Z, hZ⟩ : ∃ Z, Wt.extract t.size Wt.size = Z := ⟨_, rfl⟩
              have hYL : L8 Y = (L8 Wt).take t.size := by rw [← hY, L8_cut, List.drop_zero]; rfl
              have hZL : L8 Z = (L8 Wt).drop t.size := by
                rw [← hZ, L8_cut]
                exact List.take_of_length_le (by rw [List.length_drop, L8_len]; exact Nat.le_refl _)
              have HZL := Lib.hid hZL
              by_cases hcmp : (L8 Wt).take t.size = L8 t
              · have hq : (Y.toList == t.toList) = true := by rw [L8_toList, L8_toList, hYL, hcmp]; simp
                have hr3 : r = some ((L8 Wt).drop t.size) := by rw [HR2.out, if_pos ⟨hle2, hcmp⟩]
                have HR3 := Lib.hid hr3
                clear hYL hZL hcmp hr3 HR2
                go_wp2_with fail
                go_ret
                exact fit_res HR3.out HZL.out HB1.out
              · have hq : (Y.toList == t.toList) = false := by rw [L8_toList, L8_toList, hYL]; simpa using hcmp
                have hr3 : r = none := by rw [HR2.out, if_neg (fun h => hcmp h.2)]
                have HR3 := Lib.hid hr3
                clear hYL hZL hcmp hr3 HR2
                go_wp2_with fail
                go_ret
                exact fit_none HR3.out HB1.out
            · have hle2' : ¬ (t.size : Int) ≤ Wt.size := by omega
              have hr3 : r = none := by rw [HR2.out, if_neg (fun h => hle2 h.1)]
              have HR3 := Lib.hid hr3
              clear hr3 HR2
              go_wp2_with fail
              go_ret
              exact fit_none HR3.out HB1.out
        · have hz0 : t.size = 0 := by omega
          have h0' : ¬ (0 : Int) < t.size := by omega
          have hft : frontL (L8 t) = L8 t := front_stop (.inl hz0)
          have hfx : frontL x = [] := by
            rw [← HX.out, ← HF.out, hft]
            exact List.eq_nil_of_length_eq_zero (by rw [L8_len]; exact hz0)
          have hz : ((t.size : Int) == 0) = true := beq_iff_eq.2 (by omega)
          by_cases hx0 : 0 < xs.size ∧ e1 = 0
          · obtain ⟨hx1, hx2⟩ := hx0
            have hx1' : (0 : Int) < xs.size := by omega
            have hb0 : (e1 == 0) = true := beq_iff_eq.2 hx2
            have hxn : x ≠ [] := fun h => by have hxs := HXS.out; rw [h, List.length_nil] at hxs; omega
            have hr3 : r = some [] := by rw [← HR.out]; unfold fitG; rw [if_neg (by omega), if_pos ⟨hfx, hxn, hx2⟩]
            have HR3 := Lib.hid hr3
            clear hft hfx hxn hr3 hx2 hz0 HF HX HR
            go_wp2_with fail
            go_ret
            exact fit_res HR3.out rfl HB1.out
          · have hr3 : r = some (printF e1) := by
              rw [← HR.out]
              unfold fitG
              rw [if_neg (by omega), if_neg (fun h => hx0 ⟨by rw [HXS.out]; exact List.length_pos_iff.2 h.2.1, h.2.2⟩), if_pos hfx]
            have HR3 := Lib.hid hr3
            clear hft hfx hr3 hz0 HF HX HR
            by_cases hx1 : 0 < xs.size
            · have hx1' : (0 : Int) < xs.size := by omega
              have hb0 : (e1 == 0) = false := beq_eq_false_iff_ne.2 (fun h => hx0 ⟨hx1, h⟩)
              clear hx0
              go_wp2_with fail
              go_ret
              exact fit_res HR3.out HWL.out HB1.out
            · have hx1' : ¬ (0 : Int) < xs.size := by omega
              clear hx0
              go_wp2_with fail
              go_ret
              exact fit_res HR3.out HWL.out HB1.out
end Go.Proofs.YtiibfejgiilakaaDoor
