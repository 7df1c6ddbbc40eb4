/- Printed by gen_g10read.py. The document's Read of layer 10 by its contract. -/
import Derived.Test.YtiibfejgiilakaaDoorG10RdM
import Derived.Deep.CutRange
import Derived.StillTailTactics
namespace Go.Proofs.YtiibfejgiilakaaDoor
set_option maxRecDepth 100000
open Go.ChangeShapes Go.WideShapes Go.ChangeAt Go.RowKit
set_option linter.unusedVariables false
set_option linter.unusedSimpArgs false

def readV : Option Dc → Value
  | some x => .tuple #[dcV x, .bool true]
  | none => .tuple #[dcV zeroD, .bool false]
/-- what Read has in memory -/
structure Rd (w : World) (n : Bool) (ds : ByteArray) (e : Int) (W : World) : Prop where
  d : DcBlk W (w.heap.size + 1) n ds e
  z : DcBlk W w.heap.size false (bs []) 0
  b : Below w.heap.size w W
def RdC1 (w : World) (s : ByteArray) (r : Option Dc) (v4 : Value) (W : World) : Prop := ∃ (n : Bool) (i : Nat), v4 = .int .i64 i ∧ i ≤ s.size ∧ Rd w n (bs []) 0 W ∧ r = readW n ((L8 s).drop i)
def RdC5 (w : World) (s : ByteArray) (r : Option Dc) (v4 : Value) (W : World) : Prop := ∃ (n : Bool) (i : Nat) (ds : ByteArray) (e : Int), v4 = .int .i64 i ∧ i ≤ s.size ∧ Rd w n ds e W ∧ r = readE n (L8 ds) e ((L8 s).drop i) ∧ -1000000 ≤ e ∧ e ≤ 0 ∧ ds.size ≤ s.size
def RdC6 (w : World) (s : ByteArray) (r : Option Dc) (v4 : Value) (W : World) : Prop := ∃ (n : Bool) (i : Nat) (ds : ByteArray) (e : Int), v4 = .int .i64 i ∧ i ≤ s.size ∧ Rd w n ds e W ∧ r = endF n (L8 ds) e s i ∧ -2000000000 ≤ e ∧ e ≤ 2000000000 ∧ ds.size ≤ s.size
theorem Rd.drew {w W : World} {n : Bool} {ds : ByteArray} {e : Int} (h : Rd w n ds e W) : Rd w n ds e W.drew := ⟨h.d.drew, h.z.drew, h.b.drew⟩
theorem Rd.put {w W : World} {n : Bool} {ds ds' : ByteArray} {e : Int} (h : Rd w n ds e W) : Rd w n ds' e (W.setCell ⟨w.heap.size + 1, 1, none⟩ (.string ds')) := ⟨h.d.set' 1 _ rfl, h.z.far (by simp) _, h.b.setCell (by simp) _⟩
theorem Rd.putE {w W : World} {n : Bool} {ds : ByteArray} {e e' : Int} (h : Rd w n ds e W) : Rd w n ds e' (W.setCell ⟨w.heap.size + 1, 2, none⟩ (.int .i64 e')) := ⟨h.d.set' 2 _ rfl, h.z.far (by simp) _, h.b.setCell (by simp) _⟩
theorem Rd.putN {w W : World} {n n' : Bool} {ds : ByteArray} {e : Int} (h : Rd w n ds e W) : Rd w n' ds e (W.setCell ⟨w.heap.size + 1, 0, none⟩ (.bool n')) := ⟨h.d.set' 0 _ rfl, h.z.far (by simp) _, h.b.setCell (by simp) _⟩

/-- slot v: whether c stands at i -/
def ByteAt (s : ByteArray) (i : Nat) (c : UInt8) (v : Value) : Prop := (v = .bool true ∧ ∃ h : i < s.size, s[i] = c) ∨ (v = .bool false ∧ (s.size ≤ i ∨ ∃ h : i < s.size, s[i] ≠ c))
theorem ByteAt.end_ {s : ByteArray} {i : Nat} {c : UInt8} (h : s.size ≤ i) : ByteAt s i c (.bool false) := .inr ⟨rfl, .inl h⟩
theorem ByteAt.yes {s : ByteArray} {i : Nat} {c : UInt8} (h : i < s.size) (hc : s[i] = c) : ByteAt s i c (.bool true) := .inl ⟨rfl, h, hc⟩
theorem ByteAt.no {s : ByteArray} {i : Nat} {c : UInt8} (h : i < s.size) (hc : s[i] ≠ c) : ByteAt s i c (.bool false) := .inr ⟨rfl, .inr ⟨h, hc⟩⟩
theorem ByteAt.bool {s : ByteArray} {i : Nat} {c : UInt8} {v : Value} (h : ByteAt s i c v) : ∃ b, v = .bool b := by
  rcases h with ⟨h, _⟩ | ⟨h, _⟩
  · exact ⟨_, h⟩
  · exact ⟨_, h⟩
theorem at_cases (s : ByteArray) (i : Nat) (c : UInt8) (z : Int) (hz : (c.toNat : Int) = z) : (s.size ≤ i ∧ ¬ (i : Int) < s.size) ∨ (∃ h : i < s.size, (i : Int) < s.size ∧ s[i] = c ∧ ((s[i].toNat : Int) == z) = true) ∨ (∃ h : i < s.size, (i : Int) < s.size ∧ s[i] ≠ c ∧ ((s[i].toNat : Int) == z) = false) := by
  by_cases h : i < s.size
  · rcases byte_is s[i] c z hz with ⟨h1, h2⟩ | ⟨h1, h2⟩
    · exact .inr (.inl ⟨h, by omega, h1, h2⟩)
    · exact .inr (.inr ⟨h, by omega, h1, h2⟩)
  · exact .inl ⟨by omega, by omega⟩

set_option maxHeartbeats 16000000 in
theorem rread_any (s : ByteArray) (w : World) (hs : s.size ≤ 1000000) : Calls Tryd.prog 25 #[.string s] w fun e w' => e = .returned (readV (readF (L8 s))) ∧ Below w.heap.size w w' := by
  generalize hr : readF (L8 s) = r
  have HR := Lib.hid hr
  clear hr
  go_enter Tryd.func25, Tryd.ntmps25
  go_upto_region 3 with fail
  have hbs : (⟨#[]⟩ : ByteArray) = bs [] := rfl
  rw [hbs]
  clear hbs
  have HRd : Hid (Rd w false (bs []) 0 ((w.alloc (.cells #[.bool false, .string (bs []), .int .i64 0] 52)).alloc (.cells #[.bool false, .string (bs []), .int .i64 0] 52))) := Lib.hid ⟨by have h := Blk.new (w.alloc (.cells #[.bool false, .string (bs []), .int .i64 0] 52)) 52 #[.bool false, .string (bs []), .int .i64 0]; rwa [World.size_alloc] at h, (Blk.new w 52 _).alloc _, ((Below.refl _ _).alloc (Nat.le_refl _) _).alloc (by rw [World.size_alloc]; omega) _⟩
  generalize (w.alloc (.cells #[.bool false, .string (bs []), .int .i64 0] 52)).alloc (.cells #[.bool false, .string (bs []), .int .i64 0] 52) = w0 at *
  go_cut [20] from 11 to 20 (fun v W => ByteAt s 0 45 v ∧ W = w0)
  case first =>
    rcases at_cases s 0 45 45 rfl with ⟨h0, h0'⟩ | ⟨h0, h0', hc, hcb⟩ | ⟨h0, h0', hc, hcb⟩
    · have HC := Lib.hid (ByteAt.end_ (c := 45) h0)
      go_wp2_with fail
      go_meet
      case rel => exact ⟨HC.out, rfl⟩
    · have HC := Lib.hid (ByteAt.yes (c := 45) h0 hc)
      clear hc
      go_wp2_with fail
      go_meet
      case rel => exact ⟨HC.out, rfl⟩
    · have HC := Lib.hid (ByteAt.no (c := 45) h0 hc)
      clear hc
      go_wp2_with fail
      go_meet
      case rel => exact ⟨HC.out, rfl⟩
  case rest =>
  obtain ⟨hba, hwc⟩ := hcut
  subst hwc
  have HBA := Lib.hid hba
  clear hba
  go_upto_if 20 with fail
  go_cut [4] from 20 to 23 (fun v W => RdC1 w s r v W)
  case first =>
    have z0 : wc.frozen? ⟨w.heap.size + 1, 0, none⟩ = false := HRd.out.d.frozen 0
    have y0 : wc.cell? ⟨w.heap.size + 1, 0, none⟩ = some (.bool false) := HRd.out.d.cell 0
    rcases HBA.out with ⟨rfl, h0, hc⟩ | ⟨rfl, hno⟩
    · have HC := Lib.hid (rd_neg h0 hc)
      clear hc
      go_wp2_with fail
      go_meet
      case rel => exact ⟨true, 1, rfl, by omega, HRd.out.putN, by rw [← HR.out, HC.out]⟩
    · have HC : Hid (readF (L8 s) = readW false ((L8 s).drop 0)) := Lib.hid (rd_pos (by rcases hno with h | h; exact .inl (by omega); exact .inr h))
      clear hno
      go_wp2_with fail
      go_meet
      case rel => exact ⟨false, 0, rfl, by omega, HRd.out, by rw [← HR.out, HC.out]⟩
  case rest =>
  obtain ⟨n, i, hv4, hi, hrd, hrw⟩ := hcut
  subst hv4
  have HRD0 := Lib.hid hrd
  have HRW := Lib.hid hrw
  clear hrd hrw HRd HBA HR
  go_wp2_with fail
  with_reducible refine (rrun_any s i _ hi hs).mono ?_
  rintro e1 w1 ⟨rfl, rfl⟩
  have HR0 := Lib.hid (rd_none (s := s) (n := n) (i := i))
  have HR1 := Lib.hid (rd_whole (s := s) (n := n) (i := i))
  have hik := run_le8 (s := s) i hi
  generalize runL (L8 s) i = k at *
  go_upto_region 7 with fail
  go_cut [38] from 27 to 38 (fun v W => W = wc ∧ ((v = .bool true ∧ r = none) ∨ (v = .bool false ∧ 0 < k ∧ r = readP n (((L8 s).drop i).take k) ((L8 s).drop (i + k)))))
  case first =>
    by_cases hk0 : k = 0
    · have HC : Hid (r = none) := Lib.hid (by rw [HRW.out]; exact HR0.out (.inl hk0))
      subst hk0
      go_wp2_with fail
      go_meet
      case rel => exact ⟨rfl, .inl ⟨rfl, HC.out⟩⟩
    · have hk0' : ((k : Int) == 0) = false := by rw [beq_eq_false_iff_ne]; omega
      have hkp : 0 < k := by omega
      by_cases hk1 : 1 < k
      · have hk1' : decide ((1 : Int) < k) = true := decide_eq_true (by omega)
        have his : i < s.size := by omega
        have his' : (i : Int) < s.size := by omega
        rcases byte_is s[i] 48 48 rfl with ⟨hc, hcb⟩ | ⟨hc, hcb⟩
        · have HC : Hid (r = none) := Lib.hid (by rw [HRW.out]; exact HR0.out (.inr ⟨hk1, his, hc⟩))
          clear hc
          go_wp2_with fail
          go_meet
          case rel => exact ⟨rfl, .inl ⟨rfl, HC.out⟩⟩
        · have HC := Lib.hid (HRW.out.trans (HR1.out hk0 (.inr ⟨his, hc⟩)))
          clear hc
          go_wp2_with fail
          go_meet
          case rel => exact ⟨rfl, .inr ⟨rfl, hkp, HC.out⟩⟩
      · have hk1' : decide ((1 : Int) < k) = false := decide_eq_false (by omega)
        have HC := Lib.hid (HRW.out.trans (HR1.out hk0 (.inl (by omega))))
        go_wp2_with fail
        go_meet
        case rel => exact ⟨rfl, .inr ⟨rfl, hkp, HC.out⟩⟩
  case rest =>
  obtain ⟨hwc, hcs⟩ := hcut
  subst hwc
  clear HRW HR0 HR1
  rcases hcs with ⟨hu, hrn⟩ | ⟨hu, hkp, hrp⟩
  · subst hu hrn
    have HRD := Lib.hid HRD0.out
    clear HRD0
    have z0 : wc.frozen? ⟨w.heap.size, 0, none⟩ = false := HRD.out.z.frozen 0
    have z1 : wc.frozen? ⟨w.heap.size, 1, none⟩ = false := HRD.out.z.frozen 1
    have z2 : wc.frozen? ⟨w.heap.size, 2, none⟩ = false := HRD.out.z.frozen 2
    have y0 : wc.cell? ⟨w.heap.size, 0, none⟩ = some (.bool false) := HRD.out.z.cell 0
    have y1 : wc.cell? ⟨w.heap.size, 1, none⟩ = some (.string (bs [])) := HRD.out.z.cell 1
    have y2 : wc.cell? ⟨w.heap.size, 2, none⟩ = some (.int .i64 0) := HRD.out.z.cell 2
    go_wp2
    refine bodyPost_ret (results_blk Tryd.results25 _ _ w.heap.size _ _ _ rfl (((HRD.out.z.set' 0 (.bool false) rfl).set' 1 (.string (bs [])) rfl).set' 2 (.int .i64 0) rfl) Tryd.underlying52 rfl (by kernel_rfl)) rfl ?_
    exact ⟨rfl, ((HRD.out.b.setCell (by simp) _).setCell (by simp) _).setCell (by simp) _⟩
  subst hu
  have HRP := Lib.hid hrp
  clear hrp
  have z1 : wc.frozen? ⟨w.heap.size + 1, 1, none⟩ = false := HRD0.out.d.frozen 1
  have y1 : wc.cell? ⟨w.heap.size + 1, 1, none⟩ = some (.string (bs [])) := HRD0.out.d.cell 1
  have q1 : (i : Int) ≤ (i : Int) + (k : Int) := by omega
  have q2 : (i : Int) + (k : Int) ≤ (s.size : Int) := by omega
  have HDS : Hid (L8 (s.extract i (i + k)) = ((L8 s).drop i).take k) := Lib.hid (by rw [L8_cut, Nat.add_sub_cancel_left])
  have HDZ : Hid ((s.extract i (i + k)).size ≤ i + k) := Lib.hid (by rw [← L8_len, HDS.out, List.length_take, List.length_drop, L8_len]; omega)
  go_upto_region 11 with fail
  have HRD1 : Hid (Rd w n (s.extract i (i + k)) 0 (wc.setCell ⟨w.heap.size + 1, 1, none⟩ (.string (s.extract i (i + k))))) := Lib.hid HRD0.out.put
  clear z1 y1 q1 q2 HRD0
  obtain ⟨j, hj⟩ : ∃ j, j = i + k := ⟨_, rfl⟩
  have ej : (i : Int) + (k : Int) = (j : Int) := by omega
  rw [ej]
  rw [← hj] at HRD1 HRP HDS HDZ ⊢
  rw [← HDS.out] at HRP
  have hjs : j ≤ s.size := by omega
  clear ej HDS hik hi hj hkp
  generalize s.extract i j = ds at *
  generalize wc.setCell ⟨w.heap.size + 1, 1, none⟩ (.string ds) = wd at *
  go_cut [59] from 50 to 59 (fun v W => ByteAt s j 46 v ∧ W = wd)
  case first =>
    rcases at_cases s j 46 46 rfl with ⟨h0, h0'⟩ | ⟨h0, h0', hc, hcb⟩ | ⟨h0, h0', hc, hcb⟩
    · have HC := Lib.hid (ByteAt.end_ (c := 46) h0)
      go_wp2_with fail
      go_meet
      case rel => exact ⟨HC.out, rfl⟩
    · have HC := Lib.hid (ByteAt.yes (c := 46) h0 hc)
      clear hc
      go_wp2_with fail
      go_meet
      case rel => exact ⟨HC.out, rfl⟩
    · have HC := Lib.hid (ByteAt.no (c := 46) h0 hc)
      clear hc
      go_wp2_with fail
      go_meet
      case rel => exact ⟨HC.out, rfl⟩
  case rest =>
  obtain ⟨hba, hwc⟩ := hcut
  subst hwc
  have HBA := Lib.hid hba
  clear hba
  go_upto_if 59 with fail
  go_cut [4, 6] from 60 to 85 (fun v4 v6 W => RdC5 w s r v4 W ∧ ∃ m : Nat, v6 = .int .i64 m)
  case first =>
    rcases HBA.out with ⟨rfl, h0, hc⟩ | ⟨rfl, hno⟩
    · have HC := Lib.hid (HRP.out.trans (rd_P h0 hc))
      clear hc HBA HRP
      have HRUN : Hid (∀ W, Calls Tryd.prog 42 #[.string s, .int .i64 ((j : Int) + 1)] W fun e w' => e = .returned (.int .i64 (runL (L8 s) (j + 1))) ∧ W = w') := Lib.hid fun W => by
        have h := rrun_any s (j + 1) W (by omega) hs
        rwa [show (((j + 1 : Nat)) : Int) = (j : Int) + 1 from by omega] at h
      have hle := run_le8 (s := s) (j + 1) (by omega)
      generalize runL (L8 s) (j + 1) = k2 at *
      go_wp2_with fail
      with_reducible refine (HRUN.out _).mono ?_
      rintro e1 w1 ⟨rfl, rfl⟩
      by_cases hk : k2 = 0
      · have hk' : ((k2 : Int) == 0) = true := by simp [hk]
        have hrn : r = none := by rw [HC.out, if_pos hk]
        subst hrn
        have HRD := Lib.hid HRD1.out
        clear HC hk
        have z0 : wc.frozen? ⟨w.heap.size, 0, none⟩ = false := HRD.out.z.frozen 0
        have z1 : wc.frozen? ⟨w.heap.size, 1, none⟩ = false := HRD.out.z.frozen 1
        have z2 : wc.frozen? ⟨w.heap.size, 2, none⟩ = false := HRD.out.z.frozen 2
        have y0 : wc.cell? ⟨w.heap.size, 0, none⟩ = some (.bool false) := HRD.out.z.cell 0
        have y1 : wc.cell? ⟨w.heap.size, 1, none⟩ = some (.string (bs [])) := HRD.out.z.cell 1
        have y2 : wc.cell? ⟨w.heap.size, 2, none⟩ = some (.int .i64 0) := HRD.out.z.cell 2
        go_wp2
        refine bodyPost_ret (results_blk Tryd.results25 _ _ w.heap.size _ _ _ rfl (((HRD.out.z.set' 0 (.bool false) rfl).set' 1 (.string (bs [])) rfl).set' 2 (.int .i64 0) rfl) Tryd.underlying52 rfl (by kernel_rfl)) rfl ?_
        exact ⟨rfl, ((HRD.out.b.setCell (by simp) _).setCell (by simp) _).setCell (by simp) _⟩
      · have hk' : ((k2 : Int) == 0) = false := by rw [beq_eq_false_iff_ne]; omega
        rw [if_neg hk] at HC
        clear hk
        obtain ⟨X, hX⟩ : ∃ X, s.extract (j + 1) (j + 1 + k2) = X := ⟨_, rfl⟩
        have HD2 : Hid (L8 (ds ++ X) = L8 ds ++ ((L8 s).drop (j + 1)).take k2) := Lib.hid (by rw [← hX, L8_app, L8_cut, Nat.add_sub_cancel_left])
        have hxz : X.size = k2 := by rw [← hX, ← L8_len, L8_cut, Nat.add_sub_cancel_left, List.length_take, List.length_drop, L8_len]; omega
        have hdz := HDZ.out
        have hsum : ¬ ds.size + X.size > 9223372036854775807 := by omega
        have HXZ := Lib.hid hxz
        clear hxz
        have hw1 : IntKind.i64.wrap ((j : Int) + 1) = (j : Int) + 1 := IntWalk.i64_in _ (by omega)
        have hw2 : IntKind.i64.wrap ((j : Int) + 1 + (k2 : Int)) = (j : Int) + 1 + (k2 : Int) := IntWalk.i64_in _ (by omega)
        have q0 : (0 : Int) ≤ (j : Int) + 1 := by omega
        have q1 : (j : Int) + 1 ≤ (j : Int) + 1 + (k2 : Int) := by omega
        have q2 : (j : Int) + 1 + (k2 : Int) ≤ (s.size : Int) := by omega
        have q3 : ((j : Int) + 1).toNat = j + 1 := by omega
        have q4 : ((j : Int) + 1 + (k2 : Int)).toNat = j + 1 + k2 := by omega
        go_wp2_with fail
        refine wp_region_still_tail 12 (by kernel_rfl) (by kernel_rfl) ?_
        simp only [List.take_succ_cons, List.take_zero, List.drop_succ_cons, List.drop_zero]
        generalize hW1 : ({ wc with drawn := wc.drawn + 1 } : World) = W1
        have HRD2 : Hid (Rd w n ds 0 W1) := Lib.hid (by rw [← hW1]; exact HRD1.out.drew)
        clear hW1 HRD1
        have y1 : W1.cell? ⟨w.heap.size + 1, 1, none⟩ = some (.string ds) := HRD2.out.d.cell 1
        have z1 : W1.frozen? ⟨w.heap.size + 1, 1, none⟩ = false := HRD2.out.d.frozen 1
        have y2 : W1.cell? ⟨w.heap.size + 1, 2, none⟩ = some (.int .i64 0) := HRD2.out.d.cell 2
        have z2 : W1.frozen? ⟨w.heap.size + 1, 2, none⟩ = false := HRD2.out.d.frozen 2
        repeat still_step
        refine wpStill_nil ?_
        go_wp2_with fail
        go_meet
        case rel => exact ⟨⟨n, j + 1 + k2, ds ++ X, -(k2 : Int), by go_num, by omega, HRD2.out.put.putE, by rw [HD2.out]; exact HC.out, by omega, by omega, by rw [ByteArray.size_append]; have := HXZ.out; omega⟩, k2, rfl⟩
    · have HC := Lib.hid (HRP.out.trans (rd_noP hno))
      clear hno HBA HRP
      go_wp2_with fail
      go_meet
      case rel => exact ⟨⟨n, j, ds, 0, rfl, hjs, HRD1.out, HC.out, by omega, by omega, Nat.le_trans HDZ.out hjs⟩, _, rfl⟩
  case rest =>
  obtain ⟨⟨n', j', ds', e5, hv4, hj5, hrd5, hr5, he50, he51, hds5⟩, m6, hv6⟩ := hcut
  subst hv4 hv6
  have HRD5 := Lib.hid hrd5
  have HRE := Lib.hid hr5
  clear hrd5 hr5 HRD1 HRP HBA HDZ hjs
  rename_i jj dd
  generalize j' = j at *
  go_upto_region 18 with fail
  go_cut [101] from 86 to 101 (fun v W => W = wc ∧ ((v = .bool true ∧ ∃ h : j < s.size, s[j] = 101 ∨ s[j] = 69) ∨ (v = .bool false ∧ (s.size ≤ j ∨ ∃ h : j < s.size, s[j] ≠ 101 ∧ s[j] ≠ 69))))
  case first =>
    rcases at_cases s j 101 101 rfl with ⟨h0, h0'⟩ | ⟨h0, h0', hc, hcb⟩ | ⟨h0, h0', hc, hcb⟩
    · have HC : Hid (s.size ≤ j ∨ ∃ h : j < s.size, s[j] ≠ 101 ∧ s[j] ≠ 69) := Lib.hid (.inl h0)
      go_wp2_with fail
      go_meet
      case rel => exact ⟨rfl, .inr ⟨rfl, HC.out⟩⟩
    · have HC : Hid (∃ h : j < s.size, s[j] = 101 ∨ s[j] = 69) := Lib.hid ⟨h0, .inl hc⟩
      clear hc
      go_wp2_with fail
      go_meet
      case rel => exact ⟨rfl, .inl ⟨rfl, HC.out⟩⟩
    · rcases byte_is s[j] 69 69 rfl with ⟨hd, hdb⟩ | ⟨hd, hdb⟩
      · have HC : Hid (∃ h : j < s.size, s[j] = 101 ∨ s[j] = 69) := Lib.hid ⟨h0, .inr hd⟩
        clear hc hd
        go_wp2_with fail
        go_meet
        case rel => exact ⟨rfl, .inl ⟨rfl, HC.out⟩⟩
      · have HC : Hid (s.size ≤ j ∨ ∃ h : j < s.size, s[j] ≠ 101 ∧ s[j] ≠ 69) := Lib.hid (.inr ⟨h0, hc, hd⟩)
        clear hc hd
        go_wp2_with fail
        go_meet
        case rel => exact ⟨rfl, .inr ⟨rfl, HC.out⟩⟩
  case rest =>
  obtain ⟨hwc, hcs⟩ := hcut
  subst hwc
  have HCS := Lib.hid hcs
  clear hcs
  go_upto_if 101 with fail
  go_cut [4, 6, 7, 8, 9] from 102 to 165 (fun v4 v6 v7 v8 v9 W => RdC6 w s r v4 W)
  case first =>
    rcases HCS.out with ⟨rfl, h0, hce⟩ | ⟨rfl, hno⟩
    · have hjj' : (j : Int) < s.size := by omega
      rcases at_cases s (j + 1) 45 45 rfl with ⟨h1, h1'⟩ | ⟨h1, h1', hc, hcb⟩ | ⟨h1, h1', hc, hcb⟩
      · have e1 : (((j + 1 : Nat)) : Int) = (j : Int) + 1 := by omega
        rw [e1] at h1'
        clear e1
        obtain ⟨q, hq⟩ : ∃ q, q = j + 1 := ⟨_, rfl⟩
        have HCE := Lib.hid (HRE.out.trans (rd_E (j1 := q) (m := false) h0 hce (.inr (.inr ⟨.inl h1, rfl, hq⟩))))
        clear hce
        have EQ1 : Hid ((j : Int) + 1 = (q : Int)) := Lib.hid (by omega)
        have hqs : q ≤ s.size := by omega
        have HRUN := Lib.hid (fun W => rrun_any s q W hqs hs)
        have hle := run_le8 (s := s) q hqs
        have HAL : Hid (allD (((L8 s).drop q).take (runL (L8 s) q))) := Lib.hid (by rw [← (run_tw (L8 s) q).1]; exact fun c hc => List.all_eq_true.1 List.all_takeWhile c hc)
        generalize runL (L8 s) q = k3 at *
        clear hq HRE HCS
        go_wp2_with fail
        rw [EQ1.out]
        clear EQ1
        with_reducible refine (HRUN.out _).mono ?_
        rintro e1 w1 ⟨rfl, rfl⟩
        by_cases hk : k3 = 0
        · have hk' : ((k3 : Int) == 0) = true := by simp [hk]
          have hrn : r = none := by rw [HCE.out, if_pos hk]
          subst hrn
          have HRD := Lib.hid HRD5.out
          clear HCE hk
          have z0 : wc.frozen? ⟨w.heap.size, 0, none⟩ = false := HRD.out.z.frozen 0
          have z1 : wc.frozen? ⟨w.heap.size, 1, none⟩ = false := HRD.out.z.frozen 1
          have z2 : wc.frozen? ⟨w.heap.size, 2, none⟩ = false := HRD.out.z.frozen 2
          have y0 : wc.cell? ⟨w.heap.size, 0, none⟩ = some (.bool false) := HRD.out.z.cell 0
          have y1 : wc.cell? ⟨w.heap.size, 1, none⟩ = some (.string (bs [])) := HRD.out.z.cell 1
          have y2 : wc.cell? ⟨w.heap.size, 2, none⟩ = some (.int .i64 0) := HRD.out.z.cell 2
          go_wp2
          refine bodyPost_ret (results_blk Tryd.results25 _ _ w.heap.size _ _ _ rfl (((HRD.out.z.set' 0 (.bool false) rfl).set' 1 (.string (bs [])) rfl).set' 2 (.int .i64 0) rfl) Tryd.underlying52 rfl (by kernel_rfl)) rfl ?_
          exact ⟨rfl, ((HRD.out.b.setCell (by simp) _).setCell (by simp) _).setCell (by simp) _⟩
        · have hk' : ((k3 : Int) == 0) = false := by rw [beq_eq_false_iff_ne]; omega
          rw [if_neg hk] at HCE
          clear hk
          go_wp2_with fail
          go_loop [8, 9] (fun v8 v9 => ∃ t : Nat, t ≤ k3 ∧ v9 = .int .i64 ((q + t : Nat) : Int) ∧ v8 = .int .i64 (exF (((L8 s).drop q).take t) : Int)) (fun _ v9 => q + k3 - (intOf v9).toNat)
          case atStart => exact ⟨0, by omega, rfl, rfl⟩
          case round =>
            obtain ⟨t, ht, rfl, rfl⟩ := hrel
            have hN := exF_le (((L8 s).drop q).take t)
            by_cases hlt : t < k3
            · have hlt' : (((q + t : Nat)) : Int) < (q : Int) + (k3 : Int) := by omega
              have hqt : q + t < s.size := by omega
              have hqt' : (((q + t : Nat)) : Int) < s.size := by omega
              have hget : (((L8 s).drop q).take (t + 1)) = ((L8 s).drop q).take t ++ [s[q + t]] := by
                rw [List.take_succ_eq_append_getElem (by rw [List.length_drop, L8_len]; omega), List.getElem_drop]; rfl
              have HT : Hid (exF (((L8 s).drop q).take (t + 1)) = min (10 * exF (((L8 s).drop q).take t) + dv s[q + t]) 1000000000) := Lib.hid (by rw [hget, exF_snoc])
              have hdg := isD_lo.1 (HAL.out s[q + t] (by
                have h1 : s[q + t] ∈ ((L8 s).drop q).take (t + 1) := by rw [hget]; simp
                have h2 : ((L8 s).drop q).take (t + 1) = (((L8 s).drop q).take k3).take (t + 1) := by rw [List.take_take]; congr 1; omega
                rw [h2] at h1
                exact List.mem_of_mem_take h1))
              obtain ⟨hd1, hd2⟩ := hdg
              clear hget
              generalize exF (((L8 s).drop q).take t) = N at *
              go_wp2
              go_round
              case rel => exact ⟨t + 1, by omega, by go_num, by rw [HT.out]; unfold dv; exact congrArg (Value.int .i64) (by split <;> omega)⟩
              case measure => simp [intOf]; omega
            · obtain rfl : t = k3 := by omega
              have hlt' : ¬ (((q + t : Nat)) : Int) < (q : Int) + (t : Int) := by omega
              have z2 : wc.frozen? ⟨w.heap.size + 1, 2, none⟩ = false := HRD5.out.d.frozen 2
              have y2 : wc.cell? ⟨w.heap.size + 1, 2, none⟩ = some (.int .i64 e5) := HRD5.out.d.cell 2
              generalize exF (((L8 s).drop q).take t) = N at *
              go_wp2_with fail
              go_meet
              case rel => exact ⟨n', q + t, ds', _, by go_num, hle, HRD5.out.putE, HCE.out, by omega, by omega, hds5⟩
      · have e1 : (((j + 1 : Nat)) : Int) = (j : Int) + 1 := by omega
        rw [e1] at h1'
        clear e1
        obtain ⟨q, hq⟩ : ∃ q, q = j + 2 := ⟨_, rfl⟩
        have HCE := Lib.hid (HRE.out.trans (rd_E (j1 := q) (m := true) h0 hce (.inl ⟨h1, hc, rfl, hq⟩)))
        clear hce hc
        have EQ1 : Hid ((j : Int) + 1 + 1 = (q : Int)) := Lib.hid (by omega)
        have hqs : q ≤ s.size := by omega
        have HRUN := Lib.hid (fun W => rrun_any s q W hqs hs)
        have hle := run_le8 (s := s) q hqs
        have HAL : Hid (allD (((L8 s).drop q).take (runL (L8 s) q))) := Lib.hid (by rw [← (run_tw (L8 s) q).1]; exact fun c hc => List.all_eq_true.1 List.all_takeWhile c hc)
        generalize runL (L8 s) q = k3 at *
        clear hq HRE HCS
        go_wp2_with fail
        rw [EQ1.out]
        clear EQ1
        with_reducible refine (HRUN.out _).mono ?_
        rintro e1 w1 ⟨rfl, rfl⟩
        by_cases hk : k3 = 0
        · have hk' : ((k3 : Int) == 0) = true := by simp [hk]
          have hrn : r = none := by rw [HCE.out, if_pos hk]
          subst hrn
          have HRD := Lib.hid HRD5.out
          clear HCE hk
          have z0 : wc.frozen? ⟨w.heap.size, 0, none⟩ = false := HRD.out.z.frozen 0
          have z1 : wc.frozen? ⟨w.heap.size, 1, none⟩ = false := HRD.out.z.frozen 1
          have z2 : wc.frozen? ⟨w.heap.size, 2, none⟩ = false := HRD.out.z.frozen 2
          have y0 : wc.cell? ⟨w.heap.size, 0, none⟩ = some (.bool false) := HRD.out.z.cell 0
          have y1 : wc.cell? ⟨w.heap.size, 1, none⟩ = some (.string (bs [])) := HRD.out.z.cell 1
          have y2 : wc.cell? ⟨w.heap.size, 2, none⟩ = some (.int .i64 0) := HRD.out.z.cell 2
          go_wp2
          refine bodyPost_ret (results_blk Tryd.results25 _ _ w.heap.size _ _ _ rfl (((HRD.out.z.set' 0 (.bool false) rfl).set' 1 (.string (bs [])) rfl).set' 2 (.int .i64 0) rfl) Tryd.underlying52 rfl (by kernel_rfl)) rfl ?_
          exact ⟨rfl, ((HRD.out.b.setCell (by simp) _).setCell (by simp) _).setCell (by simp) _⟩
        · have hk' : ((k3 : Int) == 0) = false := by rw [beq_eq_false_iff_ne]; omega
          rw [if_neg hk] at HCE
          clear hk
          go_wp2_with fail
          go_loop [8, 9] (fun v8 v9 => ∃ t : Nat, t ≤ k3 ∧ v9 = .int .i64 ((q + t : Nat) : Int) ∧ v8 = .int .i64 (exF (((L8 s).drop q).take t) : Int)) (fun _ v9 => q + k3 - (intOf v9).toNat)
          case atStart => exact ⟨0, by omega, rfl, rfl⟩
          case round =>
            obtain ⟨t, ht, rfl, rfl⟩ := hrel
            have hN := exF_le (((L8 s).drop q).take t)
            by_cases hlt : t < k3
            · have hlt' : (((q + t : Nat)) : Int) < (q : Int) + (k3 : Int) := by omega
              have hqt : q + t < s.size := by omega
              have hqt' : (((q + t : Nat)) : Int) < s.size := by omega
              have hget : (((L8 s).drop q).take (t + 1)) = ((L8 s).drop q).take t ++ [s[q + t]] := by
                rw [List.take_succ_eq_append_getElem (by rw [List.length_drop, L8_len]; omega), List.getElem_drop]; rfl
              have HT : Hid (exF (((L8 s).drop q).take (t + 1)) = min (10 * exF (((L8 s).drop q).take t) + dv s[q + t]) 1000000000) := Lib.hid (by rw [hget, exF_snoc])
              have hdg := isD_lo.1 (HAL.out s[q + t] (by
                have h1 : s[q + t] ∈ ((L8 s).drop q).take (t + 1) := by rw [hget]; simp
                have h2 : ((L8 s).drop q).take (t + 1) = (((L8 s).drop q).take k3).take (t + 1) := by rw [List.take_take]; congr 1; omega
                rw [h2] at h1
                exact List.mem_of_mem_take h1))
              obtain ⟨hd1, hd2⟩ := hdg
              clear hget
              generalize exF (((L8 s).drop q).take t) = N at *
              go_wp2
              go_round
              case rel => exact ⟨t + 1, by omega, by go_num, by rw [HT.out]; unfold dv; exact congrArg (Value.int .i64) (by split <;> omega)⟩
              case measure => simp [intOf]; omega
            · obtain rfl : t = k3 := by omega
              have hlt' : ¬ (((q + t : Nat)) : Int) < (q : Int) + (t : Int) := by omega
              have z2 : wc.frozen? ⟨w.heap.size + 1, 2, none⟩ = false := HRD5.out.d.frozen 2
              have y2 : wc.cell? ⟨w.heap.size + 1, 2, none⟩ = some (.int .i64 e5) := HRD5.out.d.cell 2
              generalize exF (((L8 s).drop q).take t) = N at *
              go_wp2_with fail
              go_meet
              case rel => exact ⟨n', q + t, ds', _, by go_num, hle, HRD5.out.putE, HCE.out, by omega, by omega, hds5⟩
      · have e1 : (((j + 1 : Nat)) : Int) = (j : Int) + 1 := by omega
        rw [e1] at h1'
        clear e1
        rcases byte_is s[j + 1] 43 43 rfl with ⟨hd, hdb⟩ | ⟨hd, hdb⟩
        · skip
          obtain ⟨q, hq⟩ : ∃ q, q = j + 2 := ⟨_, rfl⟩
          have HCE := Lib.hid (HRE.out.trans (rd_E (j1 := q) (m := false) h0 hce (.inr (.inl ⟨h1, hd, rfl, hq⟩))))
          clear hce hc hd
          have EQ1 : Hid ((j : Int) + 1 + 1 = (q : Int)) := Lib.hid (by omega)
          have hqs : q ≤ s.size := by omega
          have HRUN := Lib.hid (fun W => rrun_any s q W hqs hs)
          have hle := run_le8 (s := s) q hqs
          have HAL : Hid (allD (((L8 s).drop q).take (runL (L8 s) q))) := Lib.hid (by rw [← (run_tw (L8 s) q).1]; exact fun c hc => List.all_eq_true.1 List.all_takeWhile c hc)
          generalize runL (L8 s) q = k3 at *
          clear hq HRE HCS
          go_wp2_with fail
          rw [EQ1.out]
          clear EQ1
          with_reducible refine (HRUN.out _).mono ?_
          rintro e1 w1 ⟨rfl, rfl⟩
          by_cases hk : k3 = 0
          · have hk' : ((k3 : Int) == 0) = true := by simp [hk]
            have hrn : r = none := by rw [HCE.out, if_pos hk]
            subst hrn
            have HRD := Lib.hid HRD5.out
            clear HCE hk
            have z0 : wc.frozen? ⟨w.heap.size, 0, none⟩ = false := HRD.out.z.frozen 0
            have z1 : wc.frozen? ⟨w.heap.size, 1, none⟩ = false := HRD.out.z.frozen 1
            have z2 : wc.frozen? ⟨w.heap.size, 2, none⟩ = false := HRD.out.z.frozen 2
            have y0 : wc.cell? ⟨w.heap.size, 0, none⟩ = some (.bool false) := HRD.out.z.cell 0
            have y1 : wc.cell? ⟨w.heap.size, 1, none⟩ = some (.string (bs [])) := HRD.out.z.cell 1
            have y2 : wc.cell? ⟨w.heap.size, 2, none⟩ = some (.int .i64 0) := HRD.out.z.cell 2
            go_wp2
            refine bodyPost_ret (results_blk Tryd.results25 _ _ w.heap.size _ _ _ rfl (((HRD.out.z.set' 0 (.bool false) rfl).set' 1 (.string (bs [])) rfl).set' 2 (.int .i64 0) rfl) Tryd.underlying52 rfl (by kernel_rfl)) rfl ?_
            exact ⟨rfl, ((HRD.out.b.setCell (by simp) _).setCell (by simp) _).setCell (by simp) _⟩
          · have hk' : ((k3 : Int) == 0) = false := by rw [beq_eq_false_iff_ne]; omega
            rw [if_neg hk] at HCE
            clear hk
            go_wp2_with fail
            go_loop [8, 9] (fun v8 v9 => ∃ t : Nat, t ≤ k3 ∧ v9 = .int .i64 ((q + t : Nat) : Int) ∧ v8 = .int .i64 (exF (((L8 s).drop q).take t) : Int)) (fun _ v9 => q + k3 - (intOf v9).toNat)
            case atStart => exact ⟨0, by omega, rfl, rfl⟩
            case round =>
              obtain ⟨t, ht, rfl, rfl⟩ := hrel
              have hN := exF_le (((L8 s).drop q).take t)
              by_cases hlt : t < k3
              · have hlt' : (((q + t : Nat)) : Int) < (q : Int) + (k3 : Int) := by omega
                have hqt : q + t < s.size := by omega
                have hqt' : (((q + t : Nat)) : Int) < s.size := by omega
                have hget : (((L8 s).drop q).take (t + 1)) = ((L8 s).drop q).take t ++ [s[q + t]] := by
                  rw [List.take_succ_eq_append_getElem (by rw [List.length_drop, L8_len]; omega), List.getElem_drop]; rfl
                have HT : Hid (exF (((L8 s).drop q).take (t + 1)) = min (10 * exF (((L8 s).drop q).take t) + dv s[q + t]) 1000000000) := Lib.hid (by rw [hget, exF_snoc])
                have hdg := isD_lo.1 (HAL.out s[q + t] (by
                  have h1 : s[q + t] ∈ ((L8 s).drop q).take (t + 1) := by rw [hget]; simp
                  have h2 : ((L8 s).drop q).take (t + 1) = (((L8 s).drop q).take k3).take (t + 1) := by rw [List.take_take]; congr 1; omega
                  rw [h2] at h1
                  exact List.mem_of_mem_take h1))
                obtain ⟨hd1, hd2⟩ := hdg
                clear hget
                generalize exF (((L8 s).drop q).take t) = N at *
                go_wp2
                go_round
                case rel => exact ⟨t + 1, by omega, by go_num, by rw [HT.out]; unfold dv; exact congrArg (Value.int .i64) (by split <;> omega)⟩
                case measure => simp [intOf]; omega
              · obtain rfl : t = k3 := by omega
                have hlt' : ¬ (((q + t : Nat)) : Int) < (q : Int) + (t : Int) := by omega
                have z2 : wc.frozen? ⟨w.heap.size + 1, 2, none⟩ = false := HRD5.out.d.frozen 2
                have y2 : wc.cell? ⟨w.heap.size + 1, 2, none⟩ = some (.int .i64 e5) := HRD5.out.d.cell 2
                generalize exF (((L8 s).drop q).take t) = N at *
                go_wp2_with fail
                go_meet
                case rel => exact ⟨n', q + t, ds', _, by go_num, hle, HRD5.out.putE, HCE.out, by omega, by omega, hds5⟩
        · skip
          obtain ⟨q, hq⟩ : ∃ q, q = j + 1 := ⟨_, rfl⟩
          have HCE := Lib.hid (HRE.out.trans (rd_E (j1 := q) (m := false) h0 hce (.inr (.inr ⟨.inr ⟨h1, hc, hd⟩, rfl, hq⟩))))
          clear hce hc hd
          have EQ1 : Hid ((j : Int) + 1 = (q : Int)) := Lib.hid (by omega)
          have hqs : q ≤ s.size := by omega
          have HRUN := Lib.hid (fun W => rrun_any s q W hqs hs)
          have hle := run_le8 (s := s) q hqs
          have HAL : Hid (allD (((L8 s).drop q).take (runL (L8 s) q))) := Lib.hid (by rw [← (run_tw (L8 s) q).1]; exact fun c hc => List.all_eq_true.1 List.all_takeWhile c hc)
          generalize runL (L8 s) q = k3 at *
          clear hq HRE HCS
          go_wp2_with fail
          generalize (s[j + 1].toNat) = bb at *
          rw [EQ1.out]
          clear EQ1
          with_reducible refine (HRUN.out _).mono ?_
          rintro e1 w1 ⟨rfl, rfl⟩
          by_cases hk : k3 = 0
          · have hk' : ((k3 : Int) == 0) = true := by simp [hk]
            have hrn : r = none := by rw [HCE.out, if_pos hk]
            subst hrn
            have HRD := Lib.hid HRD5.out
            clear HCE hk
            have z0 : wc.frozen? ⟨w.heap.size, 0, none⟩ = false := HRD.out.z.frozen 0
            have z1 : wc.frozen? ⟨w.heap.size, 1, none⟩ = false := HRD.out.z.frozen 1
            have z2 : wc.frozen? ⟨w.heap.size, 2, none⟩ = false := HRD.out.z.frozen 2
            have y0 : wc.cell? ⟨w.heap.size, 0, none⟩ = some (.bool false) := HRD.out.z.cell 0
            have y1 : wc.cell? ⟨w.heap.size, 1, none⟩ = some (.string (bs [])) := HRD.out.z.cell 1
            have y2 : wc.cell? ⟨w.heap.size, 2, none⟩ = some (.int .i64 0) := HRD.out.z.cell 2
            go_wp2
            refine bodyPost_ret (results_blk Tryd.results25 _ _ w.heap.size _ _ _ rfl (((HRD.out.z.set' 0 (.bool false) rfl).set' 1 (.string (bs [])) rfl).set' 2 (.int .i64 0) rfl) Tryd.underlying52 rfl (by kernel_rfl)) rfl ?_
            exact ⟨rfl, ((HRD.out.b.setCell (by simp) _).setCell (by simp) _).setCell (by simp) _⟩
          · have hk' : ((k3 : Int) == 0) = false := by rw [beq_eq_false_iff_ne]; omega
            rw [if_neg hk] at HCE
            clear hk
            go_wp2_with fail
            go_loop [8, 9] (fun v8 v9 => ∃ t : Nat, t ≤ k3 ∧ v9 = .int .i64 ((q + t : Nat) : Int) ∧ v8 = .int .i64 (exF (((L8 s).drop q).take t) : Int)) (fun _ v9 => q + k3 - (intOf v9).toNat)
            case atStart => exact ⟨0, by omega, rfl, rfl⟩
            case round =>
              obtain ⟨t, ht, rfl, rfl⟩ := hrel
              have hN := exF_le (((L8 s).drop q).take t)
              by_cases hlt : t < k3
              · have hlt' : (((q + t : Nat)) : Int) < (q : Int) + (k3 : Int) := by omega
                have hqt : q + t < s.size := by omega
                have hqt' : (((q + t : Nat)) : Int) < s.size := by omega
                have hget : (((L8 s).drop q).take (t + 1)) = ((L8 s).drop q).take t ++ [s[q + t]] := by
                  rw [List.take_succ_eq_append_getElem (by rw [List.length_drop, L8_len]; omega), List.getElem_drop]; rfl
                have HT : Hid (exF (((L8 s).drop q).take (t + 1)) = min (10 * exF (((L8 s).drop q).take t) + dv s[q + t]) 1000000000) := Lib.hid (by rw [hget, exF_snoc])
                have hdg := isD_lo.1 (HAL.out s[q + t] (by
                  have h1 : s[q + t] ∈ ((L8 s).drop q).take (t + 1) := by rw [hget]; simp
                  have h2 : ((L8 s).drop q).take (t + 1) = (((L8 s).drop q).take k3).take (t + 1) := by rw [List.take_take]; congr 1; omega
                  rw [h2] at h1
                  exact List.mem_of_mem_take h1))
                obtain ⟨hd1, hd2⟩ := hdg
                clear hget
                generalize exF (((L8 s).drop q).take t) = N at *
                go_wp2
                go_round
                case rel => exact ⟨t + 1, by omega, by go_num, by rw [HT.out]; unfold dv; exact congrArg (Value.int .i64) (by split <;> omega)⟩
                case measure => simp [intOf]; omega
              · obtain rfl : t = k3 := by omega
                have hlt' : ¬ (((q + t : Nat)) : Int) < (q : Int) + (t : Int) := by omega
                have z2 : wc.frozen? ⟨w.heap.size + 1, 2, none⟩ = false := HRD5.out.d.frozen 2
                have y2 : wc.cell? ⟨w.heap.size + 1, 2, none⟩ = some (.int .i64 e5) := HRD5.out.d.cell 2
                generalize exF (((L8 s).drop q).take t) = N at *
                go_wp2_with fail
                go_meet
                case rel => exact ⟨n', q + t, ds', _, by go_num, hle, HRD5.out.putE, HCE.out, by omega, by omega, hds5⟩
    · have HC := Lib.hid (HRE.out.trans (rd_noE hno))
      clear hno HCS HRE
      go_wp2_with fail
      go_meet
      case rel => exact ⟨n', j, ds', e5, rfl, hj5, HRD5.out, HC.out, by omega, by omega, hds5⟩
  case rest =>
  obtain ⟨n6, i6, ds6, e6, hv4, hi6, hrd6, hr6, h60, h61, hds6⟩ := hcut
  subst hv4
  have HRD := Lib.hid hrd6
  have HRE6 := Lib.hid hr6
  clear hrd6 hr6 HRE HCS HRD5
  by_cases hlt : i6 < s.size
  · have hlt' : (i6 : Int) < s.size := by omega
    have hrn : r = none := by rw [HRE6.out]; unfold endF; rw [if_neg (by omega)]
    subst hrn
    clear HRE6
    have z0 : wc.frozen? ⟨w.heap.size, 0, none⟩ = false := HRD.out.z.frozen 0
    have z1 : wc.frozen? ⟨w.heap.size, 1, none⟩ = false := HRD.out.z.frozen 1
    have z2 : wc.frozen? ⟨w.heap.size, 2, none⟩ = false := HRD.out.z.frozen 2
    have y0 : wc.cell? ⟨w.heap.size, 0, none⟩ = some (.bool false) := HRD.out.z.cell 0
    have y1 : wc.cell? ⟨w.heap.size, 1, none⟩ = some (.string (bs [])) := HRD.out.z.cell 1
    have y2 : wc.cell? ⟨w.heap.size, 2, none⟩ = some (.int .i64 0) := HRD.out.z.cell 2
    go_wp2
    refine bodyPost_ret (results_blk Tryd.results25 _ _ w.heap.size _ _ _ rfl (((HRD.out.z.set' 0 (.bool false) rfl).set' 1 (.string (bs [])) rfl).set' 2 (.int .i64 0) rfl) Tryd.underlying52 rfl (by kernel_rfl)) rfl ?_
    exact ⟨rfl, ((HRD.out.b.setCell (by simp) _).setCell (by simp) _).setCell (by simp) _⟩
  · have hlt' : ¬ (i6 : Int) < s.size := by omega
    have hrn : r = some (normF ⟨n6, L8 ds6, e6⟩) := by rw [HRE6.out]; unfold endF; rw [if_pos (by omega)]
    subst hrn
    clear HRE6
    have HN : Hid (∀ W, Calls Tryd.prog 32 #[.agg #[.bool n6, .string ds6, .int .i64 e6]] W fun e w' => e = .returned (dcV (normF ⟨n6, L8 ds6, e6⟩)) ∧ Below W.heap.size W w') := Lib.hid fun W => by
      have h := rnorm_any ⟨n6, L8 ds6, e6⟩ W (by dsimp only; rw [L8_len]; omega) (by dsimp only; omega) (by dsimp only; omega)
      conv at h => arg 3; unfold dcV
      dsimp only at h
      rwa [bs_L8] at h
    generalize hy : normF ⟨n6, L8 ds6, e6⟩ = y at HN
    have HY := Lib.hid hy
    clear hy
    obtain ⟨yn, yd, ye⟩ := y
    unfold dcV at HN
    dsimp only at HN
    have k0 : wc.cell? ⟨w.heap.size + 1, 0, none⟩ = some (.bool n6) := HRD.out.d.cell 0
    have k1 : wc.cell? ⟨w.heap.size + 1, 1, none⟩ = some (.string ds6) := HRD.out.d.cell 1
    have k2 : wc.cell? ⟨w.heap.size + 1, 2, none⟩ = some (.int .i64 e6) := HRD.out.d.cell 2
    go_wp2_with fail
    with_reducible refine (HN.out _).mono ?_
    rintro e1 w9 ⟨rfl, hb9⟩
    have HZ9 : Hid (DcBlk w9 w.heap.size false (bs []) 0) := Lib.hid (HRD.out.z.below hb9 HRD.out.z.lt)
    have HB9 := Lib.hid (HRD.out.b.trans (hb9.mono HRD.out.b.size))
    clear hb9 k0 k1 k2
    have z0 : w9.frozen? ⟨w.heap.size, 0, none⟩ = false := HZ9.out.frozen 0
    have z1 : w9.frozen? ⟨w.heap.size, 1, none⟩ = false := HZ9.out.frozen 1
    have z2 : w9.frozen? ⟨w.heap.size, 2, none⟩ = false := HZ9.out.frozen 2
    have y0 : w9.cell? ⟨w.heap.size, 0, none⟩ = some (.bool false) := HZ9.out.cell 0
    have y1 : w9.cell? ⟨w.heap.size, 1, none⟩ = some (.string (bs [])) := HZ9.out.cell 1
    have y2 : w9.cell? ⟨w.heap.size, 2, none⟩ = some (.int .i64 0) := HZ9.out.cell 2
    go_wp2
    refine bodyPost_ret (results_blk Tryd.results25 _ _ w.heap.size _ _ _ rfl (((HZ9.out.set' 0 (.bool yn) rfl).set' 1 (.string (bs yd)) rfl).set' 2 (.int .i64 ye) rfl) Tryd.underlying52 rfl (by kernel_rfl)) rfl ?_
    exact ⟨by rw [HY.out]; rfl, ((HB9.out.setCell (by simp) _).setCell (by simp) _).setCell (by simp) _⟩
end Go.Proofs.YtiibfejgiilakaaDoor
