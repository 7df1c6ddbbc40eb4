/- Printed by gen_r11cutw.py. The document's cut of layer 11 by its contract. -/
import Derived.Test.YtiibfejgiilakaaDoorR11CutM
import Derived.Deep.CutRange
import Derived.Deep.CutBlock
import Derived.StillTailTactics
namespace Go.Proofs.YtiibfejgiilakaaDoor
set_option maxRecDepth 100000
open Go.ChangeShapes Go.WideShapes Go.ChangeAt Go.RowKit
set_option linter.unusedVariables false
set_option linter.unusedSimpArgs false

theorem partV_of {p : Nat} {n : Bool} {d : List UInt8} {b : Nat} {g : UInt8} {x : List UInt8} {e : Bool} (he : decide (6 ≤ p) = e) {ds xs : ByteArray} (hd : L8 ds = d) (hx : L8 xs = x) : Value.agg #[.string ds, .int .i64 (b : Int), .bool e, .int .u8 (g.toNat : Int), .string xs] = partV ⟨p, n, d, b, g, x⟩ := by
  subst hd hx
  unfold partV
  dsimp only
  rw [bs_L8, bs_L8, he]
theorem cut_yes {w w' : World} {r : Option Nt} {t : Nt} {a0 a4 : ByteArray} {a1 a3 : Int} {a2 : Bool} (hr : r = some t) (hp : Value.agg #[.string a0, .int .i64 a1, .bool a2, .int .u8 a3, .string a4] = partV t) (hb : Below w.heap.size w w') : CutRes w r (.returned (.tuple #[.agg #[.string a0, .int .i64 a1, .bool a2, .int .u8 a3, .string a4], .bool true])) w' := ⟨a0, a1, a2, a3, a4, by rw [hr]; rfl, fun u hu => by rw [hr] at hu; obtain rfl := Option.some.inj hu; exact hp, hb⟩
theorem cut_no {w w' : World} {r : Option Nt} {a0 a4 : ByteArray} {a1 a3 : Int} {a2 : Bool} (hr : r = none) (hb : Below w.heap.size w w') : CutRes w r (.returned (.tuple #[.agg #[.string a0, .int .i64 a1, .bool a2, .int .u8 a3, .string a4], .bool false])) w' := ⟨a0, a1, a2, a3, a4, by rw [hr]; rfl, fun u hu => (by rw [hr] at hu; cases hu), hb⟩
set_option maxHeartbeats 32000000 in
theorem cut_any (s : ByteArray) (w : World) (hs : s.size ≤ 1000000) : Calls Tryd.prog 23 #[.string s] w fun e w' => CutRes w (goF t0 (L8 s)) e w' := by
  generalize hr : goF t0 (L8 s) = r
  have HR := Lib.hid hr
  clear hr
  go_enter Tryd.func23, Tryd.ntmps23
  go_upto_region 3 with fail
  have hbs : (⟨#[]⟩ : ByteArray) = bs [] := rfl
  rw [hbs]
  clear hbs
  have HC0 : Hid (Cp w (bs []) 0 false 0 (bs []) ((w.alloc (.cells #[.string (bs []), .int .i64 0, .bool false, .int .u8 0, .string (bs [])] 55)).alloc (.cells #[.string (bs []), .int .i64 0, .bool false, .int .u8 0, .string (bs [])] 55))) := Lib.hid ⟨by have h := Blk.new (w.alloc (.cells #[.string (bs []), .int .i64 0, .bool false, .int .u8 0, .string (bs [])] 55)) 55 #[.string (bs []), .int .i64 0, .bool false, .int .u8 0, .string (bs [])]; rwa [World.size_alloc] at h, (Blk.new w 55 _).alloc _, ((Below.refl _ _).alloc (Nat.le_refl _) _).alloc (by rw [World.size_alloc]; omega) _⟩
  generalize (w.alloc (.cells #[.string (bs []), .int .i64 0, .bool false, .int .u8 0, .string (bs [])] 55)).alloc (.cells #[.string (bs []), .int .i64 0, .bool false, .int .u8 0, .string (bs [])] 55) = w0 at *
  go_cut [17] from 8 to 17 (fun v W => ByteAt s 0 45 v ∧ W = w0)
  case first =>
    rcases at_cases s 0 45 45 rfl with ⟨h0, h0'⟩ | ⟨h0, h0', hc, hcb⟩ | ⟨h0, h0', hc, hcb⟩
    · have HC := Lib.hid (ByteAt.end_ (c := 45) h0)
      go_wp2_with fail
      go_meet
      case rel => exact ⟨HC.out, rfl⟩
    · have HC := Lib.hid (ByteAt.yes (c := 45) h0 hc)
      clear hc
      go_wp2_with fail
      go_meet
      case rel => exact ⟨HC.out, rfl⟩
    · have HC := Lib.hid (ByteAt.no (c := 45) h0 hc)
      clear hc
      go_wp2_with fail
      go_meet
      case rel => exact ⟨HC.out, rfl⟩
  case rest =>
  obtain ⟨hba, hwc⟩ := hcut
  subst hwc
  have HBA := Lib.hid hba
  clear hba
  go_upto_if 17 with fail
  go_cut [5] from 17 to 19 (fun v W => W = wc ∧ ∃ (n : Bool) (i : Nat), v = .int .i64 i ∧ i ≤ s.size ∧ r = fwdW n ((L8 s).drop i))
  case first =>
    rcases HBA.out with ⟨rfl, h0, hc⟩ | ⟨rfl, hno⟩
    · have HC := Lib.hid (fw_neg h0 hc)
      clear hc
      go_wp2_with fail
      go_meet
      case rel => exact ⟨rfl, true, 1, rfl, by omega, by rw [← HR.out, HC.out]⟩
    · have HC : Hid (goF t0 (L8 s) = fwdW false ((L8 s).drop 0)) := Lib.hid (fw_pos (by rcases hno with h | h; exact .inl (by omega); exact .inr h))
      clear hno
      go_wp2_with fail
      go_meet
      case rel => exact ⟨rfl, false, 0, rfl, by omega, by rw [← HR.out, HC.out]⟩
  case rest =>
  obtain ⟨hwc2, n, i, hv5, hi, hrw⟩ := hcut
  subst hwc2 hv5
  have HRW := Lib.hid hrw
  clear hrw HBA HR
  go_upto_block 0 with fail
  have HRI := Lib.hid (fun k h1 h2 h3 => run_is (s := s) (i := i) (k := k) h1 h2 h3)
  go_cut [5] from 21 to 38 (fun v W => W = wc ∧ v = .int .i64 ((i + runL (L8 s) (i) : Nat) : Int))
  case first =>
    go_wp2_with fail
    go_loop [5] (fun v => ∃ k : Nat, i + k ≤ s.size ∧ v = .int .i64 ((i + k : Nat) : Int) ∧ allB (((L8 s).drop (i)).take k) = true) (fun v => s.size - (intOf v).toNat)
    case atStart => exact ⟨0, by omega, by simp, rfl⟩
    case round =>
      obtain ⟨k, hk, rfl, hal⟩ := hrel
      have HA := Lib.hid hal
      clear hal
      obtain ⟨q, hq⟩ : ∃ q, i + k = q := ⟨_, rfl⟩
      have HQ := Lib.hid hq
      have hqs : q ≤ s.size := by omega
      rw [hq] at hk ⊢
      by_cases hlt : q < s.size
      · have hlt' : (q : Int) < s.size := by omega
        have HT : Hid (((L8 s).drop (i)).take (k + 1) = ((L8 s).drop (i)).take k ++ [s[q]]) := Lib.hid (by
          subst hq
          rw [List.take_succ_eq_append_getElem (by rw [List.length_drop, L8_len]; omega), List.getElem_drop]; rfl)
        have HK : isD s[q] = false → runL (L8 s) (i) = k := fun hd => by
          subst hq
          exact HRI.out k hk HA.out (.inr ⟨hlt, hd⟩)
        have HKH := Lib.hid HK
        clear HK hq
        have hw : IntKind.i64.wrap ((q : Int) + 1) = (q : Int) + 1 := IntWalk.i64_in _ (by omega)
        rcases isD_ask s[q] with ⟨hd, h1, h2, h3, h4⟩ | ⟨hd, h1, h3⟩ | ⟨hd, h1, h2, h3, h4⟩
        · have HD := Lib.hid hd
          clear hd
          go_wp2
          go_round
          case rel => exact ⟨k + 1, by have := HQ.out; omega, by have := HQ.out; exact congrArg _ (by omega), by rw [HT.out, allB_snoc, HA.out, HD.out]; rfl⟩
          case measure => simp [intOf]; omega
        · have HK2 := Lib.hid (HKH.out hd)
          clear hd HT
          go_wp2_with fail
          go_meet
          case rel => exact ⟨rfl, by rw [HK2.out, HQ.out]⟩
        · have HK2 := Lib.hid (HKH.out hd)
          clear hd HT
          go_wp2_with fail
          go_meet
          case rel => exact ⟨rfl, by rw [HK2.out, HQ.out]⟩
      · have hlt' : ¬ (q : Int) < s.size := by omega
        have HK2 : Hid (runL (L8 s) (i) = k) := Lib.hid (by
          subst hq
          exact HRI.out k hk HA.out (.inl (by omega)))
        clear hq
        go_wp2_with fail
        go_meet
        case rel => exact ⟨rfl, by rw [HK2.out, HQ.out]⟩
  case rest =>
  obtain ⟨hwc3, hv5⟩ := hcut
  subst hwc3 hv5
  have hik := run_le8 (s := s) i hi
  have HNO := Lib.hid (fw_nought (s := s) (n := n) (i := i))
  have HEN := Lib.hid (fw_end (s := s) (n := n) (i := i))
  have HEM := Lib.hid (fw_empty (s := s) (n := n) (i := i))
  have HWH := Lib.hid (fw_whole (s := s) (n := n) (i := i))
  clear HRI
  generalize runL (L8 s) i = k at *
  obtain ⟨j, hj⟩ : ∃ j, i + k = j := ⟨_, rfl⟩
  rw [hj] at hik HEN HWH ⊢
  have hjk : (j : Int) - (i : Int) = (k : Int) := by omega
  have hjw : IntKind.i64.wrap ((j : Int) - (i : Int)) = (k : Int) := by rw [hjk]; exact IntWalk.i64_in _ (by omega)
  go_upto_region 8 with fail
  go_cut [48] from 39 to 48 (fun v W => W = wc ∧ ((v = .bool true ∧ r = none) ∨ (v = .bool false ∧ (k ≤ 1 ∨ ∃ h : i < s.size, s[i] ≠ 48))))
  case first =>
    by_cases hk1 : 1 < k
    · have hk1' : (1 : Int) < (k : Int) := by omega
      have his : i < s.size := by omega
      have his' : (i : Int) < s.size := by omega
      rcases byte_is s[i] 48 48 rfl with ⟨hc, hcb⟩ | ⟨hc, hcb⟩
      · have HC : Hid (r = none) := Lib.hid (by rw [HRW.out]; exact HNO.out hk1 his hc)
        clear hc
        go_wp2_with fail
        go_meet
        case rel => exact ⟨rfl, .inl ⟨rfl, HC.out⟩⟩
      · have HC : Hid (∃ h : i < s.size, s[i] ≠ 48) := Lib.hid ⟨his, hc⟩
        clear hc
        go_wp2_with fail
        go_meet
        case rel => exact ⟨rfl, .inr ⟨rfl, .inr HC.out⟩⟩
    · have hk1' : ¬ (1 : Int) < (k : Int) := by omega
      go_wp2_with fail
      go_meet
      case rel => exact ⟨rfl, .inr ⟨rfl, .inl (by omega)⟩⟩
  case rest =>
  obtain ⟨hwc4, hcs⟩ := hcut
  subst hwc4
  go_upto_if 48 with fail
  rcases hcs with ⟨hv48, hrn⟩ | ⟨hv48, hnz⟩
  · subst hv48
    have HRN := Lib.hid hrn
    clear hrn
    have zf0 : wc.frozen? ⟨w.heap.size, 0, none⟩ = false := HC0.out.z.frozen 0
    have zc0 : wc.cell? ⟨w.heap.size, 0, none⟩ = some (.string (bs [])) := HC0.out.z.cell 0
    have zf1 : wc.frozen? ⟨w.heap.size, 1, none⟩ = false := HC0.out.z.frozen 1
    have zc1 : wc.cell? ⟨w.heap.size, 1, none⟩ = some (.int .i64 0) := HC0.out.z.cell 1
    have zf2 : wc.frozen? ⟨w.heap.size, 2, none⟩ = false := HC0.out.z.frozen 2
    have zc2 : wc.cell? ⟨w.heap.size, 2, none⟩ = some (.bool false) := HC0.out.z.cell 2
    have zf3 : wc.frozen? ⟨w.heap.size, 3, none⟩ = false := HC0.out.z.frozen 3
    have zc3 : wc.cell? ⟨w.heap.size, 3, none⟩ = some (.int .u8 0) := HC0.out.z.cell 3
    have zf4 : wc.frozen? ⟨w.heap.size, 4, none⟩ = false := HC0.out.z.frozen 4
    have zc4 : wc.cell? ⟨w.heap.size, 4, none⟩ = some (.string (bs [])) := HC0.out.z.cell 4
    have pc0 : wc.cell? ⟨w.heap.size + 1, 0, none⟩ = some (.string (bs [])) := HC0.out.p.cell 0
    have pf0 : wc.frozen? ⟨w.heap.size + 1, 0, none⟩ = false := HC0.out.p.frozen 0
    have pc1 : wc.cell? ⟨w.heap.size + 1, 1, none⟩ = some (.int .i64 0) := HC0.out.p.cell 1
    have pf1 : wc.frozen? ⟨w.heap.size + 1, 1, none⟩ = false := HC0.out.p.frozen 1
    have pc2 : wc.cell? ⟨w.heap.size + 1, 2, none⟩ = some (.bool false) := HC0.out.p.cell 2
    have pf2 : wc.frozen? ⟨w.heap.size + 1, 2, none⟩ = false := HC0.out.p.frozen 2
    have pc3 : wc.cell? ⟨w.heap.size + 1, 3, none⟩ = some (.int .u8 0) := HC0.out.p.cell 3
    have pf3 : wc.frozen? ⟨w.heap.size + 1, 3, none⟩ = false := HC0.out.p.frozen 3
    have pc4 : wc.cell? ⟨w.heap.size + 1, 4, none⟩ = some (.string (bs [])) := HC0.out.p.cell 4
    have pf4 : wc.frozen? ⟨w.heap.size + 1, 4, none⟩ = false := HC0.out.p.frozen 4
    have hl1 : w.heap.size + 1 < wc.heap.size := HC0.out.p.lt
    have hl0 : w.heap.size < wc.heap.size := HC0.out.z.lt
    go_wp2
    refine bodyPost_ret (results_blk Tryd.results23 _ _ w.heap.size _ _ _ rfl HC0.out.fin.1 Tryd.underlying55 rfl (by kernel_rfl)) rfl ?_
    exact cut_no HRN.out HC0.out.fin.2
  subst hv48
  have HNZ := Lib.hid hnz
  clear hnz HNO hjw
  have q1 : (i : Int) ≤ (j : Int) := by omega
  have q2 : (j : Int) ≤ (s.size : Int) := by omega
  have HDS : Hid (L8 (s.extract i j) = ((L8 s).drop i).take k) := Lib.hid (by rw [L8_cut, ← hj, Nat.add_sub_cancel_left])
  have hdz : (s.extract i j).size = k := by rw [← L8_len, HDS.out, List.length_take, List.length_drop, L8_len]; omega
  have HDZ := Lib.hid hdz
  clear hdz
  have pc0 : wc.cell? ⟨w.heap.size + 1, 0, none⟩ = some (.string (bs [])) := HC0.out.p.cell 0
  have pf0 : wc.frozen? ⟨w.heap.size + 1, 0, none⟩ = false := HC0.out.p.frozen 0
  have hlt1 : w.heap.size + 1 < wc.heap.size := HC0.out.p.lt
  go_upto_region 11 with fail
  have HC1 := Lib.hid (HC0.out.putD (s.extract i j))
  clear pc0 pf0 hlt1 q1 q2 HC0
  generalize s.extract i j = ds at *
  generalize wc.setCell ⟨w.heap.size + 1, 0, none⟩ (.string ds) = wd at *
  have hdz := HDZ.out
  by_cases hjs : j = s.size
  · obtain ⟨p, hp6, hpr⟩ := HEN.out HNZ.out (by omega)
    have HRT : Hid (r = some ⟨p, n, ((L8 s).drop i).take k, 0, 0, []⟩) := Lib.hid (by rw [HRW.out, hpr])
    have HPV : Hid (Value.agg #[.string ds, .int .i64 ((0 : Nat) : Int), .bool false, .int .u8 ((0 : UInt8).toNat : Int), .string (bs [])] = partV ⟨p, n, ((L8 s).drop i).take k, 0, 0, []⟩) := Lib.hid (partV_of (decide_eq_false (by omega)) HDS.out rfl)
    have hjb : ((j : Int) == (s.size : Int)) = true := by rw [beq_iff_eq]; omega
    clear hpr
    have zf0 : wd.frozen? ⟨w.heap.size, 0, none⟩ = false := HC1.out.z.frozen 0
    have zc0 : wd.cell? ⟨w.heap.size, 0, none⟩ = some (.string (bs [])) := HC1.out.z.cell 0
    have zf1 : wd.frozen? ⟨w.heap.size, 1, none⟩ = false := HC1.out.z.frozen 1
    have zc1 : wd.cell? ⟨w.heap.size, 1, none⟩ = some (.int .i64 0) := HC1.out.z.cell 1
    have zf2 : wd.frozen? ⟨w.heap.size, 2, none⟩ = false := HC1.out.z.frozen 2
    have zc2 : wd.cell? ⟨w.heap.size, 2, none⟩ = some (.bool false) := HC1.out.z.cell 2
    have zf3 : wd.frozen? ⟨w.heap.size, 3, none⟩ = false := HC1.out.z.frozen 3
    have zc3 : wd.cell? ⟨w.heap.size, 3, none⟩ = some (.int .u8 0) := HC1.out.z.cell 3
    have zf4 : wd.frozen? ⟨w.heap.size, 4, none⟩ = false := HC1.out.z.frozen 4
    have zc4 : wd.cell? ⟨w.heap.size, 4, none⟩ = some (.string (bs [])) := HC1.out.z.cell 4
    have pc0 : wd.cell? ⟨w.heap.size + 1, 0, none⟩ = some (.string ds) := HC1.out.p.cell 0
    have pf0 : wd.frozen? ⟨w.heap.size + 1, 0, none⟩ = false := HC1.out.p.frozen 0
    have pc1 : wd.cell? ⟨w.heap.size + 1, 1, none⟩ = some (.int .i64 0) := HC1.out.p.cell 1
    have pf1 : wd.frozen? ⟨w.heap.size + 1, 1, none⟩ = false := HC1.out.p.frozen 1
    have pc2 : wd.cell? ⟨w.heap.size + 1, 2, none⟩ = some (.bool false) := HC1.out.p.cell 2
    have pf2 : wd.frozen? ⟨w.heap.size + 1, 2, none⟩ = false := HC1.out.p.frozen 2
    have pc3 : wd.cell? ⟨w.heap.size + 1, 3, none⟩ = some (.int .u8 0) := HC1.out.p.cell 3
    have pf3 : wd.frozen? ⟨w.heap.size + 1, 3, none⟩ = false := HC1.out.p.frozen 3
    have pc4 : wd.cell? ⟨w.heap.size + 1, 4, none⟩ = some (.string (bs [])) := HC1.out.p.cell 4
    have pf4 : wd.frozen? ⟨w.heap.size + 1, 4, none⟩ = false := HC1.out.p.frozen 4
    have hl1 : w.heap.size + 1 < wd.heap.size := HC1.out.p.lt
    have hl0 : w.heap.size < wd.heap.size := HC1.out.z.lt
    go_wp2
    refine bodyPost_ret (results_blk Tryd.results23 _ _ w.heap.size _ _ _ rfl HC1.out.fin.1 Tryd.underlying55 rfl (by kernel_rfl)) rfl ?_
    exact cut_yes HRT.out HPV.out HC1.out.fin.2
  have hjb : ((j : Int) == (s.size : Int)) = false := by rw [beq_eq_false_iff_ne]; omega
  by_cases hk0 : k = 0
  · have HRN : Hid (r = none) := Lib.hid (by rw [HRW.out]; exact HEM.out hk0 (by omega))
    have hdb : ((ds.size : Int) == 0) = true := by rw [beq_iff_eq]; omega
    have zf0 : wd.frozen? ⟨w.heap.size, 0, none⟩ = false := HC1.out.z.frozen 0
    have zc0 : wd.cell? ⟨w.heap.size, 0, none⟩ = some (.string (bs [])) := HC1.out.z.cell 0
    have zf1 : wd.frozen? ⟨w.heap.size, 1, none⟩ = false := HC1.out.z.frozen 1
    have zc1 : wd.cell? ⟨w.heap.size, 1, none⟩ = some (.int .i64 0) := HC1.out.z.cell 1
    have zf2 : wd.frozen? ⟨w.heap.size, 2, none⟩ = false := HC1.out.z.frozen 2
    have zc2 : wd.cell? ⟨w.heap.size, 2, none⟩ = some (.bool false) := HC1.out.z.cell 2
    have zf3 : wd.frozen? ⟨w.heap.size, 3, none⟩ = false := HC1.out.z.frozen 3
    have zc3 : wd.cell? ⟨w.heap.size, 3, none⟩ = some (.int .u8 0) := HC1.out.z.cell 3
    have zf4 : wd.frozen? ⟨w.heap.size, 4, none⟩ = false := HC1.out.z.frozen 4
    have zc4 : wd.cell? ⟨w.heap.size, 4, none⟩ = some (.string (bs [])) := HC1.out.z.cell 4
    have pc0 : wd.cell? ⟨w.heap.size + 1, 0, none⟩ = some (.string ds) := HC1.out.p.cell 0
    have pf0 : wd.frozen? ⟨w.heap.size + 1, 0, none⟩ = false := HC1.out.p.frozen 0
    have pc1 : wd.cell? ⟨w.heap.size + 1, 1, none⟩ = some (.int .i64 0) := HC1.out.p.cell 1
    have pf1 : wd.frozen? ⟨w.heap.size + 1, 1, none⟩ = false := HC1.out.p.frozen 1
    have pc2 : wd.cell? ⟨w.heap.size + 1, 2, none⟩ = some (.bool false) := HC1.out.p.cell 2
    have pf2 : wd.frozen? ⟨w.heap.size + 1, 2, none⟩ = false := HC1.out.p.frozen 2
    have pc3 : wd.cell? ⟨w.heap.size + 1, 3, none⟩ = some (.int .u8 0) := HC1.out.p.cell 3
    have pf3 : wd.frozen? ⟨w.heap.size + 1, 3, none⟩ = false := HC1.out.p.frozen 3
    have pc4 : wd.cell? ⟨w.heap.size + 1, 4, none⟩ = some (.string (bs [])) := HC1.out.p.cell 4
    have pf4 : wd.frozen? ⟨w.heap.size + 1, 4, none⟩ = false := HC1.out.p.frozen 4
    have hl1 : w.heap.size + 1 < wd.heap.size := HC1.out.p.lt
    have hl0 : w.heap.size < wd.heap.size := HC1.out.z.lt
    go_wp2
    refine bodyPost_ret (results_blk Tryd.results23 _ _ w.heap.size _ _ _ rfl HC1.out.fin.1 Tryd.underlying55 rfl (by kernel_rfl)) rfl ?_
    exact cut_no HRN.out HC1.out.fin.2
  have hdb : ((ds.size : Int) == 0) = false := by rw [beq_eq_false_iff_ne]; omega
  obtain ⟨pp, hp6, hpr⟩ := HWH.out hk0 HNZ.out
  rw [← HDS.out] at hpr
  have HRP : Hid (r = fwdP ⟨pp, n, L8 ds, 0, 0, []⟩ ((L8 s).drop j)) := Lib.hid (by rw [HRW.out, hpr])
  clear hpr HRW HEN HEM HWH HNZ hdz HDS
  have hjl : j < s.size := by omega
  have hjl' : (j : Int) < s.size := by omega
  have pc0 : wd.cell? ⟨w.heap.size + 1, 0, none⟩ = some (.string ds) := HC1.out.p.cell 0
  go_upto_region 15 with fail
  clear pc0
  go_cut [68] from 65 to 68 (fun v W => W = wd ∧ ((v = .bool true ∧ s[j] = 46) ∨ (v = .bool false ∧ s[j] ≠ 46)))
  case first =>
    rcases byte_is s[j] 46 46 rfl with ⟨hc, hcb⟩ | ⟨hc, hcb⟩
    · have HC := Lib.hid hc
      clear hc
      go_wp2_with fail
      go_meet
      case rel => exact ⟨rfl, .inl ⟨rfl, HC.out⟩⟩
    · have HC := Lib.hid hc
      clear hc
      go_wp2_with fail
      go_meet
      case rel => exact ⟨rfl, .inr ⟨rfl, HC.out⟩⟩
  case rest =>
  obtain ⟨hwc5, hcs⟩ := hcut
  subst hwc5
  go_upto_if 68 with fail
  go_cut [5, 6] from 69 to 110 (fun v5 v6 W => ∃ (j' : Nat) (d' : ByteArray) (b' p' : Nat), v5 = .int .i64 j' ∧ j' < s.size ∧ d'.size ≤ s.size ∧ Cp w d' b' false 0 (bs []) W ∧ r = fwdE ⟨p', n, L8 d', b', 0, []⟩ ((L8 s).drop j') ∧ ∃ m : Nat, v6 = .int .i64 m)
  case first =>
    rcases hcs with ⟨rfl, hc⟩ | ⟨rfl, hc⟩
    · have HFP := Lib.hid (fw_P (s := s) (t := ⟨pp, n, L8 ds, 0, 0, []⟩) (j := j) hp6 rfl hjl hc)
      clear hc
      obtain ⟨j1, hj1⟩ : ∃ j1, j + 1 = j1 := ⟨_, rfl⟩
      rw [hj1] at HFP
      have ej : (j : Int) + 1 = (j1 : Int) := by omega
      have hj1s : j1 ≤ s.size := by omega
      have HJ1 := Lib.hid hj1
      clear hj1
      go_upto_block 2 with fail
      have HRI := Lib.hid (fun k h1 h2 h3 => run_is (s := s) (i := j1) (k := k) h1 h2 h3)
      go_cut [5] from 72 to 89 (fun v W => W = wc ∧ v = .int .i64 ((j1 + runL (L8 s) (j1) : Nat) : Int))
      case first =>
        go_wp2_with fail
        go_loop [5] (fun v => ∃ k : Nat, j1 + k ≤ s.size ∧ v = .int .i64 ((j1 + k : Nat) : Int) ∧ allB (((L8 s).drop (j1)).take k) = true) (fun v => s.size - (intOf v).toNat)
        case atStart => exact ⟨0, by omega, by simp, rfl⟩
        case round =>
          obtain ⟨k, hk, rfl, hal⟩ := hrel
          have HA := Lib.hid hal
          clear hal
          obtain ⟨q, hq⟩ : ∃ q, j1 + k = q := ⟨_, rfl⟩
          have HQ := Lib.hid hq
          have hqs : q ≤ s.size := by omega
          rw [hq] at hk ⊢
          by_cases hlt : q < s.size
          · have hlt' : (q : Int) < s.size := by omega
            have HT : Hid (((L8 s).drop (j1)).take (k + 1) = ((L8 s).drop (j1)).take k ++ [s[q]]) := Lib.hid (by
              subst hq
              rw [List.take_succ_eq_append_getElem (by rw [List.length_drop, L8_len]; omega), List.getElem_drop]; rfl)
            have HK : isD s[q] = false → runL (L8 s) (j1) = k := fun hd => by
              subst hq
              exact HRI.out k hk HA.out (.inr ⟨hlt, hd⟩)
            have HKH := Lib.hid HK
            clear HK hq
            have hw : IntKind.i64.wrap ((q : Int) + 1) = (q : Int) + 1 := IntWalk.i64_in _ (by omega)
            rcases isD_ask s[q] with ⟨hd, h1, h2, h3, h4⟩ | ⟨hd, h1, h3⟩ | ⟨hd, h1, h2, h3, h4⟩
            · have HD := Lib.hid hd
              clear hd
              go_wp2
              go_round
              case rel => exact ⟨k + 1, by have := HQ.out; omega, by have := HQ.out; exact congrArg _ (by omega), by rw [HT.out, allB_snoc, HA.out, HD.out]; rfl⟩
              case measure => simp [intOf]; omega
            · have HK2 := Lib.hid (HKH.out hd)
              clear hd HT
              go_wp2_with fail
              go_meet
              case rel => exact ⟨rfl, by rw [HK2.out, HQ.out]⟩
            · have HK2 := Lib.hid (HKH.out hd)
              clear hd HT
              go_wp2_with fail
              go_meet
              case rel => exact ⟨rfl, by rw [HK2.out, HQ.out]⟩
          · have hlt' : ¬ (q : Int) < s.size := by omega
            have HK2 : Hid (runL (L8 s) (j1) = k) := Lib.hid (by
              subst hq
              exact HRI.out k hk HA.out (.inl (by omega)))
            clear hq
            go_wp2_with fail
            go_meet
            case rel => exact ⟨rfl, by rw [HK2.out, HQ.out]⟩
      case rest =>
      obtain ⟨hwc6, hv5⟩ := hcut
      subst hwc6 hv5
      have hle := run_le8 (s := s) j1 hj1s
      clear HRI
      have HRL := Lib.hid (run_len (L8 s) j1)
      generalize runL (L8 s) j1 = k2 at *
      obtain ⟨j2, hj2⟩ : ∃ j2, j1 + k2 = j2 := ⟨_, rfl⟩
      rw [hj2] at hle HFP ⊢
      have hsub : IntKind.i64.wrap ((j2 : Int) - (j1 : Int)) = (k2 : Int) := by rw [IntWalk.i64_in _ (by omega)]; omega
      obtain ⟨X, hX⟩ : ∃ X, s.extract j1 j2 = X := ⟨_, rfl⟩
      have HXL : Hid (L8 X = ((L8 s).drop j1).take k2) := Lib.hid (by rw [← hX, L8_cut]; congr 1; omega)
      have hXs : X.size = k2 := by rw [← L8_len, HXL.out]; exact HRL.out
      have HXS := Lib.hid hXs
      have HDX : Hid (L8 (ds ++ X) = L8 ds ++ ((L8 s).drop j1).take k2) := Lib.hid (by rw [L8_app, HXL.out])
      have hdz := HDZ.out
      have hsum : ¬ ds.size + X.size > 9223372036854775807 := by omega
      have hdxs : (ds ++ X).size ≤ s.size := by rw [ByteArray.size_append]; omega
      have q0 : (0 : Int) ≤ (j1 : Int) := by omega
      have q1 : (j1 : Int) ≤ (j2 : Int) := by omega
      have q2 : (j2 : Int) ≤ (s.size : Int) := by omega
      clear hXs hj2 hdz
      have pc1 : wc.cell? ⟨w.heap.size + 1, 1, none⟩ = some (.int .i64 0) := HC1.out.p.cell 1
      have pf1 : wc.frozen? ⟨w.heap.size + 1, 1, none⟩ = false := HC1.out.p.frozen 1
      have hlt1 : w.heap.size + 1 < wc.heap.size := HC1.out.p.lt
      go_upto_region 21 with fail
      have HCB0 := Lib.hid (HC1.out.putB k2)
      clear pc1 pf1 hlt1 HC1
      generalize wc.setCell ⟨w.heap.size + 1, 1, none⟩ (.int .i64 (k2 : Int)) = wB at *
      obtain ⟨Y, hY⟩ : ∃ Y, ds ++ X = Y := ⟨_, rfl⟩
      have HY := Lib.hid hY
      rw [hY] at HDX hdxs
      clear hY
      go_cut [5] from 94 to 101 (fun v W => v = .int .i64 j2 ∧ Cp w Y k2 false 0 (bs []) W)
      case first =>
        go_wp2_with fail
        refine wp_region_still_tail 8 (by kernel_rfl) (by kernel_rfl) ?_
        simp only [List.take_succ_cons, List.take_zero, List.drop_succ_cons, List.drop_zero]
        generalize hW1 : ({ wB with drawn := wB.drawn + 1 } : World) = W1
        have HCB : Hid (Cp w ds k2 false 0 (bs []) W1) := Lib.hid (by rw [← hW1]; exact HCB0.out.drew)
        clear hW1 HCB0
        have y0 : W1.cell? ⟨w.heap.size + 1, 0, none⟩ = some (.string ds) := HCB.out.p.cell 0
        have z0 : W1.frozen? ⟨w.heap.size + 1, 0, none⟩ = false := HCB.out.p.frozen 0
        have hlw : w.heap.size + 1 < W1.heap.size := HCB.out.p.lt
        repeat still_step
        refine wpStill_nil ?_
        go_wp2_with fail
        go_meet
        case rel => exact ⟨rfl, by rw [HY.out]; exact HCB.out.putD Y⟩
      case rest =>
      obtain ⟨hv5, hcd⟩ := hcut
      subst hv5
      have HCD := Lib.hid hcd
      clear hcd HCB0 hX q0 q1 hsum
      by_cases hj2s : j2 = s.size
      · obtain ⟨p, hp, hpr⟩ := HFP.out.1 (by omega)
        have HRT : Hid (r = some ⟨p, n, L8 ds ++ ((L8 s).drop j1).take k2, k2, 0, []⟩) := Lib.hid (by rw [HRP.out, hpr])
        have HPV : Hid (Value.agg #[.string Y, .int .i64 (k2 : Int), .bool false, .int .u8 ((0 : UInt8).toNat : Int), .string (bs [])] = partV ⟨p, n, L8 ds ++ ((L8 s).drop j1).take k2, k2, 0, []⟩) := Lib.hid (partV_of (decide_eq_false (by omega)) HDX.out rfl)
        have hjb2 : ((j2 : Int) == (s.size : Int)) = true := by rw [beq_iff_eq]; omega
        clear hpr
        have zf0 : wc.frozen? ⟨w.heap.size, 0, none⟩ = false := HCD.out.z.frozen 0
        have zc0 : wc.cell? ⟨w.heap.size, 0, none⟩ = some (.string (bs [])) := HCD.out.z.cell 0
        have zf1 : wc.frozen? ⟨w.heap.size, 1, none⟩ = false := HCD.out.z.frozen 1
        have zc1 : wc.cell? ⟨w.heap.size, 1, none⟩ = some (.int .i64 0) := HCD.out.z.cell 1
        have zf2 : wc.frozen? ⟨w.heap.size, 2, none⟩ = false := HCD.out.z.frozen 2
        have zc2 : wc.cell? ⟨w.heap.size, 2, none⟩ = some (.bool false) := HCD.out.z.cell 2
        have zf3 : wc.frozen? ⟨w.heap.size, 3, none⟩ = false := HCD.out.z.frozen 3
        have zc3 : wc.cell? ⟨w.heap.size, 3, none⟩ = some (.int .u8 0) := HCD.out.z.cell 3
        have zf4 : wc.frozen? ⟨w.heap.size, 4, none⟩ = false := HCD.out.z.frozen 4
        have zc4 : wc.cell? ⟨w.heap.size, 4, none⟩ = some (.string (bs [])) := HCD.out.z.cell 4
        have pc0 : wc.cell? ⟨w.heap.size + 1, 0, none⟩ = some (.string Y) := HCD.out.p.cell 0
        have pf0 : wc.frozen? ⟨w.heap.size + 1, 0, none⟩ = false := HCD.out.p.frozen 0
        have pc1 : wc.cell? ⟨w.heap.size + 1, 1, none⟩ = some (.int .i64 (k2 : Int)) := HCD.out.p.cell 1
        have pf1 : wc.frozen? ⟨w.heap.size + 1, 1, none⟩ = false := HCD.out.p.frozen 1
        have pc2 : wc.cell? ⟨w.heap.size + 1, 2, none⟩ = some (.bool false) := HCD.out.p.cell 2
        have pf2 : wc.frozen? ⟨w.heap.size + 1, 2, none⟩ = false := HCD.out.p.frozen 2
        have pc3 : wc.cell? ⟨w.heap.size + 1, 3, none⟩ = some (.int .u8 0) := HCD.out.p.cell 3
        have pf3 : wc.frozen? ⟨w.heap.size + 1, 3, none⟩ = false := HCD.out.p.frozen 3
        have pc4 : wc.cell? ⟨w.heap.size + 1, 4, none⟩ = some (.string (bs [])) := HCD.out.p.cell 4
        have pf4 : wc.frozen? ⟨w.heap.size + 1, 4, none⟩ = false := HCD.out.p.frozen 4
        have hl1 : w.heap.size + 1 < wc.heap.size := HCD.out.p.lt
        have hl0 : w.heap.size < wc.heap.size := HCD.out.z.lt
        go_wp2
        refine bodyPost_ret (results_blk Tryd.results23 _ _ w.heap.size _ _ _ rfl HCD.out.fin.1 Tryd.underlying55 rfl (by kernel_rfl)) rfl ?_
        exact cut_yes HRT.out HPV.out HCD.out.fin.2
      have hjb2 : ((j2 : Int) == (s.size : Int)) = false := by rw [beq_eq_false_iff_ne]; omega
      by_cases hk2 : k2 = 0
      · have HRN : Hid (r = none) := Lib.hid (by rw [HRP.out]; exact HFP.out.2.1 (by omega) hk2)
        have hkb : ((k2 : Int) == 0) = true := by rw [beq_iff_eq]; omega
        clear hk2 hj2s HFP HRP HDX HRL hle
        have zf0 : wc.frozen? ⟨w.heap.size, 0, none⟩ = false := HCD.out.z.frozen 0
        have zc0 : wc.cell? ⟨w.heap.size, 0, none⟩ = some (.string (bs [])) := HCD.out.z.cell 0
        have zf1 : wc.frozen? ⟨w.heap.size, 1, none⟩ = false := HCD.out.z.frozen 1
        have zc1 : wc.cell? ⟨w.heap.size, 1, none⟩ = some (.int .i64 0) := HCD.out.z.cell 1
        have zf2 : wc.frozen? ⟨w.heap.size, 2, none⟩ = false := HCD.out.z.frozen 2
        have zc2 : wc.cell? ⟨w.heap.size, 2, none⟩ = some (.bool false) := HCD.out.z.cell 2
        have zf3 : wc.frozen? ⟨w.heap.size, 3, none⟩ = false := HCD.out.z.frozen 3
        have zc3 : wc.cell? ⟨w.heap.size, 3, none⟩ = some (.int .u8 0) := HCD.out.z.cell 3
        have zf4 : wc.frozen? ⟨w.heap.size, 4, none⟩ = false := HCD.out.z.frozen 4
        have zc4 : wc.cell? ⟨w.heap.size, 4, none⟩ = some (.string (bs [])) := HCD.out.z.cell 4
        have pc0 : wc.cell? ⟨w.heap.size + 1, 0, none⟩ = some (.string Y) := HCD.out.p.cell 0
        have pf0 : wc.frozen? ⟨w.heap.size + 1, 0, none⟩ = false := HCD.out.p.frozen 0
        have pc1 : wc.cell? ⟨w.heap.size + 1, 1, none⟩ = some (.int .i64 (k2 : Int)) := HCD.out.p.cell 1
        have pf1 : wc.frozen? ⟨w.heap.size + 1, 1, none⟩ = false := HCD.out.p.frozen 1
        have pc2 : wc.cell? ⟨w.heap.size + 1, 2, none⟩ = some (.bool false) := HCD.out.p.cell 2
        have pf2 : wc.frozen? ⟨w.heap.size + 1, 2, none⟩ = false := HCD.out.p.frozen 2
        have pc3 : wc.cell? ⟨w.heap.size + 1, 3, none⟩ = some (.int .u8 0) := HCD.out.p.cell 3
        have pf3 : wc.frozen? ⟨w.heap.size + 1, 3, none⟩ = false := HCD.out.p.frozen 3
        have pc4 : wc.cell? ⟨w.heap.size + 1, 4, none⟩ = some (.string (bs [])) := HCD.out.p.cell 4
        have pf4 : wc.frozen? ⟨w.heap.size + 1, 4, none⟩ = false := HCD.out.p.frozen 4
        have hl1 : w.heap.size + 1 < wc.heap.size := HCD.out.p.lt
        have hl0 : w.heap.size < wc.heap.size := HCD.out.z.lt
        go_wp2
        refine bodyPost_ret (results_blk Tryd.results23 _ _ w.heap.size _ _ _ rfl HCD.out.fin.1 Tryd.underlying55 rfl (by kernel_rfl)) rfl ?_
        exact cut_no HRN.out HCD.out.fin.2
      have hkb : ((k2 : Int) == 0) = false := by rw [beq_eq_false_iff_ne]; omega
      have HRE : Hid (r = fwdE ⟨5, n, L8 Y, k2, 0, []⟩ ((L8 s).drop j2)) := Lib.hid (by rw [HRP.out, HFP.out.2.2 hk2, HDX.out])
      have pc1 : wc.cell? ⟨w.heap.size + 1, 1, none⟩ = some (.int .i64 (k2 : Int)) := HCD.out.p.cell 1
      clear HFP HRP
      go_wp2_with fail
      go_meet
      case rel => exact ⟨j2, Y, k2, 5, rfl, by omega, by omega, HCD.out, HRE.out, _, rfl⟩
    · have HC : Hid (r = fwdE ⟨pp, n, L8 ds, 0, 0, []⟩ ((L8 s).drop j)) := Lib.hid (by rw [HRP.out]; exact fw_noP hjl hc)
      clear hc
      have hdz := HDZ.out
      go_wp2_with fail
      go_meet
      case rel => exact ⟨j, ds, 0, pp, rfl, hjl, by omega, HC1.out, HC.out, _, rfl⟩
  case rest =>
  obtain ⟨j2, d2, b2, p2, hv5, hj2, hd2, hc2, hr2, m2, hv6⟩ := hcut
  subst hv5 hv6
  have HC2 := Lib.hid hc2
  have HRE := Lib.hid hr2
  clear hc2 hr2 HC1 HRP HDZ hcs hdb hjb hjl hjl' hjs
  have hj2' : (j2 : Int) < s.size := by omega
  go_upto_region 26 with fail
  go_cut [120] from 111 to 120 (fun v W => W = wc ∧ ((v = .bool true ∧ s[j2] ≠ 101 ∧ s[j2] ≠ 69) ∨ (v = .bool false ∧ (s[j2] = 101 ∨ s[j2] = 69))))
  case first =>
    rcases byte_is s[j2] 101 101 rfl with ⟨hc, hcb⟩ | ⟨hc, hcb⟩
    · have HC := Lib.hid hc
      have hnb : ((s[j2].toNat : Int) != 101) = false := by rw [bne, hcb]; rfl
      clear hc hcb
      go_wp2_with fail
      go_meet
      case rel => exact ⟨rfl, .inr ⟨rfl, .inl HC.out⟩⟩
    · have hnb : ((s[j2].toNat : Int) != 101) = true := by rw [bne, hcb]; rfl
      rcases byte_is s[j2] 69 69 rfl with ⟨hc', hcb'⟩ | ⟨hc', hcb'⟩
      · have HC := Lib.hid hc'
        have hnb' : ((s[j2].toNat : Int) != 69) = false := by rw [bne, hcb']; rfl
        clear hc hc' hcb hcb'
        go_wp2_with fail
        go_meet
        case rel => exact ⟨rfl, .inr ⟨rfl, .inr HC.out⟩⟩
      · have HC := Lib.hid hc
        have HC' := Lib.hid hc'
        have hnb' : ((s[j2].toNat : Int) != 69) = true := by rw [bne, hcb']; rfl
        clear hc hc' hcb hcb'
        go_wp2_with fail
        go_meet
        case rel => exact ⟨rfl, .inl ⟨rfl, HC.out, HC'.out⟩⟩
  case rest =>
  obtain ⟨hwc7, hcs⟩ := hcut
  subst hwc7
  go_upto_if 120 with fail
  rcases hcs with ⟨hv120, hne⟩ | ⟨hv120, he⟩
  · subst hv120
    have HRN : Hid (r = none) := Lib.hid (by rw [HRE.out]; exact fw_noE hj2 hne)
    clear hne
    have zf0 : wc.frozen? ⟨w.heap.size, 0, none⟩ = false := HC2.out.z.frozen 0
    have zc0 : wc.cell? ⟨w.heap.size, 0, none⟩ = some (.string (bs [])) := HC2.out.z.cell 0
    have zf1 : wc.frozen? ⟨w.heap.size, 1, none⟩ = false := HC2.out.z.frozen 1
    have zc1 : wc.cell? ⟨w.heap.size, 1, none⟩ = some (.int .i64 0) := HC2.out.z.cell 1
    have zf2 : wc.frozen? ⟨w.heap.size, 2, none⟩ = false := HC2.out.z.frozen 2
    have zc2 : wc.cell? ⟨w.heap.size, 2, none⟩ = some (.bool false) := HC2.out.z.cell 2
    have zf3 : wc.frozen? ⟨w.heap.size, 3, none⟩ = false := HC2.out.z.frozen 3
    have zc3 : wc.cell? ⟨w.heap.size, 3, none⟩ = some (.int .u8 0) := HC2.out.z.cell 3
    have zf4 : wc.frozen? ⟨w.heap.size, 4, none⟩ = false := HC2.out.z.frozen 4
    have zc4 : wc.cell? ⟨w.heap.size, 4, none⟩ = some (.string (bs [])) := HC2.out.z.cell 4
    have pc0 : wc.cell? ⟨w.heap.size + 1, 0, none⟩ = some (.string d2) := HC2.out.p.cell 0
    have pf0 : wc.frozen? ⟨w.heap.size + 1, 0, none⟩ = false := HC2.out.p.frozen 0
    have pc1 : wc.cell? ⟨w.heap.size + 1, 1, none⟩ = some (.int .i64 (b2 : Int)) := HC2.out.p.cell 1
    have pf1 : wc.frozen? ⟨w.heap.size + 1, 1, none⟩ = false := HC2.out.p.frozen 1
    have pc2 : wc.cell? ⟨w.heap.size + 1, 2, none⟩ = some (.bool false) := HC2.out.p.cell 2
    have pf2 : wc.frozen? ⟨w.heap.size + 1, 2, none⟩ = false := HC2.out.p.frozen 2
    have pc3 : wc.cell? ⟨w.heap.size + 1, 3, none⟩ = some (.int .u8 0) := HC2.out.p.cell 3
    have pf3 : wc.frozen? ⟨w.heap.size + 1, 3, none⟩ = false := HC2.out.p.frozen 3
    have pc4 : wc.cell? ⟨w.heap.size + 1, 4, none⟩ = some (.string (bs [])) := HC2.out.p.cell 4
    have pf4 : wc.frozen? ⟨w.heap.size + 1, 4, none⟩ = false := HC2.out.p.frozen 4
    have hl1 : w.heap.size + 1 < wc.heap.size := HC2.out.p.lt
    have hl0 : w.heap.size < wc.heap.size := HC2.out.z.lt
    go_wp2
    refine bodyPost_ret (results_blk Tryd.results23 _ _ w.heap.size _ _ _ rfl HC2.out.fin.1 Tryd.underlying55 rfl (by kernel_rfl)) rfl ?_
    exact cut_no HRN.out HC2.out.fin.2
  subst hv120
  have HEE := Lib.hid he
  clear he
  have pc2 : wc.cell? ⟨w.heap.size + 1, 2, none⟩ = some (.bool false) := HC2.out.p.cell 2
  have pf2 : wc.frozen? ⟨w.heap.size + 1, 2, none⟩ = false := HC2.out.p.frozen 2
  have hlt2 : w.heap.size + 1 < wc.heap.size := HC2.out.p.lt
  obtain ⟨j3, hj3⟩ : ∃ j3, j2 + 1 = j3 := ⟨_, rfl⟩
  have HJ3 := Lib.hid hj3
  have hj3s : j3 ≤ s.size := by omega
  have e3 : (j2 : Int) + 1 = (j3 : Int) := by omega
  have hw1 : IntKind.i64.wrap ((j3 : Int)) = (j3 : Int) := IntWalk.i64_in _ (by omega)
  clear hj3
  go_upto_region 30 with fail
  have HC3 := Lib.hid (HC2.out.putE true)
  clear pc2 pf2 hlt2 HC2
  generalize wc.setCell ⟨w.heap.size + 1, 2, none⟩ (.bool true) = we at *
  clear hw1
  go_cut [140] from 125 to 140 (fun v W => W = we ∧ ((v = .bool true ∧ ∃ h : j3 < s.size, s[j3] = 45 ∨ s[j3] = 43) ∨ (v = .bool false ∧ (s.size ≤ j3 ∨ ∃ h : j3 < s.size, s[j3] ≠ 45 ∧ s[j3] ≠ 43))))
  case first =>
    rcases at_cases s j3 45 45 rfl with ⟨h0, h0'⟩ | ⟨h0, h0', hc, hcb⟩ | ⟨h0, h0', hc, hcb⟩
    · go_wp2_with fail
      go_meet
      case rel => exact ⟨rfl, .inr ⟨rfl, .inl h0⟩⟩
    · have HC := Lib.hid hc
      clear hc
      go_wp2_with fail
      go_meet
      case rel => exact ⟨rfl, .inl ⟨rfl, h0, .inl HC.out⟩⟩
    · rcases byte_is s[j3] 43 43 rfl with ⟨hc', hcb'⟩ | ⟨hc', hcb'⟩
      · have HC := Lib.hid hc'
        clear hc hc'
        go_wp2_with fail
        go_meet
        case rel => exact ⟨rfl, .inl ⟨rfl, h0, .inr HC.out⟩⟩
      · have HC := Lib.hid hc
        have HC' := Lib.hid hc'
        clear hc hc'
        go_wp2_with fail
        go_meet
        case rel => exact ⟨rfl, .inr ⟨rfl, .inr ⟨h0, HC.out, HC'.out⟩⟩⟩
  case rest =>
  obtain ⟨hwc8, hcs⟩ := hcut
  subst hwc8
  go_upto_if 140 with fail
  go_cut [5] from 141 to 146 (fun v W => ∃ (i2 : Nat) (g : UInt8), v = .int .i64 i2 ∧ i2 ≤ s.size ∧ Cp w d2 b2 true g (bs []) W ∧ r = restF ⟨p2, n, L8 d2, b2, 0, []⟩ g ((L8 s).drop i2))
  case first =>
    rcases hcs with ⟨rfl, h0, hg⟩ | ⟨rfl, hno⟩
    · have HRS : Hid (r = restF ⟨p2, n, L8 d2, b2, 0, []⟩ s[j3] ((L8 s).drop (j3 + 1))) := Lib.hid (by
        have hj := HJ3.out
        subst hj
        rw [HRE.out]
        rcases hg with hg | hg
        · exact fw_E hj2 HEE.out (.inl ⟨h0, hg, hg, rfl⟩)
        · exact fw_E hj2 HEE.out (.inr (.inl ⟨h0, hg, hg, rfl⟩)))
      have h0' : (j3 : Int) < s.size := by omega
      have pc3 : wc.cell? ⟨w.heap.size + 1, 3, none⟩ = some (.int .u8 0) := HC3.out.p.cell 3
      have pf3 : wc.frozen? ⟨w.heap.size + 1, 3, none⟩ = false := HC3.out.p.frozen 3
      have hlt3 : w.heap.size + 1 < wc.heap.size := HC3.out.p.lt
      clear hg
      go_wp2_with fail
      go_meet
      case rel => exact ⟨j3 + 1, s[j3], by go_num, by omega, HC3.out.putG s[j3], HRS.out⟩
    · have HRS : Hid (r = restF ⟨p2, n, L8 d2, b2, 0, []⟩ 0 ((L8 s).drop j3)) := Lib.hid (by
        have hj := HJ3.out
        subst hj
        rw [HRE.out]
        exact fw_E hj2 HEE.out (.inr (.inr ⟨hno, rfl, rfl⟩)))
      clear hno
      go_wp2_with fail
      go_meet
      case rel => exact ⟨j3, 0, rfl, by have := HJ3.out; omega, HC3.out, HRS.out⟩
  case rest =>
  obtain ⟨i2, g, hv5, hi2, hc4, hr4⟩ := hcut
  subst hv5
  have HC4 := Lib.hid hc4
  have HRR := Lib.hid hr4
  clear hc4 hr4 HC3 HRE hcs HEE
  have pc4 : wc.cell? ⟨w.heap.size + 1, 4, none⟩ = some (.string (bs [])) := HC4.out.p.cell 4
  have pf4 : wc.frozen? ⟨w.heap.size + 1, 4, none⟩ = false := HC4.out.p.frozen 4
  have hlt4 : w.heap.size + 1 < wc.heap.size := HC4.out.p.lt
  have q2 : (i2 : Int) ≤ (s.size : Int) := by omega
  have HXL : Hid (L8 (s.extract i2 s.size) = (L8 s).drop i2) := Lib.hid (by
    rw [L8_cut]
    exact List.take_of_length_le (by rw [List.length_drop, L8_len]; exact Nat.le_refl _))
  go_upto_block 4 with fail
  have HC5 := Lib.hid (HC4.out.putX (s.extract i2 s.size))
  clear pc4 pf4 hlt4 q2 HC4
  generalize s.extract i2 s.size = xs at *
  generalize wc.setCell ⟨w.heap.size + 1, 4, none⟩ (.string xs) = wx at *
  go_wp2_with fail
  go_loop [5] (fun v => ∃ k : Nat, i2 + k ≤ s.size ∧ v = .int .i64 ((i2 + k : Nat) : Int) ∧ allB (((L8 s).drop i2).take k) = true) (fun v => s.size - (intOf v).toNat)
  case atStart => exact ⟨0, by omega, by simp, rfl⟩
  case round =>
    obtain ⟨k, hk, rfl, hal⟩ := hrel
    have HA := Lib.hid hal
    clear hal
    obtain ⟨q, hq⟩ : ∃ q, i2 + k = q := ⟨_, rfl⟩
    have HQ := Lib.hid hq
    have hqs : q ≤ s.size := by omega
    rw [hq] at hk ⊢
    by_cases hlt : q < s.size
    · have hlt' : (q : Int) < s.size := by omega
      have HT : Hid (((L8 s).drop i2).take (k + 1) = ((L8 s).drop i2).take k ++ [s[q]]) := Lib.hid (by
        subst hq
        rw [List.take_succ_eq_append_getElem (by rw [List.length_drop, L8_len]; omega), List.getElem_drop]; rfl)
      have HMEM : Hid (s[q] ∈ (L8 s).drop i2) := Lib.hid (by
        have h1 : s[q] ∈ ((L8 s).drop i2).take (k + 1) := by rw [HT.out]; simp
        exact List.mem_of_mem_take h1)
      clear hq
      rcases isD_ask s[q] with ⟨hd, h1, h2, h3, h4⟩ | ⟨hd, h1, h3⟩ | ⟨hd, h1, h2, h3, h4⟩
      · have HD := Lib.hid hd
        clear hd
        go_wp2
        go_round
        case rel => exact ⟨k + 1, by have := HQ.out; omega, by have := HQ.out; exact congrArg _ (by omega), by rw [HT.out, allB_snoc, HA.out, HD.out]; rfl⟩
        case measure => simp [intOf]; omega
      · have HRN : Hid (r = none) := Lib.hid (by rw [HRR.out]; exact rest_none HMEM.out hd)
        clear hd HT
        have zf0 : wx.frozen? ⟨w.heap.size, 0, none⟩ = false := HC5.out.z.frozen 0
        have zc0 : wx.cell? ⟨w.heap.size, 0, none⟩ = some (.string (bs [])) := HC5.out.z.cell 0
        have zf1 : wx.frozen? ⟨w.heap.size, 1, none⟩ = false := HC5.out.z.frozen 1
        have zc1 : wx.cell? ⟨w.heap.size, 1, none⟩ = some (.int .i64 0) := HC5.out.z.cell 1
        have zf2 : wx.frozen? ⟨w.heap.size, 2, none⟩ = false := HC5.out.z.frozen 2
        have zc2 : wx.cell? ⟨w.heap.size, 2, none⟩ = some (.bool false) := HC5.out.z.cell 2
        have zf3 : wx.frozen? ⟨w.heap.size, 3, none⟩ = false := HC5.out.z.frozen 3
        have zc3 : wx.cell? ⟨w.heap.size, 3, none⟩ = some (.int .u8 0) := HC5.out.z.cell 3
        have zf4 : wx.frozen? ⟨w.heap.size, 4, none⟩ = false := HC5.out.z.frozen 4
        have zc4 : wx.cell? ⟨w.heap.size, 4, none⟩ = some (.string (bs [])) := HC5.out.z.cell 4
        have pc0 : wx.cell? ⟨w.heap.size + 1, 0, none⟩ = some (.string d2) := HC5.out.p.cell 0
        have pf0 : wx.frozen? ⟨w.heap.size + 1, 0, none⟩ = false := HC5.out.p.frozen 0
        have pc1 : wx.cell? ⟨w.heap.size + 1, 1, none⟩ = some (.int .i64 (b2 : Int)) := HC5.out.p.cell 1
        have pf1 : wx.frozen? ⟨w.heap.size + 1, 1, none⟩ = false := HC5.out.p.frozen 1
        have pc2 : wx.cell? ⟨w.heap.size + 1, 2, none⟩ = some (.bool true) := HC5.out.p.cell 2
        have pf2 : wx.frozen? ⟨w.heap.size + 1, 2, none⟩ = false := HC5.out.p.frozen 2
        have pc3 : wx.cell? ⟨w.heap.size + 1, 3, none⟩ = some (.int .u8 (g.toNat : Int)) := HC5.out.p.cell 3
        have pf3 : wx.frozen? ⟨w.heap.size + 1, 3, none⟩ = false := HC5.out.p.frozen 3
        have pc4 : wx.cell? ⟨w.heap.size + 1, 4, none⟩ = some (.string xs) := HC5.out.p.cell 4
        have pf4 : wx.frozen? ⟨w.heap.size + 1, 4, none⟩ = false := HC5.out.p.frozen 4
        have hl1 : w.heap.size + 1 < wx.heap.size := HC5.out.p.lt
        have hl0 : w.heap.size < wx.heap.size := HC5.out.z.lt
        go_wp2
        refine bodyPost_ret (results_blk Tryd.results23 _ _ w.heap.size _ _ _ rfl HC5.out.fin.1 Tryd.underlying55 rfl (by kernel_rfl)) rfl ?_
        exact cut_no HRN.out HC5.out.fin.2
      · have HRN : Hid (r = none) := Lib.hid (by rw [HRR.out]; exact rest_none HMEM.out hd)
        clear hd HT
        have zf0 : wx.frozen? ⟨w.heap.size, 0, none⟩ = false := HC5.out.z.frozen 0
        have zc0 : wx.cell? ⟨w.heap.size, 0, none⟩ = some (.string (bs [])) := HC5.out.z.cell 0
        have zf1 : wx.frozen? ⟨w.heap.size, 1, none⟩ = false := HC5.out.z.frozen 1
        have zc1 : wx.cell? ⟨w.heap.size, 1, none⟩ = some (.int .i64 0) := HC5.out.z.cell 1
        have zf2 : wx.frozen? ⟨w.heap.size, 2, none⟩ = false := HC5.out.z.frozen 2
        have zc2 : wx.cell? ⟨w.heap.size, 2, none⟩ = some (.bool false) := HC5.out.z.cell 2
        have zf3 : wx.frozen? ⟨w.heap.size, 3, none⟩ = false := HC5.out.z.frozen 3
        have zc3 : wx.cell? ⟨w.heap.size, 3, none⟩ = some (.int .u8 0) := HC5.out.z.cell 3
        have zf4 : wx.frozen? ⟨w.heap.size, 4, none⟩ = false := HC5.out.z.frozen 4
        have zc4 : wx.cell? ⟨w.heap.size, 4, none⟩ = some (.string (bs [])) := HC5.out.z.cell 4
        have pc0 : wx.cell? ⟨w.heap.size + 1, 0, none⟩ = some (.string d2) := HC5.out.p.cell 0
        have pf0 : wx.frozen? ⟨w.heap.size + 1, 0, none⟩ = false := HC5.out.p.frozen 0
        have pc1 : wx.cell? ⟨w.heap.size + 1, 1, none⟩ = some (.int .i64 (b2 : Int)) := HC5.out.p.cell 1
        have pf1 : wx.frozen? ⟨w.heap.size + 1, 1, none⟩ = false := HC5.out.p.frozen 1
        have pc2 : wx.cell? ⟨w.heap.size + 1, 2, none⟩ = some (.bool true) := HC5.out.p.cell 2
        have pf2 : wx.frozen? ⟨w.heap.size + 1, 2, none⟩ = false := HC5.out.p.frozen 2
        have pc3 : wx.cell? ⟨w.heap.size + 1, 3, none⟩ = some (.int .u8 (g.toNat : Int)) := HC5.out.p.cell 3
        have pf3 : wx.frozen? ⟨w.heap.size + 1, 3, none⟩ = false := HC5.out.p.frozen 3
        have pc4 : wx.cell? ⟨w.heap.size + 1, 4, none⟩ = some (.string xs) := HC5.out.p.cell 4
        have pf4 : wx.frozen? ⟨w.heap.size + 1, 4, none⟩ = false := HC5.out.p.frozen 4
        have hl1 : w.heap.size + 1 < wx.heap.size := HC5.out.p.lt
        have hl0 : w.heap.size < wx.heap.size := HC5.out.z.lt
        go_wp2
        refine bodyPost_ret (results_blk Tryd.results23 _ _ w.heap.size _ _ _ rfl HC5.out.fin.1 Tryd.underlying55 rfl (by kernel_rfl)) rfl ?_
        exact cut_no HRN.out HC5.out.fin.2
    · have hlt' : ¬ (q : Int) < s.size := by omega
      have hal : ((L8 s).drop i2).all isD = true := by
        have h1 := HA.out
        rwa [List.take_of_length_le (by rw [List.length_drop, L8_len]; have := HQ.out; omega)] at h1
      obtain ⟨p6, h6, hrs⟩ := rest_some (t := ⟨p2, n, L8 d2, b2, 0, []⟩) (g := g) hal
      have hxe : (if (L8 s).drop i2 = [] then ([] : List UInt8) else (L8 s).drop i2) = (L8 s).drop i2 := by
        split
        · rename_i h; exact h.symm
        · rfl
      have HRT : Hid (r = some ⟨p6, n, L8 d2, b2, g, (L8 s).drop i2⟩) := Lib.hid (by rw [HRR.out, hrs]; dsimp only; rw [hxe])
      have HPV : Hid (Value.agg #[.string d2, .int .i64 (b2 : Int), .bool true, .int .u8 (g.toNat : Int), .string xs] = partV ⟨p6, n, L8 d2, b2, g, (L8 s).drop i2⟩) := Lib.hid (partV_of (decide_eq_true h6) rfl HXL.out)
      clear hal hrs hxe
      have zf0 : wx.frozen? ⟨w.heap.size, 0, none⟩ = false := HC5.out.z.frozen 0
      have zc0 : wx.cell? ⟨w.heap.size, 0, none⟩ = some (.string (bs [])) := HC5.out.z.cell 0
      have zf1 : wx.frozen? ⟨w.heap.size, 1, none⟩ = false := HC5.out.z.frozen 1
      have zc1 : wx.cell? ⟨w.heap.size, 1, none⟩ = some (.int .i64 0) := HC5.out.z.cell 1
      have zf2 : wx.frozen? ⟨w.heap.size, 2, none⟩ = false := HC5.out.z.frozen 2
      have zc2 : wx.cell? ⟨w.heap.size, 2, none⟩ = some (.bool false) := HC5.out.z.cell 2
      have zf3 : wx.frozen? ⟨w.heap.size, 3, none⟩ = false := HC5.out.z.frozen 3
      have zc3 : wx.cell? ⟨w.heap.size, 3, none⟩ = some (.int .u8 0) := HC5.out.z.cell 3
      have zf4 : wx.frozen? ⟨w.heap.size, 4, none⟩ = false := HC5.out.z.frozen 4
      have zc4 : wx.cell? ⟨w.heap.size, 4, none⟩ = some (.string (bs [])) := HC5.out.z.cell 4
      have pc0 : wx.cell? ⟨w.heap.size + 1, 0, none⟩ = some (.string d2) := HC5.out.p.cell 0
      have pf0 : wx.frozen? ⟨w.heap.size + 1, 0, none⟩ = false := HC5.out.p.frozen 0
      have pc1 : wx.cell? ⟨w.heap.size + 1, 1, none⟩ = some (.int .i64 (b2 : Int)) := HC5.out.p.cell 1
      have pf1 : wx.frozen? ⟨w.heap.size + 1, 1, none⟩ = false := HC5.out.p.frozen 1
      have pc2 : wx.cell? ⟨w.heap.size + 1, 2, none⟩ = some (.bool true) := HC5.out.p.cell 2
      have pf2 : wx.frozen? ⟨w.heap.size + 1, 2, none⟩ = false := HC5.out.p.frozen 2
      have pc3 : wx.cell? ⟨w.heap.size + 1, 3, none⟩ = some (.int .u8 (g.toNat : Int)) := HC5.out.p.cell 3
      have pf3 : wx.frozen? ⟨w.heap.size + 1, 3, none⟩ = false := HC5.out.p.frozen 3
      have pc4 : wx.cell? ⟨w.heap.size + 1, 4, none⟩ = some (.string xs) := HC5.out.p.cell 4
      have pf4 : wx.frozen? ⟨w.heap.size + 1, 4, none⟩ = false := HC5.out.p.frozen 4
      have hl1 : w.heap.size + 1 < wx.heap.size := HC5.out.p.lt
      have hl0 : w.heap.size < wx.heap.size := HC5.out.z.lt
      go_wp2
      refine bodyPost_ret (results_blk Tryd.results23 _ _ w.heap.size _ _ _ rfl HC5.out.fin.1 Tryd.underlying55 rfl (by kernel_rfl)) rfl ?_
      exact cut_yes HRT.out HPV.out HC5.out.fin.2
end Go.Proofs.YtiibfejgiilakaaDoor
