/- The document's may of layer 11 by its contract. -/
import Derived.Test.YtiibfejgiilakaaDoorR11Has
import Derived.Test.YtiibfejgiilakaaDoorR11CutM
import Derived.Deep.CutRange
import Derived.Deep.CutBlock
namespace Go.Proofs.YtiibfejgiilakaaDoor
set_option maxRecDepth 100000
open Go.ChangeShapes Go.WideShapes Go.ChangeAt Go.RowKit
set_option linter.unusedVariables false
set_option linter.unusedSimpArgs false

theorem g_seven {t u : Nt} {c : UInt8} (ht : t.p = 7 → t.g ≠ 0) (h : stepF t c = some u) : u.p = 7 → u.g ≠ 0 := by
  unfold stepF at h
  cases hq : nextF t.p c with
  | none => rw [hq] at h; cases h
  | some q =>
    rw [hq] at h
    obtain rfl := Option.some.inj h
    intro h7
    rcases next_is hq with ⟨rfl, hp⟩ | ⟨rfl, hp, hc⟩ | ⟨rfl, hp, hc⟩ | ⟨rfl, hp⟩ | ⟨rfl, hp, hc⟩ | ⟨rfl, hp⟩ | ⟨rfl, hp⟩ | ⟨rfl, hp, hc⟩
    case inr.inr.inr.inr.inr.inr.inl =>
      show c ≠ 0
      intro hc
      subst hc
      unfold nextF at hq
      rw [hp] at hq
      exact absurd hq (by decide)
    all_goals (exfalso; revert h7; simp only [withF]; omega)
theorem g_go {s : List UInt8} {t : Nt} (h : goF t0 s = some t) : t.p = 7 → t.g ≠ 0 := by
  refine snoc8 (p := fun s => ∀ t, goF t0 s = some t → t.p = 7 → t.g ≠ 0) (fun t h => ?_) (fun l c ih t h => ?_) s t h
  · obtain rfl := Option.some.inj h; exact fun h => absurd h (by decide)
  · rw [go_snoc] at h
    cases hu : goF t0 l with
    | none => rw [hu] at h; cases h
    | some u => rw [hu] at h; exact g_seven (ih u hu) h
/-- mayF, as the document asks it -/
theorem may_doc {s : List UInt8} {t : Nt} (hs : s.length ≤ 1000) (ht : goF t0 s = some t) (h0 : nrm t.d ≠ []) (hr : 0 ≤ roomF (nrm t.d)) :
    mayF t = if t.p ≤ 6 then true else reachB (exF t.x) (loF (rgOf t)) (hiF (rgOf t)) := by
  have hg := good_go ht
  have hfl := front_len t.d
  have hld := hg.ld
  have hlb := hg.lb
  have hle := (room_le (nrm t.d)).1
  have hlo : -2000 ≤ loF (rgOf t) ∧ loF (rgOf t) ≤ 2000 ∧ -2000 ≤ hiF (rgOf t) ∧ hiF (rgOf t) ≤ 2000 ∧ loF (rgOf t) ≤ hiF (rgOf t) := by
    have e1 : loF (rgOf t) = (if (t.g == 45) = true then -(((t.b : Nat) : Int) - ((frontL t.d).length - (nrm t.d).length : Nat) + roomF (nrm t.d)) else ((t.b : Nat) : Int) - ((frontL t.d).length - (nrm t.d).length : Nat)) := rfl
    have e2 : hiF (rgOf t) = (if (t.g == 45) = true then -(((t.b : Nat) : Int) - ((frontL t.d).length - (nrm t.d).length : Nat)) else ((t.b : Nat) : Int) - ((frontL t.d).length - (nrm t.d).length : Nat) + roomF (nrm t.d)) := rfl
    rw [e1, e2]
    cases hgg : (t.g == 45) with
    | true => simp only [if_true]; omega
    | false => simp only [Bool.false_eq_true, if_false]; omega
  obtain ⟨b1, b2, b3, b4, b5⟩ := hlo
  unfold mayF mayR
  have h0' : ¬ (rgOf t).d = [] := h0
  have hr' : ¬ roomF (rgOf t).d < 0 := by show ¬ roomF (nrm t.d) < 0; omega
  rw [if_neg h0', if_neg hr']
  have hp : (rgOf t).p = t.p := rfl
  rw [hp]
  have hp8 := hg.p
  by_cases h6 : t.p ≤ 6
  · rw [if_neg (by omega), if_neg (by omega), if_pos h6]
    exact decide_eq_true ⟨by omega, by omega⟩
  · rw [if_neg h6]
    by_cases h7 : t.p = 7
    · rw [if_pos h7]
      have hx : t.x = [] := hg.x0 (by omega)
      have hxe : exF t.x = 0 := by rw [hx]; rfl
      rw [hxe, reach_zero b5 (by omega) (by omega)]
      by_cases hz : 0 ≤ hiF (rgOf t)
      · rw [decide_eq_true (p := 0 ≤ hiF (rgOf t)) hz]; exact decide_eq_true ⟨by omega, hz⟩
      · rw [decide_eq_false (p := 0 ≤ hiF (rgOf t)) hz]; exact decide_eq_false (fun h => hz h.2)
    · rw [if_neg h7, if_pos (by omega)]
      rfl
theorem loF_eq (t : Nt) : loF (rgOf t) = (if (t.g == 45) = true then -(((t.b : Nat) : Int) - ((frontL t.d).length - (nrm t.d).length : Nat) + roomF (nrm t.d)) else ((t.b : Nat) : Int) - ((frontL t.d).length - (nrm t.d).length : Nat)) := rfl
theorem hiF_eq (t : Nt) : hiF (rgOf t) = (if (t.g == 45) = true then -(((t.b : Nat) : Int) - ((frontL t.d).length - (nrm t.d).length : Nat)) else ((t.b : Nat) : Int) - ((frontL t.d).length - (nrm t.d).length : Nat) + roomF (nrm t.d)) := rfl
def MLoop (w : World) (gp gd : Nat) (pc : Array Value) (d : ByteArray) (e : Int) (R : Int) (v : Value) (wr : World) : Prop := ∃ k : Nat, v = .int .i64 k ∧ (k : Int) ≤ R ∧ k ≤ 16 ∧ Blk wr gp 55 pc ∧ DcBlk wr gd false d e ∧ Below w.heap.size w wr
set_option maxHeartbeats 8000000 in
theorem rmay_any (s : List UInt8) (t : Nt) (w : World) (hs : s.length ≤ 1000) (ht : goF t0 s = some t) : Calls Tryd.prog 24 #[partV t] w fun e w' => e = .returned (.bool (mayF t)) ∧ Below w.heap.size w w' := by
  have hg := good_go ht
  have hdoc := may_doc hs ht
  have hg7 := g_go ht
  have hfl := front_len t.d
  have hld := hg.ld
  have hlb := hg.lb
  have hlx := hg.lx
  have HN := Lib.hid (fun W => rnorm_any ⟨false, t.d, -(t.b : Int)⟩ W (by show t.d.length ≤ _; omega) (by show -4000000000 ≤ -(t.b : Int); omega) (by show -(t.b : Int) ≤ _; omega))
  rw [norm_eq] at HN
  have HP : Hid (partV t = _) := Lib.hid (partV.eq_1 t)
  have hgx := hg.x
  have hx0 := hg.x0
  have hx1 := hg.x1
  have hgg := hg.g
  have hlo := loF_eq t
  have hhi := hiF_eq t
  have hroom : nrm t.d ≠ [] → ((intF ⟨false, nrm t.d, ((0 : Nat) : Int)⟩).2 = 0 ↔ ((0 : Nat) : Int) ≤ roomF (nrm t.d)) := fun h => room_ok (nrm_nm h) (fun c hc => hg.d c (front_mem (end_mem hc))) 0
  have hrk : nrm t.d ≠ [] → ∀ k : Nat, ((intF ⟨false, nrm t.d, (k : Int)⟩).2 = 0 ↔ (k : Int) ≤ roomF (nrm t.d)) := fun h k => room_ok (nrm_nm h) (fun c hc => hg.d c (front_mem (end_mem hc))) k
  have hnd : allD (nrm t.d) := fun c hc => hg.d c (front_mem (end_mem hc))
  have HI := Lib.hid (fun (e : Int) (h0 : -4000000000 ≤ e) (h1 : e ≤ 4000000000) W => rint_any ⟨false, nrm t.d, e⟩ W hnd (by show (nrm t.d).length ≤ _; omega) h0 h1)
  have hrl := room_le (nrm t.d)
  have hm0 : nrm t.d = [] → mayF t = true := fun h => by unfold mayF mayR; exact if_pos h
  have hmr : nrm t.d ≠ [] → roomF (nrm t.d) < 0 → mayF t = false := fun h hr => by
    unfold mayF mayR
    have h0' : ¬ (rgOf t).d = [] := h
    have hr' : roomF (rgOf t).d < 0 := hr
    rw [if_neg h0', if_pos hr']
  have HH := Lib.hid (fun a b W h0 h1 h2 h3 h4 => has_any (bs t.x) a b W (by rw [L8_bs]; exact hgx) (by rw [bs_size]; omega) h0 h1 h2 h3 h4)
  rw [L8_bs] at HH
  generalize mayF t = r at *
  generalize loF (rgOf t) = lo at *
  generalize hiF (rgOf t) = hi at *
  have HZ : Hid (((frontL t.d).length - (nrm t.d).length : Nat) ≤ 1000) := Lib.hid (by omega)
  generalize ((frontL t.d).length - (nrm t.d).length : Nat) = z at *
  obtain ⟨p, n, d, b, g, x⟩ := t
  dsimp only at *
  generalize hnn : nrm d = nd at *
  rw [HP.out]
  unfold dcV at HN HI
  dsimp only at HN HI ⊢
  clear HP
  generalize hbe : decide (6 ≤ p) = be at *
  have HPB0 : Hid (Blk (w.alloc (.cells #[.string (bs d), .int .i64 (b : Int), .bool be, .int .u8 (g.toNat : Int), .string (bs x)] 55)) w.heap.size 55 #[.string (bs d), .int .i64 (b : Int), .bool be, .int .u8 (g.toNat : Int), .string (bs x)]) := Lib.hid (Blk.new w _ _)
  have HB0 : Hid (Below w.heap.size w (w.alloc (.cells #[.string (bs d), .int .i64 (b : Int), .bool be, .int .u8 (g.toNat : Int), .string (bs x)] 55))) := Lib.hid ((Below.refl _ _).alloc (Nat.le_refl _) _)
  by_cases h0 : nd = []
  · have hrr : r = true := hm0 h0
    rw [if_pos h0] at HN
    unfold zeroD at HN
    dsimp only at HN
    have hes : (bs ([] : List UInt8)).size = 0 := rfl
    subst hrr
    clear hdoc hg7 hg hx0 hx1 hgg hgx hlo hhi hroom hrk hm0 hmr HH HI h0 hbe hnd
    generalize bs [] = es at *
    generalize bs d = ds at *
    generalize bs x = xs at *
    go_enter Tryd.func24, Tryd.ntmps24
    go_wp2_with fail
    with_reducible refine (HN.out _).mono ?_
    rintro e1 w1 ⟨rfl, hb1⟩
    have HB1 := Lib.hid ((HB0.out.trans (hb1.mono HB0.out.size)).alloc (Nat.le_trans HB0.out.size hb1.size) (.cells #[.bool false, .string es, .int .i64 0] 52))
    clear hb1
    go_wp2
    go_ret
    exact ⟨rfl, HB1.out⟩
  rw [if_neg h0] at HN
  dsimp only at HN
  have hsz : (bs nd).size = nd.length := bs_size nd
  have hszp : 0 < nd.length := List.length_pos_iff.2 h0
  have hszb : (((bs nd).size : Int) == 0) = false := by rw [beq_eq_false_iff_ne]; omega
  have HI0 := Lib.hid (fun W => HI.out 0 (by omega) (by omega) W)
  have hroom := hroom h0
  have hrk := hrk h0
  have hmr := hmr h0
  have hdoc := hdoc h0
  obtain ⟨E, hE⟩ : ∃ E : Int, -(b : Int) + (z : Int) = E := ⟨_, rfl⟩
  have hz := HZ.out
  have hE0 : -2000 ≤ E ∧ E ≤ 2000 := by omega
  rw [hE] at HN
  obtain ⟨y1, hy1⟩ : ∃ y1, (intF ⟨false, nd, 0⟩).1 = y1 := ⟨_, rfl⟩
  obtain ⟨y2, hy2⟩ : ∃ y2, (intF ⟨false, nd, 0⟩).2 = y2 := ⟨_, rfl⟩
  rw [hy1, hy2] at HI0
  have hroom' : y2 = 0 ↔ (0 : Int) ≤ roomF nd := by rw [← hy2]; exact hroom
  have HDOC := Lib.hid hdoc
  have HRK := Lib.hid hrk
  have HMR := Lib.hid hmr
  have HE := Lib.hid hE
  have HLO := Lib.hid hlo
  have HHI := Lib.hid hhi
  have HG7 := Lib.hid hg7
  have HGG := Lib.hid hgg
  have HX0' := Lib.hid hx0
  have HX1 := Lib.hid hx1
  have HGX := Lib.hid hgx
  have HRM := Lib.hid hroom'
  have HBE := Lib.hid hbe
  have HRL := Lib.hid hrl
  have hps : p ≤ 8 := hg.p
  have hbb : b ≤ 1000 := by omega
  have hxs : x.length ≤ 1000 := by omega
  clear hroom hy1 hy2 hdoc hrk hmr hE hlo hhi hg7 hgg hx0 hx1 hgx hroom' hm0 hfl hld hlb hlx hg ht hs hnd hrl hz hnn hbe
  have HXS : Hid ((bs x).size = x.length) := Lib.hid (bs_size x)
  generalize bs x = xs at *
  go_enter Tryd.func24, Tryd.ntmps24
  go_wp2_with fail
  with_reducible refine (HN.out _).mono ?_
  rintro e1 w1 ⟨rfl, hb1⟩
  have HPB1 := Lib.hid (HPB0.out.below hb1 HPB0.out.lt)
  have HB1 := Lib.hid (HB0.out.trans (hb1.mono HB0.out.size))
  clear hb1 HPB0 HB0
  go_wp2_with fail
  with_reducible refine (HI0.out _).mono ?_
  rintro e1 w2 ⟨rfl, hb2⟩
  have HPB2 := Lib.hid ((HPB1.out.alloc _).below hb2 (Nat.lt_of_lt_of_le (HPB1.out.alloc (.cells #[] 0)).lt (by rw [World.size_alloc, World.size_alloc]; exact Nat.le_refl _)))
  have HDB2 : Hid (DcBlk w2 w1.heap.size false (bs nd) E) := Lib.hid ((Blk.new w1 52 _).below hb2 (by rw [World.size_alloc]; omega))
  have HB2 : Hid (Below w.heap.size w w2) := Lib.hid ((HB1.out.alloc HB1.out.size _).trans (hb2.mono (by rw [World.size_alloc]; have := HB1.out.size; omega)))
  have hgd : w.heap.size < w1.heap.size := HPB1.out.lt
  clear hb2 HPB1 HB1 HN HI0
  generalize w1.heap.size = gd at *
  by_cases hneg : roomF nd < 0
  · have hrr : r = false := HMR.out hneg
    have hrm := HRM.out
    have hyb : (y2 != 0) = true := by simp only [bne_iff_ne, ne_eq]; omega
    clear hrm
    subst hrr
    go_wp2
    go_ret
    exact ⟨rfl, HB2.out⟩
  have hy0 : y2 = 0 := HRM.out.2 (by omega)
  subst hy0
  have hdoc := HDOC.out (by omega)
  have c2 : w2.cell? ⟨w.heap.size, 2, none⟩ = some (.bool be) := HPB2.out.cell 2
  have c3 : w2.cell? ⟨w.heap.size, 3, none⟩ = some (.int .u8 (g.toNat : Int)) := HPB2.out.cell 3
  have c4 : w2.cell? ⟨w.heap.size, 4, none⟩ = some (.string xs) := HPB2.out.cell 4
  -- is it one of the two?
  obtain ⟨bg, hbg⟩ : ∃ q : Bool, ((g.toNat : Int) == 0) = q := ⟨_, rfl⟩
  obtain ⟨bx, hbx⟩ : ∃ q : Bool, ((xs.size : Int) == 0) = q := ⟨_, rfl⟩
  obtain ⟨q6, hq6⟩ : ∃ q : Bool, decide (p ≤ 6) = q := ⟨_, rfl⟩
  have hand : (be = false ∧ q6 = true) ∨ (be = true ∧ bg = true ∧ bx = true ∧ q6 = true) ∨ (be = true ∧ bg = false ∧ q6 = false) ∨ (be = true ∧ bg = true ∧ bx = false ∧ q6 = false) := by
    have hbe := HBE.out
    by_cases hp6 : p ≤ 6
    · have e6 : q6 = true := by rw [← hq6]; exact decide_eq_true hp6
      by_cases hp : p = 6
      · have hbt : be = true := by rw [← hbe]; exact decide_eq_true (by omega)
        have hg0 : g = 0 := HGG.out (by omega)
        have hxx : x = [] := HX0'.out (by omega)
        exact .inr (.inl ⟨hbt, by rw [← hbg, hg0]; rfl, by rw [← hbx, HXS.out, hxx]; rfl, e6⟩)
      · exact .inl ⟨by rw [← hbe]; exact decide_eq_false (by omega), e6⟩
    · have e6 : q6 = false := by rw [← hq6]; exact decide_eq_false hp6
      have hbt : be = true := by rw [← hbe]; exact decide_eq_true (by omega)
      by_cases h7 : p = 7
      · have h1 := HG7.out h7
        refine .inr (.inr (.inl ⟨hbt, ?_, e6⟩))
        rw [← hbg, beq_eq_false_iff_ne]
        intro h2
        exact h1 (UInt8.toNat_inj.1 (by have : (0 : UInt8).toNat = 0 := rfl; omega))
      · have h1 := HX1.out (by omega)
        have h2 : 0 < x.length := List.length_pos_iff.2 h1
        have h3 : bx = false := by rw [← hbx, beq_eq_false_iff_ne, HXS.out]; omega
        cases bg with
        | false => exact .inr (.inr (.inl ⟨hbt, rfl, e6⟩))
        | true => exact .inr (.inr (.inr ⟨hbt, rfl, h3, e6⟩))
  have HRR : Hid (r = if q6 = true then true else reachB (exF x) lo hi) := Lib.hid (by
    rw [hdoc, ← hq6]
    by_cases hp6 : p ≤ 6
    · rw [if_pos hp6, decide_eq_true hp6, if_pos rfl]
    · rw [if_neg hp6, decide_eq_false hp6, if_neg Bool.false_ne_true])
  clear hdoc hq6
  have hR16 : roomF nd ≤ 16 := HRL.out.1
  go_upto_region 7 with fail
  go_cut [43] from 30 to 43 (fun v W => v = .bool q6 ∧ W = w2)
  case first =>
    rcases hand with ⟨rfl, rfl⟩ | ⟨rfl, rfl, rfl, rfl⟩ | ⟨rfl, rfl, rfl⟩ | ⟨rfl, rfl, rfl, rfl⟩
    · go_wp2_with fail
      go_meet
      case rel => exact ⟨rfl, rfl⟩
    · go_wp2_with fail
      go_meet
      case rel => exact ⟨rfl, rfl⟩
    · go_wp2_with fail
      go_meet
      case rel => exact ⟨rfl, rfl⟩
    · go_wp2_with fail
      go_meet
      case rel => exact ⟨rfl, rfl⟩
  case rest =>
  obtain ⟨rfl, hwc⟩ := hcut
  subst hwc
  clear hbg hbx hand c2 c3 c4
  cases q6 with
  | true =>
    have hrr := HRR.out
    rw [if_pos rfl] at hrr
    clear HRR
    subst hrr
    go_wp2
    go_ret
    exact ⟨rfl, HB2.out⟩
  | false =>
  have hrr := HRR.out
  rw [if_neg Bool.false_ne_true] at hrr
  have HRR := Lib.hid hrr
  clear hrr
  obtain ⟨R, hR⟩ : ∃ R : Int, roomF nd = R := ⟨_, rfl⟩
  rw [hR] at HRK HRM hR16 hneg
  have HRR2 := Lib.hid hR
  clear hR
  have hR0 : 0 ≤ R := by omega
  go_upto_block 0 with fail
  go_cut [6] from 44 to 58 (fun v W => v = .int .i64 R ∧ PBlk W w.heap.size (bs d) b be g xs ∧ DcBlk W gd false (bs nd) E ∧ Below w.heap.size w W)
  case first =>
    have HML : Hid (MLoop w w.heap.size gd #[.string (bs d), .int .i64 (b : Int), .bool be, .int .u8 (g.toNat : Int), .string xs] (bs nd) E R (.int .i64 0) wc) := Lib.hid ⟨0, rfl, hR0, by omega, HPB2.out, HDB2.out, HB2.out⟩
    clear HPB2 HDB2 HB2
    go_wp2_with fail
    go_loopw [6] (fun v wr => MLoop w w.heap.size gd #[.string (bs d), .int .i64 (b : Int), .bool be, .int .u8 (g.toNat : Int), .string xs] (bs nd) E R v wr) (fun v _ => 16 - (intOf v).toNat)
    case atStart => exact HML.out
    case round =>
      clear HML
      obtain ⟨k, rfl, hkR, hk16, hp, hd, hb⟩ := hrel
      have HP := Lib.hid hp
      have HD := Lib.hid hd
      have HB := Lib.hid hb
      clear hp hd hb
      by_cases hlt : (k : Int) < 16
      · obtain ⟨k1, hk1⟩ : ∃ k1 : Nat, k + 1 = k1 := ⟨_, rfl⟩
        have ek : (k : Int) + 1 = (k1 : Int) := by omega
        have HK1 := Lib.hid hk1
        clear hk1
        obtain ⟨z1, hz1⟩ : ∃ z1, (intF ⟨false, nd, (k1 : Int)⟩).1 = z1 := ⟨_, rfl⟩
        obtain ⟨z2, hz2⟩ : ∃ z2, (intF ⟨false, nd, (k1 : Int)⟩).2 = z2 := ⟨_, rfl⟩
        have HI1 := Lib.hid (fun W => HI.out (k1 : Int) (by omega) (by omega) W)
        rw [hz1, hz2] at HI1
        have HZ2 : Hid (z2 = 0 ↔ (k1 : Int) ≤ R) := Lib.hid (by rw [← hz2]; exact HRK.out k1)
        clear hz1 hz2
        have c1 : wr.cell? ⟨gd, 1, none⟩ = some (.string (bs nd)) := HD.out.cell 1
        go_wp2_with fail
        with_reducible refine (HI1.out _).mono ?_
        rintro e1 w3 ⟨rfl, hb3⟩
        have HP3 := Lib.hid (HP.out.below hb3 HP.out.lt)
        have HD3 := Lib.hid (HD.out.below hb3 HD.out.lt)
        have HB3 := Lib.hid (HB.out.trans (hb3.mono HB.out.size))
        clear hb3 HP HD HB c1
        by_cases ho : z2 = 0
        · have hle := HZ2.out.1 ho
          subst ho
          clear HI1
          go_wp2
          go_roundw
          case rel => exact ⟨k1, rfl, hle, by omega, HP3.out, HD3.out, HB3.out⟩
          case measure => have := HK1.out; simp [intOf]; omega
        · have hzb : (z2 != 0) = true := by simpa using ho
          have hkr : Hid ((k : Int) = R) := Lib.hid (by
            have := HK1.out
            have h1 : ¬ (k1 : Int) ≤ R := fun h => ho (HZ2.out.2 h)
            omega)
          clear ho HI1
          go_wp2_with fail
          go_meet
          case rel => exact ⟨by rw [hkr.out], HP3.out, HD3.out, HB3.out⟩
      · have hkr : Hid ((k : Int) = R) := Lib.hid (by omega)
        go_wp2_with fail
        go_meet
        case rel => exact ⟨by rw [hkr.out], HP.out, HD.out, HB.out⟩
  case rest =>
  clear HPB2 HDB2 HB2
  obtain ⟨rfl, hp, hd, hb⟩ := hcut
  have HP := Lib.hid hp
  have HD := Lib.hid hd
  have HB := Lib.hid hb
  clear hp hd hb
  have c2 : wc.cell? ⟨gd, 2, none⟩ = some (.int .i64 E) := HD.out.cell 2
  have c3 : wc.cell? ⟨w.heap.size, 3, none⟩ = some (.int .u8 (g.toNat : Int)) := HP.out.cell 3
  have c4 : wc.cell? ⟨w.heap.size, 4, none⟩ = some (.string xs) := HP.out.cell 4
  have HLO2 := HLO.out
  have HHI2 := HHI.out
  have hE2 := HE.out
  rw [HRR2.out] at HLO2 HHI2
  rcases byte_is g 45 45 rfl with ⟨hg, hgb⟩ | ⟨hg, hgb⟩
  · rw [if_pos (by simpa using hg)] at HLO2 HHI2
    have hlo : Hid (lo = E - R) := Lib.hid (by omega)
    have hhi : Hid (hi = E) := Lib.hid (by omega)
    clear HLO2 HHI2 hE2 hg
    go_wp2_with fail
    with_reducible refine (HH.out _ _ _ (by omega) (by omega) (by omega) (by omega) (by omega)).mono ?_
    rintro e1 w4 ⟨rfl, rfl⟩
    go_wp2
    go_ret
    refine ⟨?_, HB.out⟩
    rw [HRR.out, hlo.out, hhi.out]
    congr 4 <;> omega
  · rw [if_neg (by simpa using hg)] at HLO2 HHI2
    have hlo : Hid (lo = -E) := Lib.hid (by omega)
    have hhi : Hid (hi = -E + R) := Lib.hid (by omega)
    clear HLO2 HHI2 hE2 hg
    go_wp2_with fail
    with_reducible refine (HH.out _ _ _ (by omega) (by omega) (by omega) (by omega) (by omega)).mono ?_
    rintro e1 w4 ⟨rfl, rfl⟩
    go_wp2
    go_ret
    refine ⟨?_, HB.out⟩
    rw [HRR.out, hlo.out, hhi.out]
    congr 4 <;> omega
end Go.Proofs.YtiibfejgiilakaaDoor
