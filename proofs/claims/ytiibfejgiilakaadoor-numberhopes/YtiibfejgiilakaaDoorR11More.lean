/- Printed by gen_r11more.py. The document's More of layer 11 by its contract. -/
import Derived.Test.YtiibfejgiilakaaDoorR11Fit
import Derived.Test.YtiibfejgiilakaaDoorR11Push
import Derived.BigQuiet
import Derived.Deep.QuietTactic
namespace Go.Proofs.YtiibfejgiilakaaDoor
set_option maxRecDepth 100000
open Go.ChangeShapes Go.WideShapes Go.ChangeAt Go.RowKit
set_option linter.unusedVariables false
set_option linter.unusedSimpArgs false

/-- the text that More answers with -/
def MoreIs (s : List UInt8) (t : Nt) (l : List UInt8) : Prop :=
  (t.p ≤ 1 → l = [48]) ∧ (2 ≤ t.p → t.p ≤ 5 → l = if (intF ⟨false, t.d, -(t.b : Int)⟩).2 = 0 then dotL t else dotL t ++ 101 :: printF (-(eOf t)))
  ∧ (t.p = 6 → l = printF (-(eOf t)))
  ∧ (7 ≤ t.p → (∃ j : Nat, j ≤ 16 ∧ fitF (t.g == 45) t.x (-(eOf t) + j) = some l ∧ Makes s l ∧ ∀ i : Nat, i < j → ¬ ∃ u, fitF (t.g == 45) t.x (-(eOf t) + i) = some u ∧ Makes s u) ∨ (nrm t.d = [] ∧ (∀ i : Nat, i ≤ 16 → ¬ ∃ u, fitF (t.g == 45) t.x (-(eOf t) + i) = some u ∧ Makes s u) ∧ l = if t.x = [] then [48] else []))
def MoreRes (s : List UInt8) (K : List UInt8 → Prop) (w : World) (e : Ending) (w' : World) : Prop := ∃ u, e = .returned (.string u) ∧ Makes s (L8 u) ∧ K (L8 u) ∧ u.size ≤ 60 ∧ Below w.heap.size w w'
theorem step_p {t u : Nt} {c : UInt8} (h : stepF t c = some u) : nextF t.p c = some u.p := by
  unfold stepF at h
  cases hq : nextF t.p c with
  | none => rw [hq] at h; cases h
  | some q =>
    rw [hq] at h
    obtain rfl := Option.some.inj h
    rcases next_is hq with ⟨rfl, _⟩ | ⟨rfl, _⟩ | ⟨rfl, _⟩ | ⟨rfl, _⟩ | ⟨rfl, _⟩ | ⟨rfl, _⟩ | ⟨rfl, _⟩ | ⟨rfl, _⟩ <;> rfl
theorem next_one {p : Nat} {c : UInt8} (h : nextF p c = some 1) : p = 0 ∧ c = 45 := by
  unfold nextF at h
  split at h <;> (repeat' split at h) <;> first | exact ⟨rfl, by assumption⟩ | (exact absurd (Option.some.inj h) (by decide)) | cases h
theorem next_four {p q : Nat} {c : UInt8} (h : nextF p c = some q) : q = 4 ↔ c = 46 := by
  constructor
  · intro h4
    subst h4
    unfold nextF at h
    split at h <;> (repeat' split at h) <;> first | assumption | (exact absurd (Option.some.inj h) (by decide)) | cases h
  · intro hc
    subst hc
    unfold nextF at h
    split at h <;> simp [isD, isE] at h <;> first | exact h.symm | omega | cases h
theorem go_low {s : List UInt8} {t : Nt} (h : goF t0 s = some t) : (t.p = 0 → s = []) ∧ (t.p = 1 → s = [45]) := by
  refine snoc8 (p := fun s => ∀ t, goF t0 s = some t → (t.p = 0 → s = []) ∧ (t.p = 1 → s = [45])) (fun t h => ?_) (fun l c ih t h => ?_) s t h
  · obtain rfl := Option.some.inj h
    exact ⟨fun _ => rfl, fun h => absurd h (by decide)⟩
  · rw [go_snoc] at h
    cases hu : goF t0 l with
    | none => rw [hu] at h; cases h
    | some u =>
      rw [hu] at h
      have hq := step_p (t := u) h
      refine ⟨fun h0 => ?_, fun h1 => ?_⟩
      · rw [h0] at hq
        rcases next_is hq with ⟨h, _⟩ | ⟨h, _⟩ | ⟨h, _⟩ | ⟨h, _⟩ | ⟨h, _⟩ | ⟨h, _⟩ | ⟨h, _⟩ | ⟨h, _⟩ <;> cases h
      · rw [h1] at hq
        obtain ⟨hp, hc⟩ := next_one hq
        rw [(ih u hu).1 hp, hc]
        rfl
theorem go_last {l : List UInt8} {c : UInt8} {t : Nt} (h : goF t0 (l ++ [c]) = some t) : t.p = 4 ↔ c = 46 := by
  rw [go_snoc] at h
  cases hu : goF t0 l with
  | none => rw [hu] at h; cases h
  | some u =>
    rw [hu] at h
    exact next_four (step_p (t := u) h)
theorem fit_dig {neg : Bool} {x u : List UInt8} {e : Int} (h : fitF neg x e = some u) : allD u := by
  unfold fitF at h
  generalize (if neg = true then -e else e) = e1 at h
  by_cases h0 : e1 < 0
  · rw [if_pos h0] at h; cases h
  · rw [if_neg h0, printF_nat (by omega)] at h
    split at h
    · obtain rfl := Option.some.inj h; exact fun c hc => by cases hc
    · split at h
      · obtain rfl := Option.some.inj h; exact dig_all _
      · split at h
        · obtain rfl := Option.some.inj h
          exact fun c hc => dig_all _ c (List.mem_of_mem_drop hc)
        · cases h
theorem fit_len {neg : Bool} {x u : List UInt8} {e : Int} (h : fitF neg x e = some u) (he : -5000 ≤ e ∧ e ≤ 5000) : u.length ≤ 20 := by
  have hp : ∀ k : Int, -5000 ≤ k → k ≤ 5000 → (printF k).length ≤ 20 := fun k h0 h1 => by rw [← bs_size]; exact print_len (by omega) (by omega)
  have h5 : -5000 ≤ (if neg = true then -e else e) ∧ (if neg = true then -e else e) ≤ 5000 := by split <;> omega
  unfold fitF at h
  generalize (if neg = true then -e else e) = e1 at h h5
  have h6 := hp e1 h5.1 h5.2
  split at h
  · cases h
  · split at h
    · obtain rfl := Option.some.inj h; simp
    · split at h
      · obtain rfl := Option.some.inj h; exact h6
      · split at h
        · obtain rfl := Option.some.inj h; rw [List.length_drop]; omega
        · cases h
theorem norm_eOf (t : Nt) : (normF ⟨false, t.d, -(t.b : Int)⟩).e = eOf t := by
  rw [norm_eq]
  unfold eOf
  split <;> rfl
theorem ret_more {s : List UInt8} {K : List UInt8 → Prop} {w w' : World} {u : ByteArray} {l : List UInt8} (hl : L8 u = l) (hm : Makes s l) (hk : K l) (hu : u.size ≤ 60) (hb : Below w.heap.size w w') : MoreRes s K w (.returned (.string u)) w' := ⟨u, rfl, by rw [hl]; exact hm, by rw [hl]; exact hk, hu, hb⟩
def MoL (w : World) (a gp gd : Nat) (ss : ByteArray) (pc : Array Value) (nn : Bool) (nds : ByteArray) (E : Int) (G : Nat → Prop) (v : Value) (wr : World) : Prop := ∃ j : Nat, j ≤ 17 ∧ v = .int .i64 (-E + j) ∧ Blk wr a 27 #[.string ss] ∧ Blk wr gp 55 pc ∧ DcBlk wr gd nn nds E ∧ Below w.heap.size w wr ∧ ∀ i, i < j → ¬ G i
theorem not_none {u : List UInt8} (h : allD u) : ((bs u).toList == [110, 111, 110, 101]) = false := by
  rw [L8_toList, L8_bs]
  refine beq_eq_false_iff_ne.2 (fun e => ?_)
  have := h 110 (by rw [e]; simp)
  exact absurd this (by decide)
set_option maxHeartbeats 16000000 in
theorem rmore_any (a : Nat) (s : List UInt8) (t : Nt) (w : World) (h : RN w a s) (hs : s.length ≤ 900) (ht : goF t0 s = some t) (hm : mayF t = true) : Calls Tryd.prog 15 #[.pointer (some ⟨a, 0, none⟩)] w (MoreRes s (MoreIs s t) w) := by
  have HK0 : Hid (t.p ≤ 1 → MoreIs s t [48]) := Lib.hid (fun h => ⟨fun _ => rfl, fun h2 => by omega, fun h2 => by omega, fun h2 => by omega⟩)
  have HKD : Hid (2 ≤ t.p → t.p ≤ 5 → (intF ⟨false, t.d, -(t.b : Int)⟩).2 = 0 → MoreIs s t (dotL t)) := Lib.hid (fun h h5 h0 => ⟨fun h2 => by omega, fun _ _ => by rw [if_pos h0], fun h2 => by omega, fun h2 => by omega⟩)
  have HKE : Hid (2 ≤ t.p → t.p ≤ 5 → (intF ⟨false, t.d, -(t.b : Int)⟩).2 ≠ 0 → MoreIs s t (dotL t ++ 101 :: printF (-(eOf t)))) := Lib.hid (fun h h5 h0 => ⟨fun h2 => by omega, fun _ _ => by rw [if_neg h0], fun h2 => by omega, fun h2 => by omega⟩)
  have HKP : Hid (t.p = 6 → MoreIs s t (printF (-(eOf t)))) := Lib.hid (fun h => ⟨fun h2 => by omega, fun _ h2 => by omega, fun _ => rfl, fun h2 => by omega⟩)
  have HKL : Hid (7 ≤ t.p → ∀ (j : Nat) (u : List UInt8), j ≤ 16 → fitF (t.g == 45) t.x (-(eOf t) + j) = some u → Makes s u → (∀ i : Nat, i < j → ¬ ∃ u, fitF (t.g == 45) t.x (-(eOf t) + i) = some u ∧ Makes s u) → MoreIs s t u) := Lib.hid (fun h j u f0 f1 f2 f3 => ⟨fun h2 => by omega, fun _ h2 => by omega, fun h2 => by omega, fun _ => .inl ⟨j, f0, f1, f2, f3⟩⟩)
  have HKZ : Hid (7 ≤ t.p → nrm t.d = [] → (∀ i : Nat, i ≤ 16 → ¬ ∃ u, fitF (t.g == 45) t.x (-(eOf t) + i) = some u ∧ Makes s u) → MoreIs s t (if t.x = [] then [48] else [])) := Lib.hid (fun h h0 f => ⟨fun h2 => by omega, fun _ h2 => by omega, fun h2 => by omega, fun _ => .inr ⟨h0, f, rfl⟩⟩)
  have hp01 : s = [] ∨ s = [45] → t.p ≤ 1 := by
    rintro (h | h)
    · rw [h] at ht; obtain rfl := Option.some.inj ht; decide
    · rw [h] at ht; obtain rfl := Option.some.inj ht; decide
  have HP01 := Lib.hid hp01
  clear hp01
  generalize MoreIs s t = K at *
  have HX0 : Hid (Blk w a 27 #[.string (bs s)]) := Lib.hid h
  have c0 : w.cell? ⟨a, 0, none⟩ = some (.string (bs s)) := h.cell 0
  have hlt : a < w.heap.size := h.lt
  have hss : (bs s).size = s.length := bs_size s
  have HLS : Hid (L8 (bs s) = s) := Lib.hid (L8_bs s)
  clear h
  by_cases h0 : s = []
  · subst h0
    have HK00 := Lib.hid (HK0.out (HP01.out (.inl rfl)))
    clear HP01
    have z : (bs ([] : List UInt8)).size = 0 := rfl
    generalize bs ([] : List UInt8) = ss at *
    clear hss HLS ht hm
    go_enter Tryd.func15, Tryd.ntmps15
    go_wp2_with fail
    go_ret
    exact ret_more rfl makes_none HK00.out (by decide) (Below.refl _ _)
  have hpos : 0 < s.length := List.length_pos_iff.2 h0
  have hz : (((bs s).size : Int) == 0) = false := beq_eq_false_iff_ne.2 (by omega)
  by_cases h1 : s = [45]
  · subst h1
    have HK00 := Lib.hid (HK0.out (HP01.out (.inr rfl)))
    clear HP01
    have q : ((bs [45]).toList == [45]) = true := by kernel_rfl
    generalize bs [45] = ss at *
    clear hss HLS ht hm
    go_enter Tryd.func15, Tryd.ntmps15
    go_wp2_with fail
    go_ret
    exact ret_more rfl makes_minus HK00.out (by decide) (Below.refl _ _)
  have hq45 : ((bs s).toList == [45]) = false := by rw [L8_toList, L8_bs]; simpa using h1
  have hg := good_go ht
  have hp2 : 2 ≤ t.p := by
    have := go_low ht
    rcases Nat.lt_or_ge t.p 2 with h | h
    · exfalso
      rcases Nat.lt_or_ge t.p 1 with h' | h'
      · exact h0 (this.1 (by omega))
      · exact h1 (this.2 (by omega))
    · exact h
  obtain ⟨m, hmm⟩ : ∃ m, s.length = m + 1 := ⟨s.length - 1, by omega⟩
  have hlast : ∃ h : m < (bs s).size, (t.p = 4 ↔ (bs s)[m] = 46) := by
    have hmlt : m < (bs s).size := by omega
    refine ⟨hmlt, ?_⟩
    have hsp : s = s.take m ++ [(bs s)[m]] := by
      have e := L8_take (bs s) m hmlt
      rw [L8_bs, List.take_of_length_le (by omega)] at e
      exact e
    have ht2 := ht
    rw [hsp] at ht2
    exact go_last ht2
  obtain ⟨hmlt, h46⟩ := hlast
  have HC := Lib.hid (fun W => cut_any (bs s) W (by omega))
  rw [L8_bs, ht] at HC
  have hx0 := fun h => hg.x0 (show t.p ≤ 7 from h)
  have hx1 := hg.x1
  have hgg := hg.g
  have hg7 := g_go ht
  have hp8 := hg.p
  have hld := hg.ld
  have hlb := hg.lb
  have hlx := hg.lx
  have heb := e_bd (by omega) ht
  have HN := Lib.hid (fun W => rnorm_any ⟨false, t.d, -(t.b : Int)⟩ W (by show t.d.length ≤ _; omega) (by show -4000000000 ≤ -(t.b : Int); omega) (by show -(t.b : Int) ≤ _; omega))
  have hnl := norm_len ⟨false, t.d, -(t.b : Int)⟩
  have hna := norm_allD (x := ⟨false, t.d, -(t.b : Int)⟩) hg.d
  have hne := norm_eOf t
  have HI := Lib.hid (fun W => rint_any (normF ⟨false, t.d, -(t.b : Int)⟩) W hna (by have e : (⟨false, t.d, -(t.b : Int)⟩ : Dc).d = t.d := rfl; rw [e] at hnl; omega) (by rw [hne]; omega) (by rw [hne]; omega))
  rw [int_norm] at HI
  have HPR := Lib.hid (fun W => rprint_any (-(eOf t)) (by omega) (by omega) W)
  have hPs : (bs (printF (-(eOf t)))).size ≤ 20 := print_len (by omega) (by omega)
  have HPL : Hid (L8 (bs (printF (-(eOf t)))) = printF (-(eOf t))) := Lib.hid (L8_bs _)
  have HMD : Hid (t.p ≤ 5 → (intF ⟨false, t.d, -(t.b : Int)⟩).2 = 0 → Makes s (dotL t)) := Lib.hid (fun h5 h => makes_dot ht ⟨hp2, h5⟩ h)
  have HME : Hid (t.p ≤ 5 → (intF ⟨false, t.d, -(t.b : Int)⟩).2 ≠ 0 → Makes s (dotL t ++ 101 :: printF (-(eOf t)))) := Lib.hid (fun h5 h => makes_e (by omega) ht ⟨hp2, h5⟩ hm h)
  have HMP : Hid (t.p = 6 → Makes s (printF (-(eOf t)))) := Lib.hid (fun h6 => makes_p (by omega) ht h6 hm)
  have HML : Hid (7 ≤ t.p → nrm t.d ≠ [] → ∃ j : Nat, j ≤ 16 ∧ ∃ u, fitF (t.g == 45) t.x (-(eOf t) + j) = some u ∧ Makes s u) := Lib.hid (fun h7 h => makes_loop (by omega) ht h7 hm h)
  have HMZ : Hid (7 ≤ t.p → nrm t.d = [] → Makes s (if t.x = [] then [48] else [])) := Lib.hid (fun h7 h => makes_last ht h7 h)
  have HFI := Lib.hid (fun e he W => rfit_any t e W (by omega) he)
  have HRD := Lib.hid (fun u hu W => rread_any (bs s ++ u) W (by rw [ByteArray.size_append]; exact hu))
  have HRI : Hid (∀ u x, u.length ≤ 60 → readF (s ++ u) = some x → allD x.d ∧ x.d.length ≤ 1000000 ∧ -4000000000 ≤ x.e ∧ x.e ≤ 4000000000) := Lib.hid (fun u x hu hr => read_in' (by rw [List.length_append]; omega) hr)
  obtain ⟨y1, hy1⟩ : ∃ y1, (intF ⟨false, t.d, -(t.b : Int)⟩).1 = y1 := ⟨_, rfl⟩
  obtain ⟨y2, hy2⟩ : ∃ y2, (intF ⟨false, t.d, -(t.b : Int)⟩).2 = y2 := ⟨_, rfl⟩
  rw [hy1, hy2] at HI
  rw [hy2] at HMD HME HKD HKE
  clear hg hld hy1 hy2 hm hnl hna
  generalize hE : eOf t = E at *
  generalize normF ⟨false, t.d, -(t.b : Int)⟩ = nd at *
  have hbx : (bs t.x).size = t.x.length := bs_size t.x
  generalize bs (printF (-E)) = PE at *
  have hwE : IntKind.i64.wrap (-E) = -E := IntWalk.i64_in _ (by omega)
  have hwb : IntKind.i64.wrap (-(t.b : Int)) = -(t.b : Int) := IntWalk.i64_in _ (by omega)
  obtain ⟨p, n, d, b, g, x⟩ := t
  dsimp only at *
  unfold partV at HFI
  dsimp only at HFI
  generalize hss2 : bs s = ss at *
  clear hss2
  obtain ⟨nn, ndd, ne⟩ := nd
  dsimp only at hne
  have hne' := hne.symm
  subst hne'
  clear hne
  unfold dcV at HN HI
  dsimp only at HN HI
  go_enter Tryd.func15, Tryd.ntmps15
  go_wp2_with fail
  with_reducible refine (HC.out _).mono ?_
  rintro e1 w1 ⟨a0, a1, a2, a3, a4, rfl, hpv, hb1⟩
  have hpe := hpv _ rfl
  simp [partV] at hpe
  obtain ⟨rfl, rfl, rfl, rfl, rfl⟩ := hpe
  have HX1 := Lib.hid (HX0.out.below hb1 HX0.out.lt)
  have HB1 := Lib.hid hb1
  clear hpv hb1 HC HX0
  generalize hbds : bs d = ds at *
  generalize hbxs : bs x = xs at *
  have HXS : Hid (L8 xs = x) := Lib.hid (by rw [← hbxs, L8_bs])
  generalize hbnd : bs ndd = nds at *
  generalize hbe : decide (6 ≤ p) = be at *
  have HPB1 : Hid (Blk (w1.alloc (.cells #[.string ds, .int .i64 (b : Int), .bool be, .int .u8 (g.toNat : Int), .string xs] 55)) w1.heap.size 55 #[.string ds, .int .i64 (b : Int), .bool be, .int .u8 (g.toNat : Int), .string xs]) := Lib.hid (Blk.new w1 _ _)
  have HX2 := Lib.hid (HX1.out.alloc (.cells #[.string ds, .int .i64 (b : Int), .bool be, .int .u8 (g.toNat : Int), .string xs] 55))
  have HB2 := Lib.hid (HB1.out.alloc HB1.out.size (.cells #[.string ds, .int .i64 (b : Int), .bool be, .int .u8 (g.toNat : Int), .string xs] 55))
  have hal1 : a < w1.heap.size := HX1.out.lt
  clear HX1 HB1 hbds hbxs hbnd
  go_wp2_with fail
  with_reducible refine (HN.out _).mono ?_
  rintro e1 w2 ⟨rfl, hb2⟩
  obtain ⟨gp, hgp⟩ : ∃ gp, w1.heap.size = gp := ⟨_, rfl⟩
  rw [hgp] at HPB1 hal1
  have HPB : Hid (Blk (w2.alloc (.cells #[.bool nn, .string nds, .int .i64 E] 52)) gp 55 #[.string ds, .int .i64 (b : Int), .bool be, .int .u8 (g.toNat : Int), .string xs]) := Lib.hid ((HPB1.out.below hb2 HPB1.out.lt).alloc _)
  have HX3 : Hid (Blk (w2.alloc (.cells #[.bool nn, .string nds, .int .i64 E] 52)) a 27 #[.string ss]) := Lib.hid ((HX2.out.below hb2 HX2.out.lt).alloc _)
  have HDB : Hid (DcBlk (w2.alloc (.cells #[.bool nn, .string nds, .int .i64 E] 52)) w2.heap.size nn nds E) := Lib.hid (Blk.new w2 _ _)
  have HB3 : Hid (Below w.heap.size w (w2.alloc (.cells #[.bool nn, .string nds, .int .i64 E] 52))) := Lib.hid ((HB2.out.trans (hb2.mono HB2.out.size)).alloc (Nat.le_trans HB2.out.size hb2.size) _)
  have hpl2 : gp < w2.heap.size := (HPB1.out.below hb2 HPB1.out.lt).lt
  have hal2 : a < w2.heap.size := (HX2.out.below hb2 HX2.out.lt).lt
  obtain ⟨gd, hgd⟩ : ∃ gd, w2.heap.size = gd := ⟨_, rfl⟩
  rw [hgd] at HDB
  rw [hgp]
  clear hb2 HPB1 HX2 HB2 HN
  generalize hi46 : (ss[m].toNat : Int) = c46 at *
  have hcs : (p = 4 ∧ (c46 == 46) = true) ∨ (p ≠ 4 ∧ (c46 == 46) = false) := by
    rw [← hi46]
    by_cases h4 : p = 4
    · left
      refine ⟨h4, ?_⟩
      rw [h46.1 h4]
      rfl
    · right
      refine ⟨h4, beq_eq_false_iff_ne.2 (fun h => h4 (h46.2 ?_))⟩
      apply UInt8.toNat_inj.1
      have : (46 : UInt8).toNat = 46 := rfl
      omega
  have c1 := HX3.out.cell 0
  have hal3 : a < (w2.alloc (.cells #[.bool nn, .string nds, .int .i64 E] 52)).heap.size := HX3.out.lt
  have hszm : (ss.size : Int) = (m : Int) + 1 := by omega
  have hmlt' : (m : Int) < ss.size := by omega
  have hwm : IntKind.i64.wrap (m : Int) = (m : Int) := IntWalk.i64_in _ (by omega)
  clear h46 c0 hlt hq45
  rcases hcs with ⟨h4, hb46⟩ | ⟨h4, hb46⟩
  · have hbf : be = false := by rw [← hbe]; exact decide_eq_false (by omega)
    subst hbf
    have hdl : dotL ⟨p, n, d, b, g, x⟩ = [48] := by unfold dotL; rw [if_pos h4]
    go_wp2_with fail
    go_quiet (fail)
    have hdq := below_drewN' (Below.refl (w2.alloc (.cells #[.bool nn, .string nds, .int .i64 E] 52)).heap.size (w2.alloc (.cells #[.bool nn, .string nds, .int .i64 E] 52))) nq
    have HPB5 := Lib.hid (HPB.out.below hdq HPB.out.lt)
    have HDB5 := Lib.hid (HDB.out.below hdq HDB.out.lt)
    have HX5 := Lib.hid (HX3.out.below hdq HX3.out.lt)
    have HB5 := Lib.hid (HB3.out.trans (hdq.mono HB3.out.size))
    clear hdq HPB HDB HX3 HB3 c1 hal3 hszm hmlt' hwm hb46
    generalize (w2.alloc (.cells #[.bool nn, .string nds, .int .i64 E] 52)).drewN nq = w5 at *
    have hgpl := HPB5.out.lt
    have hgdl := HDB5.out.lt
    have hal5 := HX5.out.lt
    have v2 : w5.cell? ⟨gp, 2, none⟩ = some (.bool false) := HPB5.out.cell 2
    have v3 : w5.cell? ⟨gp, 3, none⟩ = some (.int .u8 (g.toNat : Int)) := HPB5.out.cell 3
    have v4 : w5.cell? ⟨gp, 4, none⟩ = some (.string xs) := HPB5.out.cell 4
    have vd : w5.cell? ⟨gd, 2, none⟩ = some (.int .i64 E) := HDB5.out.cell 2
    have vd0 : w5.cell? ⟨gd, 0, none⟩ = some (.bool nn) := HDB5.out.cell 0
    have vd1 : w5.cell? ⟨gd, 1, none⟩ = some (.string nds) := HDB5.out.cell 1
    have v0 : w5.cell? ⟨gp, 0, none⟩ = some (.string ds) := HPB5.out.cell 0
    have v1 : w5.cell? ⟨gp, 1, none⟩ = some (.int .i64 (b : Int)) := HPB5.out.cell 1
    go_wp2_with fail
    with_reducible refine (HI.out _).mono ?_
    rintro e1 w6 ⟨rfl, hb3⟩
    have HB4 := Lib.hid (HB5.out.trans (hb3.mono HB5.out.size))
    have HDB4 : Hid (DcBlk w6 gd nn nds E) := Lib.hid (HDB5.out.below hb3 HDB5.out.lt)
    clear hb3 HB5 HPB5 HX5 HI
    by_cases hy : y2 = 0
    · have hyb : (y2 == 0) = true := beq_iff_eq.2 hy
      have HMK := Lib.hid (HMD.out (by omega) hy)
      go_wp2_with fail
      go_ret
      exact ret_more (l := dotL ⟨p, n, d, b, g, x⟩) hdl.symm HMK.out (HKD.out (by omega) (by omega) hy) (by decide) HB4.out
    · have hyb : (y2 == 0) = false := beq_eq_false_iff_ne.2 hy
      have HMK := Lib.hid (HME.out (by omega) hy)
      have y52 : w6.cell? ⟨gd, 2, none⟩ = some (.int .i64 E) := HDB4.out.cell 2
      have hgdl : gd < w6.heap.size := HDB4.out.lt
      have e1' := ByteArray.size_append (a := (⟨#[48]⟩ : ByteArray)) (b := ⟨#[101]⟩)
      have e2' := ByteArray.size_append (a := (⟨#[48]⟩ : ByteArray) ++ ⟨#[101]⟩) (b := PE)
      have e3' : (⟨#[101]⟩ : ByteArray).size = 1 := rfl
      have e4' : ((⟨#[48]⟩ : ByteArray) : ByteArray).size ≤ 1 := by decide
      have g1 : ¬ ((⟨#[48]⟩ : ByteArray) : ByteArray).size + (⟨#[101]⟩ : ByteArray).size > 9223372036854775807 := by omega
      have g2 : ¬ ((⟨#[48]⟩ : ByteArray) ++ ⟨#[101]⟩ : ByteArray).size + PE.size > 9223372036854775807 := by omega
      have hRs : ((⟨#[48]⟩ : ByteArray) ++ ⟨#[101]⟩ ++ PE : ByteArray).size ≤ 60 := by omega
      have HRL : Hid (L8 ((⟨#[48]⟩ : ByteArray) ++ ⟨#[101]⟩ ++ PE) = dotL ⟨p, n, d, b, g, x⟩ ++ 101 :: printF (-E)) := Lib.hid (by rw [L8_app, L8_app, HPL.out, hdl]; rfl)
      clear e1' e2' e3' e4'
      go_wp2_with fail
      with_reducible refine (HPR.out _).mono ?_
      rintro e1 w4 ⟨rfl, hst⟩
      have HB9 := Lib.hid (HB4.out.trans (hst.lower _))
      clear hst
      go_wp2_with fail
      go_ret
      exact ret_more HRL.out HMK.out (HKE.out (by omega) (by omega) hy) hRs HB9.out
  · by_cases h5 : p ≤ 5
    · have hbf : be = false := by rw [← hbe]; exact decide_eq_false (by omega)
      subst hbf
      have hdl : dotL ⟨p, n, d, b, g, x⟩ = [] := by unfold dotL; rw [if_neg h4]
      go_wp2_with fail
      go_quiet (fail)
      have hdq := below_drewN' (Below.refl (w2.alloc (.cells #[.bool nn, .string nds, .int .i64 E] 52)).heap.size (w2.alloc (.cells #[.bool nn, .string nds, .int .i64 E] 52))) nq
      have HPB5 := Lib.hid (HPB.out.below hdq HPB.out.lt)
      have HDB5 := Lib.hid (HDB.out.below hdq HDB.out.lt)
      have HX5 := Lib.hid (HX3.out.below hdq HX3.out.lt)
      have HB5 := Lib.hid (HB3.out.trans (hdq.mono HB3.out.size))
      clear hdq HPB HDB HX3 HB3 c1 hal3 hszm hmlt' hwm hb46
      generalize (w2.alloc (.cells #[.bool nn, .string nds, .int .i64 E] 52)).drewN nq = w5 at *
      have hgpl := HPB5.out.lt
      have hgdl := HDB5.out.lt
      have hal5 := HX5.out.lt
      have v2 : w5.cell? ⟨gp, 2, none⟩ = some (.bool false) := HPB5.out.cell 2
      have v3 : w5.cell? ⟨gp, 3, none⟩ = some (.int .u8 (g.toNat : Int)) := HPB5.out.cell 3
      have v4 : w5.cell? ⟨gp, 4, none⟩ = some (.string xs) := HPB5.out.cell 4
      have vd : w5.cell? ⟨gd, 2, none⟩ = some (.int .i64 E) := HDB5.out.cell 2
      have vd0 : w5.cell? ⟨gd, 0, none⟩ = some (.bool nn) := HDB5.out.cell 0
      have vd1 : w5.cell? ⟨gd, 1, none⟩ = some (.string nds) := HDB5.out.cell 1
      have v0 : w5.cell? ⟨gp, 0, none⟩ = some (.string ds) := HPB5.out.cell 0
      have v1 : w5.cell? ⟨gp, 1, none⟩ = some (.int .i64 (b : Int)) := HPB5.out.cell 1
      go_wp2_with fail
      with_reducible refine (HI.out _).mono ?_
      rintro e1 w6 ⟨rfl, hb3⟩
      have HB4 := Lib.hid (HB5.out.trans (hb3.mono HB5.out.size))
      have HDB4 : Hid (DcBlk w6 gd nn nds E) := Lib.hid (HDB5.out.below hb3 HDB5.out.lt)
      clear hb3 HB5 HPB5 HX5 HI
      by_cases hy : y2 = 0
      · have hyb : (y2 == 0) = true := beq_iff_eq.2 hy
        have HMK := Lib.hid (HMD.out (by omega) hy)
        go_wp2_with fail
        go_ret
        exact ret_more (l := dotL ⟨p, n, d, b, g, x⟩) hdl.symm HMK.out (HKD.out (by omega) (by omega) hy) (by decide) HB4.out
      · have hyb : (y2 == 0) = false := beq_eq_false_iff_ne.2 hy
        have HMK := Lib.hid (HME.out (by omega) hy)
        have y52 : w6.cell? ⟨gd, 2, none⟩ = some (.int .i64 E) := HDB4.out.cell 2
        have hgdl : gd < w6.heap.size := HDB4.out.lt
        have e1' := ByteArray.size_append (a := (⟨#[]⟩ : ByteArray)) (b := ⟨#[101]⟩)
        have e2' := ByteArray.size_append (a := (⟨#[]⟩ : ByteArray) ++ ⟨#[101]⟩) (b := PE)
        have e3' : (⟨#[101]⟩ : ByteArray).size = 1 := rfl
        have e4' : ((⟨#[]⟩ : ByteArray) : ByteArray).size ≤ 1 := by decide
        have g1 : ¬ ((⟨#[]⟩ : ByteArray) : ByteArray).size + (⟨#[101]⟩ : ByteArray).size > 9223372036854775807 := by omega
        have g2 : ¬ ((⟨#[]⟩ : ByteArray) ++ ⟨#[101]⟩ : ByteArray).size + PE.size > 9223372036854775807 := by omega
        have hRs : ((⟨#[]⟩ : ByteArray) ++ ⟨#[101]⟩ ++ PE : ByteArray).size ≤ 60 := by omega
        have HRL : Hid (L8 ((⟨#[]⟩ : ByteArray) ++ ⟨#[101]⟩ ++ PE) = dotL ⟨p, n, d, b, g, x⟩ ++ 101 :: printF (-E)) := Lib.hid (by rw [L8_app, L8_app, HPL.out, hdl]; rfl)
        clear e1' e2' e3' e4'
        go_wp2_with fail
        with_reducible refine (HPR.out _).mono ?_
        rintro e1 w4 ⟨rfl, hst⟩
        have HB9 := Lib.hid (HB4.out.trans (hst.lower _))
        clear hst
        go_wp2_with fail
        go_ret
        exact ret_more HRL.out HMK.out (HKE.out (by omega) (by omega) hy) hRs HB9.out
    have hbt : be = true := by rw [← hbe]; exact decide_eq_true (by omega)
    subst hbt
    by_cases h6 : p = 6
    · have hg0 : ((g.toNat : Int) == 0) = true := by rw [hgg (by omega)]; rfl
      have hx00 : ((xs.size : Int) == 0) = true := beq_iff_eq.2 (by rw [hbx, hx0 (by omega)]; rfl)
      have HMK := Lib.hid (HMP.out h6)
      have HK6 := Lib.hid (HKP.out h6)
      clear hx0 hx1 hgg hg7 hbx hlx h6 h4 h5 hbe hp2
      go_wp2_with fail
      go_quiet (fail)
      have hdq := below_drewN' (Below.refl (w2.alloc (.cells #[.bool nn, .string nds, .int .i64 E] 52)).heap.size (w2.alloc (.cells #[.bool nn, .string nds, .int .i64 E] 52))) nq
      have HPB5 := Lib.hid (HPB.out.below hdq HPB.out.lt)
      have HDB5 := Lib.hid (HDB.out.below hdq HDB.out.lt)
      have HX5 := Lib.hid (HX3.out.below hdq HX3.out.lt)
      have HB5 := Lib.hid (HB3.out.trans (hdq.mono HB3.out.size))
      clear hdq HPB HDB HX3 HB3 c1 hal3 hszm hmlt' hwm hb46
      generalize (w2.alloc (.cells #[.bool nn, .string nds, .int .i64 E] 52)).drewN nq = w5 at *
      have hgpl := HPB5.out.lt
      have hgdl := HDB5.out.lt
      have hal5 := HX5.out.lt
      have v2 : w5.cell? ⟨gp, 2, none⟩ = some (.bool true) := HPB5.out.cell 2
      have v3 : w5.cell? ⟨gp, 3, none⟩ = some (.int .u8 (g.toNat : Int)) := HPB5.out.cell 3
      have v4 : w5.cell? ⟨gp, 4, none⟩ = some (.string xs) := HPB5.out.cell 4
      have vd : w5.cell? ⟨gd, 2, none⟩ = some (.int .i64 E) := HDB5.out.cell 2
      have vd0 : w5.cell? ⟨gd, 0, none⟩ = some (.bool nn) := HDB5.out.cell 0
      have vd1 : w5.cell? ⟨gd, 1, none⟩ = some (.string nds) := HDB5.out.cell 1
      have v0 : w5.cell? ⟨gp, 0, none⟩ = some (.string ds) := HPB5.out.cell 0
      have v1 : w5.cell? ⟨gp, 1, none⟩ = some (.int .i64 (b : Int)) := HPB5.out.cell 1
      go_wp2_with fail
      with_reducible refine (HPR.out _).mono ?_
      rintro e1 w6 ⟨rfl, hst⟩
      have HB9 := Lib.hid (HB5.out.trans (hst.lower _))
      clear hst
      go_wp2_with fail
      go_ret
      exact ret_more HPL.out HMK.out HK6.out (by omega) HB9.out
    have h7 : 7 ≤ p := by omega
    obtain ⟨bz, hbz⟩ : ∃ q : Bool, ((xs.size : Int) == 0) = q := ⟨_, rfl⟩
    have hbzx : (bz = true ↔ x = []) := by
      rw [← hbz, beq_iff_eq, hbx]
      constructor
      · intro h; exact List.eq_nil_of_length_eq_zero (by omega)
      · intro h; rw [h]; rfl
    have hgz : bz = true → ((g.toNat : Int) == 0) = false := fun h => by
      have hxe := hbzx.1 h
      have hp7 : p = 7 := by
        rcases Nat.lt_or_ge p 8 with h | h
        · omega
        · exact absurd hxe (hx1 (by omega))
      refine beq_eq_false_iff_ne.2 (fun h2 => hg7 hp7 ?_)
      apply UInt8.toNat_inj.1
      have : (0 : UInt8).toNat = 0 := rfl
      omega
    have HBZ := Lib.hid hbzx
    have hw16 : IntKind.i64.wrap (16 - E) = 16 - E := IntWalk.i64_in _ (by omega)
    have hz3 : (bz = true ∧ ((g.toNat : Int) == 0) = false) ∨ bz = false := by
      cases bz with
      | true => exact .inl ⟨rfl, hgz rfl⟩
      | false => exact .inr rfl
    obtain ⟨G, hGG⟩ : ∃ G : Nat → Prop, ∀ j : Nat, G j ↔ ∃ u, fitF (g == 45) x (-E + j) = some u ∧ Makes s u := ⟨fun j => ∃ u, fitF (g == 45) x (-E + j) = some u ∧ Makes s u, fun j => Iff.rfl⟩
    have HGG := Lib.hid hGG
    clear hx0 hx1 hgg hg7 hbzx hgz hbx hlx h6 h4 h5 hbe hp2 hGG
    go_wp2_with fail
    go_quiet (fail)
    have hdq := below_drewN' (Below.refl (w2.alloc (.cells #[.bool nn, .string nds, .int .i64 E] 52)).heap.size (w2.alloc (.cells #[.bool nn, .string nds, .int .i64 E] 52))) nq
    have HPB5 := Lib.hid (HPB.out.below hdq HPB.out.lt)
    have HDB5 := Lib.hid (HDB.out.below hdq HDB.out.lt)
    have HX5 := Lib.hid (HX3.out.below hdq HX3.out.lt)
    have HB5 := Lib.hid (HB3.out.trans (hdq.mono HB3.out.size))
    clear hdq HPB HDB HX3 HB3 c1 hal3 hszm hmlt' hwm hb46
    generalize (w2.alloc (.cells #[.bool nn, .string nds, .int .i64 E] 52)).drewN nq = w5 at *
    have hgpl := HPB5.out.lt
    have hgdl := HDB5.out.lt
    have hal5 := HX5.out.lt
    have v2 : w5.cell? ⟨gp, 2, none⟩ = some (.bool true) := HPB5.out.cell 2
    have v3 : w5.cell? ⟨gp, 3, none⟩ = some (.int .u8 (g.toNat : Int)) := HPB5.out.cell 3
    have v4 : w5.cell? ⟨gp, 4, none⟩ = some (.string xs) := HPB5.out.cell 4
    have vd : w5.cell? ⟨gd, 2, none⟩ = some (.int .i64 E) := HDB5.out.cell 2
    have vd0 : w5.cell? ⟨gd, 0, none⟩ = some (.bool nn) := HDB5.out.cell 0
    have vd1 : w5.cell? ⟨gd, 1, none⟩ = some (.string nds) := HDB5.out.cell 1
    have v0 : w5.cell? ⟨gp, 0, none⟩ = some (.string ds) := HPB5.out.cell 0
    have v1 : w5.cell? ⟨gp, 1, none⟩ = some (.int .i64 (b : Int)) := HPB5.out.cell 1
    rcases hz3 with ⟨hz1, hg1⟩ | hz1
    · go_wp2_with fail
      go_loopw [9] (fun v wr => MoL w a gp gd ss #[.string ds, .int .i64 (b : Int), .bool true, .int .u8 (g.toNat : Int), .string xs] nn nds E G v wr) (fun v _ => (17 - E - intOf v).toNat)
      case atStart => exact ⟨0, by omega, by simp, HX5.out, HPB5.out, HDB5.out, HB5.out, fun i hi => absurd hi (Nat.not_lt_zero i)⟩
      case round =>
        clear HX5 HPB5 HDB5 HB5 v0 v1 v2 v3 v4 vd0 vd1 vd hgpl hgdl hal5
        obtain ⟨j, hj, rfl, hxb, hpb, hdb, hb, hG⟩ := hrel
        have HX6 := Lib.hid hxb
        have HP6 := Lib.hid hpb
        have HD6 := Lib.hid hdb
        have HB6 := Lib.hid hb
        have HG6 := Lib.hid hG
        have k0 : wr.cell? ⟨a, 0, none⟩ = some (.string ss) := hxb.cell 0
        have u0 : wr.cell? ⟨gp, 0, none⟩ = some (.string ds) := hpb.cell 0
        have u1 : wr.cell? ⟨gp, 1, none⟩ = some (.int .i64 (b : Int)) := hpb.cell 1
        have u2 : wr.cell? ⟨gp, 2, none⟩ = some (.bool true) := hpb.cell 2
        have u3 : wr.cell? ⟨gp, 3, none⟩ = some (.int .u8 (g.toNat : Int)) := hpb.cell 3
        have u4 : wr.cell? ⟨gp, 4, none⟩ = some (.string xs) := hpb.cell 4
        have ud : wr.cell? ⟨gd, 2, none⟩ = some (.int .i64 E) := hdb.cell 2
        have l1 := hxb.lt
        have l2 := hpb.lt
        have l3 := hdb.lt
        clear hxb hpb hdb hb hG
        obtain ⟨ev, hev⟩ : ∃ ev, -E + (j : Int) = ev := ⟨_, rfl⟩
        rw [hev]
        have HEV := Lib.hid hev
        have hevb : -1000 ≤ ev ∧ ev ≤ 1017 := by omega
        by_cases hj16 : j ≤ 16
        · have hle : ev ≤ 16 - E := by omega
          have hwv : IntKind.i64.wrap (ev + 1) = ev + 1 := IntWalk.i64_in _ (by omega)
          have HF := Lib.hid (fun W => HFI.out ev (by omega) W)
          have HJ := Lib.hid hj16
          clear hev hj16
          cases hr : fitF (g == 45) x ev with
          | none =>
            rw [hr] at HF
            have hng : ¬ G j := fun hgj => by
              obtain ⟨u, h1, _⟩ := (HGG.out j).1 hgj
              rw [HEV.out, hr] at h1
              cases h1
            have HNG := Lib.hid hng
            have q : ((bs [110, 111, 110, 101]).toList == [110, 111, 110, 101]) = true := by kernel_rfl
            have HQ : Hid (bs ((none : Option (List UInt8)).getD [110, 111, 110, 101]) = bs [110, 111, 110, 101]) := Lib.hid rfl
            generalize bs [110, 111, 110, 101] = nn5 at *
            clear hng hr
            go_wp2_with fail
            with_reducible refine (HF.out _).mono ?_
            rintro en w6 ⟨rfl, hb6⟩
            rw [HQ.out]
            have HX7 := Lib.hid (HX6.out.below hb6 HX6.out.lt)
            have HP7 := Lib.hid (HP6.out.below hb6 HP6.out.lt)
            have HD7 := Lib.hid (HD6.out.below hb6 HD6.out.lt)
            have HB7 := Lib.hid (HB6.out.trans (hb6.mono HB6.out.size))
            clear hb6 HX6 HP6 HD6 HB6 HF HQ k0 u0 u1 u2 u3 u4 ud l1 l2 l3
            go_wp2_with fail
            go_roundw
            case rel => exact ⟨j + 1, by have := HJ.out; omega, by have := HEV.out; go_num, HX7.out, HP7.out, HD7.out, HB7.out, fun i hi => by
              rcases Nat.lt_or_ge i j with h | h
              · exact HG6.out i h
              · rw [show i = j by omega]; exact HNG.out⟩
            case measure => have := HEV.out; simp [intOf]; omega
          | some u =>
            rw [hr] at HF
            have hua := fit_dig hr
            have hul := fit_len hr (by omega)
            have q := not_none hua
            have HQ : Hid (bs ((some u).getD [110, 111, 110, 101]) = bs u) := Lib.hid rfl
            have HUL : Hid (L8 (bs u) = u) := Lib.hid (L8_bs u)
            have hus : (bs u).size ≤ 20 := by rw [bs_size]; exact hul
            have HIZ := Lib.hid (fun W => rint_any zeroD W (fun c hc => by cases hc) (by decide) (by decide) (by decide))
            unfold dcV zeroD at HIZ
            dsimp only at HIZ
            generalize bs u = tu at *
            have hcat : L8 (ss ++ tu) = s ++ u := by rw [L8_app, HLS.out, HUL.out]
            have HR := Lib.hid (fun W => HRD.out tu (by omega) W)
            rw [hcat] at HR
            have hsum : ¬ ss.size + tu.size > 9223372036854775807 := by omega
            have HRI2 := Lib.hid (fun xr hx => HRI.out u xr (by omega) hx)
            have hnx : (¬ Makes s u) → ¬ G j := fun hmk hgj => by
              obtain ⟨u2, h1, h2⟩ := (HGG.out j).1 hgj
              rw [HEV.out, hr] at h1
              obtain rfl := Option.some.inj h1
              exact hmk h2
            have HNX := Lib.hid hnx
            have HKU : Hid (Makes s u → K u) := Lib.hid (fun hmk => HKL.out h7 j u HJ.out (by rw [HEV.out]; exact hr) hmk (fun i hi hgi => HG6.out i hi ((HGG.out i).2 hgi)))
            clear hnx hr hua hul hcat
            go_wp2_with fail
            with_reducible refine (HF.out _).mono ?_
            rintro en w6 ⟨rfl, hb6⟩
            rw [HQ.out]
            have HX7 := Lib.hid (HX6.out.below hb6 HX6.out.lt)
            have HP7 := Lib.hid (HP6.out.below hb6 HP6.out.lt)
            have HD7 := Lib.hid (HD6.out.below hb6 HD6.out.lt)
            have HB7 := Lib.hid (HB6.out.trans (hb6.mono HB6.out.size))
            clear hb6 HX6 HP6 HD6 HB6 HF HQ k0 u0 u1 u2 u3 u4 ud l1 l2 l3
            have k0 : w6.cell? ⟨a, 0, none⟩ = some (.string ss) := HX7.out.cell 0
            have l1 := HX7.out.lt
            cases hrd : readF (s ++ u) with
            | none =>
              rw [hrd] at HR
              unfold readV dcV zeroD at HR
              dsimp only at HR
              have hng := HNX.out (fun ⟨xr, h1, _⟩ => by rw [hrd] at h1; cases h1)
              have HNG := Lib.hid hng
              generalize bs [] = es at *
              clear hng hrd
              go_wp2_with fail
              with_reducible refine (HR.out _).mono ?_
              rintro en w7 ⟨rfl, hb7⟩
              have HX8 := Lib.hid ((HX7.out.below hb7 HX7.out.lt).alloc (.cells #[.bool false, .string es, .int .i64 0] 52))
              have HP8 := Lib.hid ((HP7.out.below hb7 HP7.out.lt).alloc (.cells #[.bool false, .string es, .int .i64 0] 52))
              have HD8 := Lib.hid ((HD7.out.below hb7 HD7.out.lt).alloc (.cells #[.bool false, .string es, .int .i64 0] 52))
              have HB8 := Lib.hid ((HB7.out.trans (hb7.mono HB7.out.size)).alloc (Nat.le_trans HB7.out.size hb7.size) (.cells #[.bool false, .string es, .int .i64 0] 52))
              clear hb7 HX7 HP7 HD7 HB7 HR k0 l1
              go_wp2_with fail
              with_reducible refine (HIZ.out _).mono ?_
              rintro en w8 ⟨rfl, hb8⟩
              have HX9 := Lib.hid (HX8.out.below hb8 HX8.out.lt)
              have HP9 := Lib.hid (HP8.out.below hb8 HP8.out.lt)
              have HD9 := Lib.hid (HD8.out.below hb8 HD8.out.lt)
              have HB9 := Lib.hid (HB8.out.trans (hb8.mono HB8.out.size))
              clear hb8 HX8 HP8 HD8 HB8 HIZ
              go_wp2_with fail
              go_roundw
              case rel => exact ⟨j + 1, by have := HJ.out; omega, by have := HEV.out; go_num, HX9.out, HP9.out, HD9.out, HB9.out, fun i hi => by
                rcases Nat.lt_or_ge i j with h | h
                · exact HG6.out i h
                · rw [show i = j by omega]; exact HNG.out⟩
              case measure => have := HEV.out; simp [intOf]; omega
            | some xr =>
              rw [hrd] at HR
              obtain ⟨b1, b2, b3, b4⟩ := HRI2.out xr hrd
              have HIX := Lib.hid (fun W => rint_any xr W b1 b2 b3 b4)
              have HMKX : Hid ((intF xr).2 = 0 → Makes s u) := Lib.hid (fun h => ⟨xr, hrd, h⟩)
              have HNGX : Hid ((intF xr).2 ≠ 0 → ¬ G j) := Lib.hid (fun h => HNX.out (fun ⟨x2, h1, h2⟩ => by
                rw [hrd] at h1
                obtain rfl := Option.some.inj h1
                exact h h2))
              obtain ⟨i1, hi1⟩ : ∃ i1, (intF xr).1 = i1 := ⟨_, rfl⟩
              obtain ⟨i2, hi2⟩ : ∃ i2, (intF xr).2 = i2 := ⟨_, rfl⟩
              rw [hi1, hi2] at HIX
              rw [hi2] at HMKX HNGX
              clear b1 b2 b3 b4 hrd hi1 hi2 HIZ HNX
              obtain ⟨rn, rd, re⟩ := xr
              unfold readV dcV at HR
              unfold dcV at HIX
              dsimp only at HR HIX
              generalize bs rd = rs at *
              go_wp2_with fail
              with_reducible refine (HR.out _).mono ?_
              rintro en w7 ⟨rfl, hb7⟩
              have HX8 := Lib.hid ((HX7.out.below hb7 HX7.out.lt).alloc (.cells #[.bool rn, .string rs, .int .i64 re] 52))
              have HP8 := Lib.hid ((HP7.out.below hb7 HP7.out.lt).alloc (.cells #[.bool rn, .string rs, .int .i64 re] 52))
              have HD8 := Lib.hid ((HD7.out.below hb7 HD7.out.lt).alloc (.cells #[.bool rn, .string rs, .int .i64 re] 52))
              have HB8 := Lib.hid ((HB7.out.trans (hb7.mono HB7.out.size)).alloc (Nat.le_trans HB7.out.size hb7.size) (.cells #[.bool rn, .string rs, .int .i64 re] 52))
              clear hb7 HX7 HP7 HD7 HB7 HR k0 l1
              go_wp2_with fail
              with_reducible refine (HIX.out _).mono ?_
              rintro en w8 ⟨rfl, hb8⟩
              have HX9 := Lib.hid (HX8.out.below hb8 HX8.out.lt)
              have HP9 := Lib.hid (HP8.out.below hb8 HP8.out.lt)
              have HD9 := Lib.hid (HD8.out.below hb8 HD8.out.lt)
              have HB9 := Lib.hid (HB8.out.trans (hb8.mono HB8.out.size))
              clear hb8 HX8 HP8 HD8 HB8 HIX
              by_cases hy : i2 = 0
              · have HMK := Lib.hid (HMKX.out hy)
                have hyb : (i2 == 0) = true := beq_iff_eq.2 hy
                clear hy
                go_wp2_with fail
                go_ret
                exact ret_more HUL.out HMK.out (HKU.out HMK.out) (by omega) HB9.out
              · have HNG := Lib.hid (HNGX.out hy)
                have hyb : (i2 == 0) = false := beq_eq_false_iff_ne.2 hy
                clear hy
                go_wp2_with fail
                go_roundw
                case rel => exact ⟨j + 1, by have := HJ.out; omega, by have := HEV.out; go_num, HX9.out, HP9.out, HD9.out, HB9.out, fun i hi => by
                  rcases Nat.lt_or_ge i j with h | h
                  · exact HG6.out i h
                  · rw [show i = j by omega]; exact HNG.out⟩
                case measure => have := HEV.out; simp [intOf]; omega
        · have hle : ¬ ev ≤ 16 - E := by omega
          have hnr : nrm d = [] := by
            rcases Classical.em (nrm d = []) with h | h
            · exact h
            · exfalso
              obtain ⟨i, hi, u, f1, f2⟩ := HML.out h7 h
              exact HG6.out i (by omega) ((HGG.out i).2 ⟨u, f1, f2⟩)
          have HMK := Lib.hid (HMZ.out h7 hnr)
          have HKF := Lib.hid (HKZ.out h7 hnr (fun i hi hgi => HG6.out i (by omega) ((HGG.out i).2 hgi)))
          clear hnr
          go_wp2_with fail
          go_ret
          exact ret_more (l := [48]) rfl (by have h := HMK.out; rw [if_pos (HBZ.out.1 hz1)] at h; exact h) (by have h := HKF.out; rw [if_pos (HBZ.out.1 hz1)] at h; exact h) (by decide) HB6.out
    · go_wp2_with fail
      go_loopw [9] (fun v wr => MoL w a gp gd ss #[.string ds, .int .i64 (b : Int), .bool true, .int .u8 (g.toNat : Int), .string xs] nn nds E G v wr) (fun v _ => (17 - E - intOf v).toNat)
      case atStart => exact ⟨0, by omega, by simp, HX5.out, HPB5.out, HDB5.out, HB5.out, fun i hi => absurd hi (Nat.not_lt_zero i)⟩
      case round =>
        clear HX5 HPB5 HDB5 HB5 v0 v1 v2 v3 v4 vd0 vd1 vd hgpl hgdl hal5
        obtain ⟨j, hj, rfl, hxb, hpb, hdb, hb, hG⟩ := hrel
        have HX6 := Lib.hid hxb
        have HP6 := Lib.hid hpb
        have HD6 := Lib.hid hdb
        have HB6 := Lib.hid hb
        have HG6 := Lib.hid hG
        have k0 : wr.cell? ⟨a, 0, none⟩ = some (.string ss) := hxb.cell 0
        have u0 : wr.cell? ⟨gp, 0, none⟩ = some (.string ds) := hpb.cell 0
        have u1 : wr.cell? ⟨gp, 1, none⟩ = some (.int .i64 (b : Int)) := hpb.cell 1
        have u2 : wr.cell? ⟨gp, 2, none⟩ = some (.bool true) := hpb.cell 2
        have u3 : wr.cell? ⟨gp, 3, none⟩ = some (.int .u8 (g.toNat : Int)) := hpb.cell 3
        have u4 : wr.cell? ⟨gp, 4, none⟩ = some (.string xs) := hpb.cell 4
        have ud : wr.cell? ⟨gd, 2, none⟩ = some (.int .i64 E) := hdb.cell 2
        have l1 := hxb.lt
        have l2 := hpb.lt
        have l3 := hdb.lt
        clear hxb hpb hdb hb hG
        obtain ⟨ev, hev⟩ : ∃ ev, -E + (j : Int) = ev := ⟨_, rfl⟩
        rw [hev]
        have HEV := Lib.hid hev
        have hevb : -1000 ≤ ev ∧ ev ≤ 1017 := by omega
        by_cases hj16 : j ≤ 16
        · have hle : ev ≤ 16 - E := by omega
          have hwv : IntKind.i64.wrap (ev + 1) = ev + 1 := IntWalk.i64_in _ (by omega)
          have HF := Lib.hid (fun W => HFI.out ev (by omega) W)
          have HJ := Lib.hid hj16
          clear hev hj16
          cases hr : fitF (g == 45) x ev with
          | none =>
            rw [hr] at HF
            have hng : ¬ G j := fun hgj => by
              obtain ⟨u, h1, _⟩ := (HGG.out j).1 hgj
              rw [HEV.out, hr] at h1
              cases h1
            have HNG := Lib.hid hng
            have q : ((bs [110, 111, 110, 101]).toList == [110, 111, 110, 101]) = true := by kernel_rfl
            have HQ : Hid (bs ((none : Option (List UInt8)).getD [110, 111, 110, 101]) = bs [110, 111, 110, 101]) := Lib.hid rfl
            generalize bs [110, 111, 110, 101] = nn5 at *
            clear hng hr
            go_wp2_with fail
            with_reducible refine (HF.out _).mono ?_
            rintro en w6 ⟨rfl, hb6⟩
            rw [HQ.out]
            have HX7 := Lib.hid (HX6.out.below hb6 HX6.out.lt)
            have HP7 := Lib.hid (HP6.out.below hb6 HP6.out.lt)
            have HD7 := Lib.hid (HD6.out.below hb6 HD6.out.lt)
            have HB7 := Lib.hid (HB6.out.trans (hb6.mono HB6.out.size))
            clear hb6 HX6 HP6 HD6 HB6 HF HQ k0 u0 u1 u2 u3 u4 ud l1 l2 l3
            go_wp2_with fail
            go_roundw
            case rel => exact ⟨j + 1, by have := HJ.out; omega, by have := HEV.out; go_num, HX7.out, HP7.out, HD7.out, HB7.out, fun i hi => by
              rcases Nat.lt_or_ge i j with h | h
              · exact HG6.out i h
              · rw [show i = j by omega]; exact HNG.out⟩
            case measure => have := HEV.out; simp [intOf]; omega
          | some u =>
            rw [hr] at HF
            have hua := fit_dig hr
            have hul := fit_len hr (by omega)
            have q := not_none hua
            have HQ : Hid (bs ((some u).getD [110, 111, 110, 101]) = bs u) := Lib.hid rfl
            have HUL : Hid (L8 (bs u) = u) := Lib.hid (L8_bs u)
            have hus : (bs u).size ≤ 20 := by rw [bs_size]; exact hul
            have HIZ := Lib.hid (fun W => rint_any zeroD W (fun c hc => by cases hc) (by decide) (by decide) (by decide))
            unfold dcV zeroD at HIZ
            dsimp only at HIZ
            generalize bs u = tu at *
            have hcat : L8 (ss ++ tu) = s ++ u := by rw [L8_app, HLS.out, HUL.out]
            have HR := Lib.hid (fun W => HRD.out tu (by omega) W)
            rw [hcat] at HR
            have hsum : ¬ ss.size + tu.size > 9223372036854775807 := by omega
            have HRI2 := Lib.hid (fun xr hx => HRI.out u xr (by omega) hx)
            have hnx : (¬ Makes s u) → ¬ G j := fun hmk hgj => by
              obtain ⟨u2, h1, h2⟩ := (HGG.out j).1 hgj
              rw [HEV.out, hr] at h1
              obtain rfl := Option.some.inj h1
              exact hmk h2
            have HNX := Lib.hid hnx
            have HKU : Hid (Makes s u → K u) := Lib.hid (fun hmk => HKL.out h7 j u HJ.out (by rw [HEV.out]; exact hr) hmk (fun i hi hgi => HG6.out i hi ((HGG.out i).2 hgi)))
            clear hnx hr hua hul hcat
            go_wp2_with fail
            with_reducible refine (HF.out _).mono ?_
            rintro en w6 ⟨rfl, hb6⟩
            rw [HQ.out]
            have HX7 := Lib.hid (HX6.out.below hb6 HX6.out.lt)
            have HP7 := Lib.hid (HP6.out.below hb6 HP6.out.lt)
            have HD7 := Lib.hid (HD6.out.below hb6 HD6.out.lt)
            have HB7 := Lib.hid (HB6.out.trans (hb6.mono HB6.out.size))
            clear hb6 HX6 HP6 HD6 HB6 HF HQ k0 u0 u1 u2 u3 u4 ud l1 l2 l3
            have k0 : w6.cell? ⟨a, 0, none⟩ = some (.string ss) := HX7.out.cell 0
            have l1 := HX7.out.lt
            cases hrd : readF (s ++ u) with
            | none =>
              rw [hrd] at HR
              unfold readV dcV zeroD at HR
              dsimp only at HR
              have hng := HNX.out (fun ⟨xr, h1, _⟩ => by rw [hrd] at h1; cases h1)
              have HNG := Lib.hid hng
              generalize bs [] = es at *
              clear hng hrd
              go_wp2_with fail
              with_reducible refine (HR.out _).mono ?_
              rintro en w7 ⟨rfl, hb7⟩
              have HX8 := Lib.hid ((HX7.out.below hb7 HX7.out.lt).alloc (.cells #[.bool false, .string es, .int .i64 0] 52))
              have HP8 := Lib.hid ((HP7.out.below hb7 HP7.out.lt).alloc (.cells #[.bool false, .string es, .int .i64 0] 52))
              have HD8 := Lib.hid ((HD7.out.below hb7 HD7.out.lt).alloc (.cells #[.bool false, .string es, .int .i64 0] 52))
              have HB8 := Lib.hid ((HB7.out.trans (hb7.mono HB7.out.size)).alloc (Nat.le_trans HB7.out.size hb7.size) (.cells #[.bool false, .string es, .int .i64 0] 52))
              clear hb7 HX7 HP7 HD7 HB7 HR k0 l1
              go_wp2_with fail
              with_reducible refine (HIZ.out _).mono ?_
              rintro en w8 ⟨rfl, hb8⟩
              have HX9 := Lib.hid (HX8.out.below hb8 HX8.out.lt)
              have HP9 := Lib.hid (HP8.out.below hb8 HP8.out.lt)
              have HD9 := Lib.hid (HD8.out.below hb8 HD8.out.lt)
              have HB9 := Lib.hid (HB8.out.trans (hb8.mono HB8.out.size))
              clear hb8 HX8 HP8 HD8 HB8 HIZ
              go_wp2_with fail
              go_roundw
              case rel => exact ⟨j + 1, by have := HJ.out; omega, by have := HEV.out; go_num, HX9.out, HP9.out, HD9.out, HB9.out, fun i hi => by
                rcases Nat.lt_or_ge i j with h | h
                · exact HG6.out i h
                · rw [show i = j by omega]; exact HNG.out⟩
              case measure => have := HEV.out; simp [intOf]; omega
            | some xr =>
              rw [hrd] at HR
              obtain ⟨b1, b2, b3, b4⟩ := HRI2.out xr hrd
              have HIX := Lib.hid (fun W => rint_any xr W b1 b2 b3 b4)
              have HMKX : Hid ((intF xr).2 = 0 → Makes s u) := Lib.hid (fun h => ⟨xr, hrd, h⟩)
              have HNGX : Hid ((intF xr).2 ≠ 0 → ¬ G j) := Lib.hid (fun h => HNX.out (fun ⟨x2, h1, h2⟩ => by
                rw [hrd] at h1
                obtain rfl := Option.some.inj h1
                exact h h2))
              obtain ⟨i1, hi1⟩ : ∃ i1, (intF xr).1 = i1 := ⟨_, rfl⟩
              obtain ⟨i2, hi2⟩ : ∃ i2, (intF xr).2 = i2 := ⟨_, rfl⟩
              rw [hi1, hi2] at HIX
              rw [hi2] at HMKX HNGX
              clear b1 b2 b3 b4 hrd hi1 hi2 HIZ HNX
              obtain ⟨rn, rd, re⟩ := xr
              unfold readV dcV at HR
              unfold dcV at HIX
              dsimp only at HR HIX
              generalize bs rd = rs at *
              go_wp2_with fail
              with_reducible refine (HR.out _).mono ?_
              rintro en w7 ⟨rfl, hb7⟩
              have HX8 := Lib.hid ((HX7.out.below hb7 HX7.out.lt).alloc (.cells #[.bool rn, .string rs, .int .i64 re] 52))
              have HP8 := Lib.hid ((HP7.out.below hb7 HP7.out.lt).alloc (.cells #[.bool rn, .string rs, .int .i64 re] 52))
              have HD8 := Lib.hid ((HD7.out.below hb7 HD7.out.lt).alloc (.cells #[.bool rn, .string rs, .int .i64 re] 52))
              have HB8 := Lib.hid ((HB7.out.trans (hb7.mono HB7.out.size)).alloc (Nat.le_trans HB7.out.size hb7.size) (.cells #[.bool rn, .string rs, .int .i64 re] 52))
              clear hb7 HX7 HP7 HD7 HB7 HR k0 l1
              go_wp2_with fail
              with_reducible refine (HIX.out _).mono ?_
              rintro en w8 ⟨rfl, hb8⟩
              have HX9 := Lib.hid (HX8.out.below hb8 HX8.out.lt)
              have HP9 := Lib.hid (HP8.out.below hb8 HP8.out.lt)
              have HD9 := Lib.hid (HD8.out.below hb8 HD8.out.lt)
              have HB9 := Lib.hid (HB8.out.trans (hb8.mono HB8.out.size))
              clear hb8 HX8 HP8 HD8 HB8 HIX
              by_cases hy : i2 = 0
              · have HMK := Lib.hid (HMKX.out hy)
                have hyb : (i2 == 0) = true := beq_iff_eq.2 hy
                clear hy
                go_wp2_with fail
                go_ret
                exact ret_more HUL.out HMK.out (HKU.out HMK.out) (by omega) HB9.out
              · have HNG := Lib.hid (HNGX.out hy)
                have hyb : (i2 == 0) = false := beq_eq_false_iff_ne.2 hy
                clear hy
                go_wp2_with fail
                go_roundw
                case rel => exact ⟨j + 1, by have := HJ.out; omega, by have := HEV.out; go_num, HX9.out, HP9.out, HD9.out, HB9.out, fun i hi => by
                  rcases Nat.lt_or_ge i j with h | h
                  · exact HG6.out i h
                  · rw [show i = j by omega]; exact HNG.out⟩
                case measure => have := HEV.out; simp [intOf]; omega
        · have hle : ¬ ev ≤ 16 - E := by omega
          have hnr : nrm d = [] := by
            rcases Classical.em (nrm d = []) with h | h
            · exact h
            · exfalso
              obtain ⟨i, hi, u, f1, f2⟩ := HML.out h7 h
              exact HG6.out i (by omega) ((HGG.out i).2 ⟨u, f1, f2⟩)
          have HMK := Lib.hid (HMZ.out h7 hnr)
          have HKF := Lib.hid (HKZ.out h7 hnr (fun i hi hgi => HG6.out i (by omega) ((HGG.out i).2 hgi)))
          clear hnr
          go_wp2_with fail
          go_ret
          exact ret_more (l := []) rfl (by have h := HMK.out; rw [if_neg (fun hx => by have := HBZ.out.2 hx; rw [hz1] at this; cases this)] at h; exact h) (by have h := HKF.out; rw [if_neg (fun hx => by have := HBZ.out.2 hx; rw [hz1] at this; cases this)] at h; exact h) (by decide) HB6.out
theorem more_uniq {s : List UInt8} {t : Nt} {l m : List UInt8} (h : MoreIs s t l) (k : MoreIs s t m) : l = m := by
  obtain ⟨a0, a1, a2, a3⟩ := h
  obtain ⟨b0, b1, b2, b3⟩ := k
  by_cases h1 : t.p ≤ 1
  · rw [a0 h1, b0 h1]
  by_cases h5 : t.p ≤ 5
  · rw [a1 (by omega) h5, b1 (by omega) h5]
  by_cases h6 : t.p = 6
  · rw [a2 h6, b2 h6]
  have h7 : 7 ≤ t.p := by omega
  rcases a3 h7 with ⟨j, f0, f1, f2, f3⟩ | ⟨z1, z2, z3⟩
  · rcases b3 h7 with ⟨i, g0, g1, g2, g3⟩ | ⟨y1, y2, y3⟩
    · rcases Nat.lt_trichotomy j i with q | q | q
      · exact absurd ⟨l, f1, f2⟩ (g3 j q)
      · rw [q, g1] at f1
        exact (Option.some.inj f1).symm
      · exact absurd ⟨m, g1, g2⟩ (f3 i q)
    · exact absurd ⟨l, f1, f2⟩ (y2 j f0)
  · rcases b3 h7 with ⟨i, g0, g1, g2, g3⟩ | ⟨y1, y2, y3⟩
    · exact absurd ⟨m, g1, g2⟩ (z2 i g0)
    · rw [z3, y3]
end Go.Proofs.YtiibfejgiilakaaDoor
