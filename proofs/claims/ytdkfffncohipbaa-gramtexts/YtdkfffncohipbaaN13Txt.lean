/- GramTexts: a value's tokens are taken one by one, it is whole at the last one, and nothing may come then. -/
import Derived.Test.YtdkfffncohipbaaN13Knd
import Derived.Test.YtdkfffncohipbaaN13Awk
import Derived.Test.YtdkfffncohipbaaArg
namespace Go.Proofs.Ytdkfffncohipbaa
set_option maxRecDepth 100000
open Go.ChangeShapes Go.WideShapes Go.ChangeAt Go.RowKit
set_option linter.unusedVariables false
set_option linter.unusedSimpArgs false

/-- a Gram, and a row of numbers of the law's own -/
structure PT (w W : World) (g : Nat) (v rv : Value) (q : Gm) (row : List Int) : Prop where
  p : GIs W w.heap.size g v q
  o : Own W w.heap.size 3 .i64 rv row
  b : Below w.heap.size w W
theorem PT.go {w W W' : World} {g : Nat} {v rv : Value} {q : Gm} {row : List Int} (h : PT w W g v rv q row) (hb : Below W.heap.size W W') : PT w W' g v rv q row :=
  ⟨h.p.go hb, own_below h.o hb (Nat.le_refl _), h.b.trans (hb.mono h.b.size)⟩
theorem PT.push {w W W' : World} {g : Nat} {v rv v' : Value} {q q' : Gm} {row : List Int} (h : PT w W g v rv q row) (hp : GIs W' w.heap.size g v' q') (hf : SFr g g v W W') : PT w W' g v' rv q' row :=
  ⟨hp, rown_frame h.o hf (fun x hx => ⟨fun e => by rw [e] at hx; exact rown_ne h.o h.p.blk (by decide) hx, fun e => by rw [e] at hx; exact rown_ne h.o h.p.blk (by decide) hx, rown_apart h.o h.p.own (by decide) x hx⟩), h.b.trans (hf.ofG h.p h.b.size)⟩
theorem own_cell {w : World} {base b o n c : Nat} {e : TypeId} {k : IntKind} {xs : List Int} (h : Own w base e k (.slice (some ⟨b, o, none⟩) n c) xs) (hn : xs.length = n) {j : Nat} (hj : j < n) : w.cell? ⟨b, o + j, none⟩ = some (.int k (xs.getD j 0)) := by
  have hI : Ints w w.heap.size k (some ⟨b, o, none⟩) xs := Ints.own (by unfold Own at h; rw [hn] at h; exact h)
  obtain ⟨b2, o2, e2, _, hc⟩ := hI.at (by omega)
  injection e2 with e2
  injection e2 with e3 e4
  subst e3 e4
  exact hc j (by omega)
def TxL (w : World) (g : Nat) (rv : Value) (row : List Int) (i : Value) (wr : World) : Prop :=
  ∃ (k : Nat) (v : Value) (q : Gm), k ≤ row.length ∧ i = .int .i64 k ∧ q.s.length ≤ k ∧ Runs (row.drop k) q ⟨5, []⟩ ∧ PT w wr g v rv q row
def TyL (w : World) (g : Nat) (v rv : Value) (row : List Int) (i : Value) (wr : World) : Prop :=
  ∃ (j : Nat), j ≤ 13 ∧ i = .int .i64 j ∧ PT w wr g v rv ⟨5, []⟩ row
set_option maxHeartbeats 16000000 in
theorem texts_walk (a0 : Option Addr) (n cap : Nat) (z : List Int) (w : World) (hn : z.length = n) (hI : Ints w w.heap.size .i64 a0 z) (hm0 : n ≤ maxLen) :
    Calls Try.prog 4 #[.slice a0 n cap] w fun e w' => e = .returned (.bool true) ∧ Below w.heap.size w w' := by
  have HI := Lib.hid hI
  have HK := Lib.hid (kinds_any a0 n cap z hn hm0 5 0)
  have hm := hm0
  unfold maxLen at hm
  clear hI hn hm0
  go_enter Try.func4, Try.ntmps4
  go_wp2_with fail
  with_reducible refine (new_any w.heap.size w (Nat.le_refl _)).mono ?_
  rintro e1 w1 ⟨g, rfl, lg, hn1, hb1⟩
  have HNW := Lib.hid hn1
  have HB1 := Lib.hid hb1
  clear hn1 hb1
  by_cases hbig : 60 < n
  · have q0 : (60 : Int) < n := by omega
    go_wp2_with fail
    with_reducible refine (awake_any _).mono ?_
    rintro e1 w2 ⟨rfl, hb2⟩
    have HB2 := Lib.hid (HB1.out.trans (hb2.mono HB1.out.size))
    clear hb2
    go_wp2
    go_ret
    exact ⟨rfl, HB2.out⟩
  have q0 : ¬ (60 : Int) < n := by omega
  have HC : Hid (Calls Try.prog 20 #[.slice a0 n cap, .int .i64 0, .int .i64 5] w1 (KRes 5 0 w1)) := Lib.hid (HK.out w1 (by decide) (HI.out.go HB1.out))
  go_wp2_with fail
  with_reducible refine HC.out.mono ?_
  rintro e2 w2 ⟨rv, at1, row, rfl, ho2, hb2, hval, hlr, _, _⟩
  have HPT : Hid (PT w w2 g (.slice none 0 0) rv gm0 row) := Lib.hid ⟨HNW.out.go hb2, rown_weak8 ho2 HB1.out.size, HB1.out.trans (hb2.mono HB1.out.size)⟩
  have HRU : Hid (Runs row gm0 ⟨5, []⟩) := Lib.hid (hval 0 [] (.inl rfl))
  have hlm : row.length ≤ 2000 := Nat.le_trans hlr (by decide)
  obtain ⟨RA, rc, hrv, hrc⟩ := own_form ho2
  obtain ⟨m, hml⟩ : ∃ m, row.length = m := ⟨_, rfl⟩
  rw [hml] at hrv hlm
  subst hrv
  have HML := Lib.hid hml
  clear ho2 hb2 hval hlr HC HNW HB1 hml HK
  go_wp2_with fail
  go_loopw [6] (fun i wr => TxL w g (.slice RA m rc) row i wr) (fun i _ => m - (intOf i).toNat)
  case atStart => exact ⟨0, _, gm0, by omega, rfl, by decide, HRU.out, HPT.out⟩
  case round =>
    clear HRU HPT
    obtain ⟨k, v, q, hk, rfl, hs, hru, hpt⟩ := hrel
    have hmr := HML.out
    rw [hmr] at hk
    have HP := Lib.hid hpt
    clear hpt
    by_cases hlt : k < m
    · have hlt' : (k : Int) < m := by omega
      have hdr : row.drop k = row.getD k 0 :: row.drop (k + 1) := by
        rw [List.drop_eq_getElem_cons (by omega), List.getD_eq_getElem?_getD, List.getElem?_eq_getElem (by omega)]
        rfl
      rw [hdr] at hru
      obtain ⟨hend, hmay, hru⟩ := hru
      have HRU := Lib.hid hru
      obtain ⟨b, o, rfl, _⟩ := (Ints.own (by have := HP.out.o; unfold Own at this; rw [hmr] at this; exact this) : Ints wr wr.heap.size .i64 RA row).at (by omega)
      have kx := own_cell HP.out.o hmr hlt
      have HX : Hid (∀ W v' q', PT w W g v' (.slice (some ⟨b, o, none⟩) m rc) q' row → W.cell? ⟨b, o + k, none⟩ = some (.int .i64 (row.getD k 0))) := Lib.hid (fun W v' q' h => own_cell h.o HML.out hlt)
      generalize row.getD k 0 = x at *
      have HEN := Lib.hid (ended_any w.heap.size g v q wr HP.out.p)
      rw [hend] at HEN
      have HMY := Lib.hid (may_any w.heap.size g v q x wr HP.out.p)
      have HTK := Lib.hid (fun W h hs => take_any w.heap.size g v q x W h (by omega) hs)
      rw [hmay] at HMY HTK
      have hl1 := tk_len q x
      generalize tkG q x = q1 at *
      clear hru hdr hend hmay hmr
      go_wp2_with fail
      with_reducible refine HEN.out.mono ?_
      rintro e w3 ⟨rfl, rfl⟩
      go_wp2_with fail
      with_reducible refine HMY.out.mono ?_
      rintro e w3 ⟨rfl, hst⟩
      have HP3 := Lib.hid (HP.out.go hst.below)
      have kx3 := HX.out _ _ _ HP3.out
      clear hst HMY HEN HP kx
      go_wp2_with fail
      with_reducible refine (HTK.out _ HP3.out.p HP3.out.b.size).mono ?_
      rintro e w4 ⟨rfl, v4, p1, p2, p3⟩
      have HP4 := Lib.hid (HP3.out.push p1 p2)
      clear p1 p2 p3 HTK HP3 kx3 HX
      go_wp2
      go_roundw
      case rel => exact ⟨k + 1, v4, q1, by rw [HML.out]; omega, by go_num, by omega, HRU.out, HP4.out⟩
      case measure => simp [intOf]; omega
    · have hlt' : ¬ (k : Int) < m := by omega
      have hq : q = ⟨5, []⟩ := by
        rw [List.drop_eq_nil_of_le (by omega)] at hru
        exact hru
      subst hq
      clear hru hs hk hlt
      go_wp2_with fail
      generalize wr = wq at *
      go_loopw [7] (fun i wr => TyL w g v (.slice RA m rc) row i wr) (fun i _ => 13 - (intOf i).toNat)
      case atStart => exact ⟨0, by omega, rfl, HP.out⟩
      case round =>
        clear HP
        obtain ⟨j, hj, rfl, hpt⟩ := hrel
        have HP := Lib.hid hpt
        clear hpt
        by_cases hjl : j < 13
        · have hjl' : (j : Int) < 13 := by omega
          have HMY : Hid (Calls Try.prog 10 #[.pointer (some ⟨g, 0, none⟩), .int .i64 (j : Int)] wr fun e w' => e = .returned (.bool false) ∧ Still wr w') := Lib.hid (may_any w.heap.size g v ⟨5, []⟩ (j : Int) wr HP.out.p)
          go_wp2_with fail
          with_reducible refine HMY.out.mono ?_
          rintro e w3 ⟨rfl, hst⟩
          have HP3 := Lib.hid (HP.out.go hst.below)
          clear hst HMY HP
          go_wp2
          go_roundw
          case rel => exact ⟨j + 1, by omega, by go_num, HP3.out⟩
          case measure => simp [intOf]; omega
        · have hjl' : ¬ (j : Int) < 13 := by omega
          have HEN : Hid (Calls Try.prog 18 #[.pointer (some ⟨g, 0, none⟩)] wr fun e w' => e = .returned (.bool true) ∧ wr = w') := Lib.hid (ended_any w.heap.size g v ⟨5, []⟩ wr HP.out.p)
          have HDP : Hid (Calls Try.prog 15 #[.pointer (some ⟨g, 0, none⟩)] wr fun e w' => e = .returned (.int .i64 0) ∧ wr = w') := Lib.hid (depth_any w.heap.size g v ⟨5, []⟩ wr HP.out.p)
          go_wp2_with fail
          with_reducible refine HEN.out.mono ?_
          rintro e w3 ⟨rfl, rfl⟩
          go_wp2_with fail
          with_reducible refine HDP.out.mono ?_
          rintro e w3 ⟨rfl, rfl⟩
          go_wp2_with fail
          with_reducible refine (awake_any _).mono ?_
          rintro e1 w4 ⟨rfl, hb4⟩
          have HB4 := Lib.hid (HP.out.b.trans (hb4.mono HP.out.b.size))
          clear hb4
          go_wp2
          go_ret
          exact ⟨rfl, HB4.out⟩
end Go.Proofs.Ytdkfffncohipbaa
