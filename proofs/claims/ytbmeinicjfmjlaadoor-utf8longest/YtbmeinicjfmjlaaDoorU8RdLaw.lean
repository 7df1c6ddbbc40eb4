/- The document's reader; the walk of Utf8Reader. -/
import Derived.Test.YtbmeinicjfmjlaaDoorU8Awake
import Derived.Test.YtbmeinicjfmjlaaDoorU8RText
import Derived.Test.YtbmeinicjfmjlaaDoorArg
namespace Go.Proofs.YtbmeinicjfmjlaaDoor
open Go.ChangeShapes Go.WideShapes Go.ChangeAt Go.RowKit
set_option linter.unusedVariables false

theorem u8_bts {z : List Int} (h : ∀ n ∈ z, (Lit.int .u8 n).wf = true) : Bts z := fun n hn => by
  have := bounds_u8 (h n hn); omega
/-- block g is the document's reader with bs begun -/
def RefAt (w : World) (g : Nat) (bs : List Int) : Prop :=
  ∃ A c, Blk w g 42 #[.slice A bs.length c] ∧ (A = none → c = 0) ∧ Ints w w.heap.size .u8 A bs
/-- a row of numbers does not lie in the reader's block -/
theorem Ints.ne {w : World} {g : Nat} {t : TypeId} {v : Value} {B b o : Nat} {k : IntKind} {xs : List Int} (h : Ints w B k (some ⟨b, o, none⟩) xs) (hp : 0 < xs.length) (hg : Blk w g t #[v]) (hv : ∀ n, v ≠ .int k n) : b ≠ g := by
  obtain ⟨b', o', e, _, hc⟩ := h.at hp
  injection e with e
  injection e with e1 e2
  subst e1 e2
  rintro rfl
  have := hc 0 hp
  rw [hg.cell] at this
  rw [Nat.add_zero] at this
  cases o with
  | zero => simp at this; exact hv _ this
  | succ n => simp at this
theorem Ints.but {w w' : World} {g : Nat} {t : TypeId} {v : Value} {B : Nat} {k : IntKind} {A : Option Addr} {xs : List Int} (h : Ints w B k A xs) (hB : B ≤ w.heap.size) (hg : Blk w g t #[v]) (hv : ∀ n, v ≠ .int k n) (hb : But g w w') : Ints w' B k A xs := by
  rcases Nat.eq_zero_or_pos xs.length with h0 | h0
  · exact .inl (List.eq_nil_of_length_eq_zero h0)
  · obtain ⟨b, o, rfl, hl, hc⟩ := h.at h0
    have hne := h.ne h0 hg hv
    exact .inr ⟨b, o, rfl, hl, fun j hj => (hb.cell (p := ⟨b, o + j, none⟩) (by simpa using Nat.lt_of_lt_of_le hl hB) hne).trans (hc j hj)⟩

theorem RefAt.below {w w' : World} {g : Nat} {bs : List Int} (h : RefAt w g bs) (hb : Below w.heap.size w w') : RefAt w' g bs := by
  obtain ⟨A, c, hk, hn, hI⟩ := h
  exact ⟨A, c, hk.below hb hk.lt, hn, (hI.below hb (Nat.le_refl _)).more hb.size⟩
theorem RefAt.lt {w : World} {g : Nat} {bs : List Int} (h : RefAt w g bs) : g < w.heap.size := by
  obtain ⟨A, c, hk, hn, hI⟩ := h
  exact hk.lt
def RPushIs (g : Nat) (bs : List Int) (x : Int) (w : World) (e : Ending) (w' : World) : Prop :=
  e = .returned (.tuple #[.int .i32 (pC bs x), .int .i64 (pH bs x)]) ∧ RefAt w' g (pS bs x) ∧ But g w w'

set_option maxHeartbeats 2000000 in
theorem r_push_any (g : Nat) (bs : List Int) (x : Int) (w : World) (hx0 : 0 ≤ x) (hx1 : x ≤ 255) (hB : Bts bs) (hl : bs.length ≤ 4) (hR : RefAt w g bs) :
    Calls Tryd.prog 22 #[.pointer (some ⟨g, 0, none⟩), .int .u8 x] w (RPushIs g bs x w) := by
  obtain ⟨A, c, hk, hn, hI⟩ := hR
  have hgl := hk.lt
  have c0 : w.cell? ⟨g, 0, none⟩ = some (.slice A bs.length c) := hk.cell 0
  have f0 : w.frozen? ⟨g, 0, none⟩ = false := hk.frozen 0
  have HK := Lib.hid hk
  have HI := Lib.hid hI
  clear hk hI
  go_enter Tryd.func22, Tryd.ntmps22
  have hb0 := (Below.refl w.heap.size w).alloc (Nat.le_refl _) (.cells #[] 5)
  have HO0 : Hid (Own (w.alloc (.cells #[] 5)) w.heap.size 5 .u8 (.slice (some ⟨w.heap.size, 0, none⟩) 0 0) []) := own_lit w _ 5 .u8 [] (Nat.le_refl _) (by simp [maxLen])
  have HN := Lib.hid hn
  clear hn
  go_wp2_with (first
    | (at_builtin; refine wpList_app rfl (.tmp 7) (.tmp 11) 22 rfl w.heap.size 5 .u8 1 Tryd.underlying22 info_u8 (by omega) _ [] rfl HO0.out _ _ _ bs rfl HN.out (HI.out.below hb0 (Nat.le_refl _)) (by simp; omega) (by simp) ?_; intro v1 w1 hO1 hg1
       have hb1 := hb0.trans (own_grown_below HO0.out hg1 (by simp))
       have HO1 := Lib.hid hO1
       have hz1 := hb1.size
       clear hO1 hg1)
    | (at_builtin; refine wpList_app rfl (.tmp 12) (.tmp 14) 22 rfl w.heap.size 5 .u8 1 Tryd.underlying22 info_u8 (by omega) v1 ([] ++ bs) rfl (HO1.out.alloc _) _ _ 1 [x] rfl (fun h => by cases h) (Ints.lit w1 5 .u8 [x]) (by simp; omega) (by simp; omega) ?_; intro v2 w2 hO2 hg2
       have hb2 := (hb1.alloc hz1 _).trans (own_grown_below (HO1.out.alloc _) hg2 (by simp; omega))
       have HO2 := Lib.hid hO2
       clear hO2 hg2))
  have hO2 := HO2.out
  rw [List.nil_append] at hO2
  obtain ⟨A2, c2, rfl, hc2, hcm2⟩ := own_form hO2
  have hI2 := Ints.own hO2
  have hn2 := Lib.hid (own_nil hO2)
  have hB2 : Bts (bs ++ [x]) := fun y hy => by
    rcases List.mem_append.1 hy with h | h
    · exact hB y h
    · simp at h; subst h; exact ⟨hx0, hx1⟩
  have hk2 := HK.out.below hb2 hgl
  have hlen : (bs ++ [x]).length = bs.length + 1 := by simp
  have HO3 := Lib.hid hO2
  have HR : Hid (RefAt w2 g bs) := ⟨A, c, hk2, HN.out, (HI.out.below hb2 (Nat.le_refl _)).more hb2.size⟩
  clear HO2 hO2 HO1 HO0 hb1 hb0 HN HI c0 f0 HK
  obtain ⟨n2, hN2⟩ : ∃ n2, (bs ++ [x]).length = n2 := ⟨_, rfl⟩
  have hm : n2 ≤ maxLen := by rw [← hN2, hlen]; simp only [maxLen]; omega
  rw [hN2]
  have HN2 := Lib.hid hN2
  clear hN2 hlen
  have hq := r_how_any A2 n2 c2 (bs ++ [x]) w2 HN2.out hI2 hB2 hm
  rcases how_cases (bs ++ [x]) with hh | hh | hh
  · rw [hh] at hq
    have HP : Hid (pC bs x = 0 ∧ pH bs x = 3 ∧ pS bs x = bs) := ⟨by simp [pC, hh], by simp [pH, hh], by simp [pS, hh]⟩
    clear hh hn2 hI2 HO3
    with_reducible refine hq.mono ?_
    rintro e w3 ⟨rfl, hs3⟩
    have hb3 := hs3.below
    have HR3 := Lib.hid (HR.out.below hb3)
    have hb4 := hb2.trans (hb3.mono hb2.size)
    clear hq hs3 hb3 hk2
    go_wp2
    go_ret2
    obtain ⟨p1, p2, p3⟩ := HP.out
    exact ⟨by rw [p1, p2]; rfl, by rw [p3]; exact HR3.out, But.of_below hb4⟩
  · rw [hh] at hq
    have HP : Hid (pC bs x = 0 ∧ pH bs x = 1 ∧ pS bs x = bs ++ [x]) := ⟨by simp [pC, hh], by simp [pH, hh], by simp [pS, hh]⟩
    clear hh
    with_reducible refine hq.mono ?_
    rintro e w3 ⟨rfl, hs3⟩
    have hb3 := hs3.below
    have hk3 := hk2.below hb3 hk2.lt
    have HI3 := Lib.hid ((hI2.below hb3 (Nat.le_refl _)).more hb3.size)
    have hb4 := hb2.trans (hb3.mono hb2.size)
    have c0 : w3.cell? ⟨g, 0, none⟩ = some (.slice A bs.length c) := hk3.cell 0
    have f0 : w3.frozen? ⟨g, 0, none⟩ = false := hk3.frozen 0
    have HK3 := Lib.hid hk3
    clear hq hs3 hb3 hk2 hI2 hk3
    go_wp2
    go_ret2
    obtain ⟨p1, p2, p3⟩ := HP.out
    have hbt : But g w3 _ := (But.refl g w3).set 0 (.slice A2 n2 c2)
    refine ⟨by rw [p1, p2]; rfl, ?_, (But.of_below hb4).set 0 _⟩
    rw [p3]
    refine ⟨A2, c2, ?_, hn2.out, (HI3.out.but (Nat.le_refl _) HK3.out (fun n h => by cases h) hbt).more (by simp [World.setCell])⟩
    rw [HN2.out]
    exact HK3.out.set 0 _
  · have HF : Hid (∀ W : World, Ints W W.heap.size .u8 A2 (bs ++ [x]) → Calls Tryd.prog 27 #[.slice A2 n2 c2] W fun e w' => e = .returned (.int .i32 (bitsOf (bs ++ [x]))) ∧ W = w') := fun W hW => r_of_any A2 _ c2 (bs ++ [x]) W HN2.out hW hB2 hh
    rw [hh] at hq
    have HP : Hid (pC bs x = bitsOf (bs ++ [x]) ∧ pH bs x = 2 ∧ pS bs x = []) := ⟨by simp [pC, hh], by simp [pH, hh], by simp [pS, hh]⟩
    clear hh
    with_reducible refine hq.mono ?_
    rintro e w3 ⟨rfl, hs3⟩
    have hb3 := hs3.below
    have hk3 := hk2.below hb3 hk2.lt
    have HI3 := Lib.hid ((hI2.below hb3 (Nat.le_refl _)).more hb3.size)
    have hb4 := hb2.trans (hb3.mono hb2.size)
    have c0 : w3.cell? ⟨g, 0, none⟩ = some (.slice A bs.length c) := hk3.cell 0
    have f0 : w3.frozen? ⟨g, 0, none⟩ = false := hk3.frozen 0
    have HK3 := Lib.hid hk3
    clear hq hs3 hb3 hk2 hI2 hk3
    go_wp2_with fail
    have hbt : But g w3 _ := (But.refl g w3).set 0 (.slice none 0 0)
    with_reducible refine (HF.out _ ((HI3.out.but (Nat.le_refl _) HK3.out (fun n h => by cases h) hbt).more (by simp [World.setCell]))).mono ?_
    rintro e w5 ⟨rfl, rfl⟩
    go_wp2
    go_ret2
    obtain ⟨p1, p2, p3⟩ := HP.out
    refine ⟨by rw [p1, p2]; rfl, ?_, (But.of_below hb4).set 0 _⟩
    rw [p3]
    exact ⟨none, 0, HK3.out.set 0 _, fun _ => rfl, .inl rfl⟩
end Go.Proofs.YtbmeinicjfmjlaaDoor
