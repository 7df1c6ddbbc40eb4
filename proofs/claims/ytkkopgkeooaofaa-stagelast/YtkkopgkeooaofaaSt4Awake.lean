/- The examples that each statement of layer 4 asks. -/
import Derived.Test.YtkkopgkeooaofaaSt4RefB
namespace Go.Proofs.Ytkkopgkeooaofaa
open Go.ChangeShapes Go.WideShapes Go.ChangeAt Go.RowKit
set_option linter.unusedVariables false
set_option linter.unusedSimpArgs false

theorem zblk_get (j : Nat) : zblk[j]? = if j < 256 then some 0 else none := by unfold zblk; rw [List.getElem?_replicate]
theorem dist_nil : Dist (tab []) [zblk] := by
  refine ⟨by simp, fun i _ => ?_, fun u hu => ?_⟩
  · rw [tab_nil, blk_zero]; simp
  · simp at hu; exact ⟨0, by omega, by rw [tab_nil, blk_zero]; exact hu⟩
def l2 : List (Int × Int) := [(65, 3), (65, 7), (-1, 9)]
theorem tab_l2 : tab l2 = upd (fun _ => 0) 65 7 := by
  have : tab l2 = tstep (tstep (tstep (fun _ => 0) (65, 3)) (65, 7)) (-1, 9) := rfl
  rw [this]
  have h1 : isPl 65 = true := by decide
  have h2 : isPl (-1) = false := by decide
  have e1 : tstep (fun _ => 0) (65, 3) = upd (fun _ => 0) 65 3 := by unfold tstep; rw [if_pos h1]
  have e2 : ∀ f, tstep f (65, 7) = upd f 65 7 := fun f => by unfold tstep; rw [if_pos h1]
  have e3 : ∀ f, tstep f (-1, 9) = f := fun f => by unfold tstep; rw [if_neg (by simp [h2])]
  rw [e1, e2, e3]
  funext c
  unfold upd
  split <;> rfl
theorem set_ne_zblk {j : Nat} {v : Int} (hj : j < 256) (hv : v ≠ 0) : zblk.set j v ≠ zblk := by
  intro h
  have := congrArg (·[j]?) h
  simp only [List.getElem?_set, zblk_len, zblk_get, hj, if_true] at this
  exact hv (Option.some.inj this)
theorem dist_l2 : Dist (tab l2) [zblk.set 65 7, zblk] := by
  have hb : ∀ i : Int, blk (tab l2) i = if i = 0 then zblk.set 65 7 else zblk := fun i => by
    rw [tab_l2, blk_upd, blk_zero]; rfl
  refine ⟨?_, fun i _ => ?_, fun u hu => ?_⟩
  · simp only [List.nodup_cons, List.mem_singleton, List.not_mem_nil, not_false_eq_true, List.nodup_nil, and_true]
    exact set_ne_zblk (by omega) (by omega)
  · rw [hb]; split <;> simp
  · simp only [List.mem_cons, List.not_mem_nil, or_false] at hu
    rcases hu with rfl | rfl
    · exact ⟨0, by omega, by rw [hb, if_pos (by rfl)]⟩
    · exact ⟨1, by omega, by rw [hb, if_neg (by omega)]⟩
theorem tab_no (l : List (Int × Int)) : ∀ c, isPl c = false → tab l c = 0 := fun c h => tab_out l c (.inl h)
theorem fit_nil : FitE [] := fun e he => by cases he
theorem fit_l2 : FitE l2 := by
  intro e he
  simp only [l2, List.mem_cons, List.not_mem_nil, or_false] at he
  rcases he with rfl | rfl | rfl <;> decide

set_option maxHeartbeats 1000000 in
theorem awake_true (w : World) : Calls Try.prog 6 #[] w fun e w' => e = .returned (.bool true) ∧ Below w.heap.size w w' := by
  have HB1 := Lib.hid (build_any w none 0 0 [] rfl (by omega) (.inl rfl) fit_nil)
  go_enter Try.func6, Try.ntmps6
  go_wp2_with fail
  with_reducible refine HB1.out.mono ?_
  rintro e w1 ⟨g, U, rfl, hd, ht, hb⟩
  have hU : U.length = 1 := hd.len dist_nil
  rw [hU] at ht
  have HT := Lib.hid ht
  have HB := Lib.hid hb
  have hs1 := hb.size
  clear hd ht hb hU HB1
  go_wp2_with fail
  have HE : Hid (∀ W, W = w1.alloc (.cells #[.int .i32 65, .int .i64 3, .int .i32 65, .int .i64 7, .int .i32 (-1), .int .i64 9] 31) → Calls Try.prog 7 #[.slice (some ⟨w1.heap.size, 0, none⟩) 3 3] W (BuildPost W l2)) := Lib.hid fun W hW => by
    subst hW
    exact build_any _ _ 3 3 l2 rfl (by omega) (Ents.blk (t := 31) (l := l2) (Blk.new w1 31 #[.int .i32 65, .int .i64 3, .int .i32 65, .int .i64 7, .int .i32 (-1), .int .i64 9]) (by simp)) fit_l2
  with_reducible refine (HE.out _ rfl).mono ?_
  rintro e w2 ⟨g', U', rfl, hd, ht, hb⟩
  have hU : U'.length = 2 := hd.len dist_l2
  rw [hU] at ht
  have hb' : Below w1.heap.size w1 w2 := ((Below.refl _ _).alloc (Nat.le_refl _) _).trans (hb.mono (by simp))
  have HT1 := Lib.hid (HT.out.below hb' (Nat.le_refl _))
  have HT2 := Lib.hid ht
  have HBB := Lib.hid (HB.out.trans (hb'.mono hs1))
  have H65 : Hid (tab l2 65 = 7) := Lib.hid (by rw [tab_l2]; rfl)
  have H64 : Hid (tab l2 64 = 0) := Lib.hid (by rw [tab_l2]; rfl)
  have Hm1 : Hid (tab l2 (-1) = 0) := Lib.hid (by rw [tab_l2]; rfl)
  clear hd ht hb hU HE HT hb' HB
  go_wp2_with fail
  with_reducible refine (blocks_any (tab []) g w1.heap.size 1 _ HT1.out).mono ?_
  rintro e w' ⟨rfl, rfl⟩
  go_wp2_with fail
  with_reducible refine (blocks_any (tab l2) g' _ 2 _ HT2.out).mono ?_
  rintro e w' ⟨rfl, rfl⟩
  go_wp2_with fail
  with_reducible refine (get_any 65 (tab l2) g' _ 2 _ (tab_no l2) HT2.out).mono ?_
  rintro e w3 ⟨rfl, hs3⟩
  rw [H65.out]
  have HS3 := Lib.hid hs3
  have HT3 := Lib.hid (HT2.out.still hs3)
  clear hs3
  go_wp2_with fail
  with_reducible refine (get_any 64 (tab l2) g' _ 2 _ (tab_no l2) HT3.out).mono ?_
  rintro e w4 ⟨rfl, hs4⟩
  rw [H64.out]
  have HS4 := Lib.hid hs4
  have HT4 := Lib.hid (HT3.out.still hs4)
  clear hs4
  go_wp2_with fail
  with_reducible refine (get_any (-1) (tab l2) g' _ 2 _ (tab_no l2) HT4.out).mono ?_
  rintro e w5 ⟨rfl, hs5⟩
  rw [Hm1.out]
  have HS5 := Lib.hid hs5
  clear hs5
  go_wp2
  go_ret
  exact ⟨rfl, ((HBB.out.trans (HS3.out.lower _)).trans (HS4.out.lower _)).trans (HS5.out.lower _)⟩
end Go.Proofs.Ytkkopgkeooaofaa
