/- Layer 5: the document's texts say what the program's texts say, reckoned by the kernel. -/
import Derived.Test.YtmphfdnpnhlpjaaU5K
import Derived.Test.YtmphfdnpnhlpjaaU5RBW
namespace Go.Proofs.Ytmphfdnpnhlpjaa

theorem dtxt_of {s : ByteArray} {es : List Ent} {f : Ent → List Int} (h1 : Nat.ble s.data.size 65536 = true) (h2 : rokAll (bytesOf s ++ [10]) rzero = true) (h3 : eqL (rowsOf (bytesOf s)) (es.map f) = true) (h4 : ∀ e ∈ es, e.n1 ≤ 100000000 ∧ e.n2 ≤ 100000000) (h5 : es.length ≤ 100000000) : DTxt s es f :=
  ⟨Nat.le_of_ble_eq_true h1, h2, eqL_eq h3, h4, h5⟩
theorem kR1 : eqL (rowsOf (bytesOf tOrthoepyref05Build1)) ((esOf tUcdBuild1).map row3) = true := by kernel_rfl
theorem kR2 : eqL (rowsOf (bytesOf tOrthoepyref05Build2)) ((esOf tUcdBuild2).map row4) = true := by kernel_rfl
theorem kR3 : eqL (rowsOf (bytesOf tOrthoepyref05Build3)) ((esOf tUcdBuild3).map row2) = true := by kernel_rfl
theorem kO1 : rokAll (bytesOf tOrthoepyref05Build1 ++ [10]) rzero = true := by kernel_rfl
theorem kO2 : rokAll (bytesOf tOrthoepyref05Build2 ++ [10]) rzero = true := by kernel_rfl
theorem kO3 : rokAll (bytesOf tOrthoepyref05Build3 ++ [10]) rzero = true := by kernel_rfl
theorem D1 : DTxt tOrthoepyref05Build1 (esOf tUcdBuild1) row3 := dtxt_of (by kernel_rfl) kO1 kR1 K1.small K1.len
theorem D2 : DTxt tOrthoepyref05Build2 (esOf tUcdBuild2) row4 := dtxt_of (by kernel_rfl) kO2 kR2 K2.small K2.len
theorem D3 : DTxt tOrthoepyref05Build3 (esOf tUcdBuild3) row2 := dtxt_of (by kernel_rfl) kO3 kR3 K3.small K3.len
theorem dbuild_any (w : World) : Calls Try.prog 8 #[] w (DPost w (castE C5) (pk5 P5) (castE S5) (jL P5) (castE (scL P5)) (outs P5)) :=
  rbuild_any w _ _ _ D1 D2 D3 kE1 kE2 kE3
end Go.Proofs.Ytmphfdnpnhlpjaa
