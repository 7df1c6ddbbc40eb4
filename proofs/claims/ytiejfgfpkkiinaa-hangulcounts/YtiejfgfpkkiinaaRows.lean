/-
  No cell of these rows narrows 'for every input' (looked for: loops, veiled, ifaces, maps, wideKeys, modest, calm, conditions, laid).
  DERIVED. THE GIVEN ROWS OF THIS SEAT. 3 by the template 'for every input the law returns true; each argument reads behind the call as it read before'; 0 by the template 'total and deterministic' (their statements: YtiejfgfpkkiinaaTotals.lean).
  GIVEN WITH THE SEED: the statements are not yours to turn. If you find one false, say at which input.
  Laid BY PROGRAM, IN A SANDBOX (cutbox-rows.mjs): the forced cells as the released guide's own fill.sh prints them over the translation e43c676ac2a0299d… (all of the seat's roots in one cut). By AI agents, Wed Nov 11 2026. No macro, syntax, notation, axiom, sorry.
-/
import Derived.Test.YtiejfgfpkkiinaaChecked
import GoSem.Claim
import GoSem.ClaimJoined
import GoSem.ClaimMapViews
import Derived.JoinedTies
import Derived.KernelRfl
namespace Go.Proofs.Ytiejfgfpkkiinaa
/- THE CELL 'sum', in the pinned program and in every row, IS THE sha256 OF THE DUMP (.gsa) THAT YtiejfgfpkkiinaaProg.lean LOADS. Nothing in Lean hashes anything: it is a label: what it is worth is what the hold of that sum in a sandbox is worth. -/
noncomputable def Try.pinned : Pinned := { name := "ytiejfgfpkkiinaa", sum := "e43c676ac2a0299d66863eb5edcb3b53b19d6222dce48013dbe2590ed66f98ad", checked := Try.checked }
namespace Rows
def none {H : Type} : Left H := { results := [], args := [] }

/-- 'orthoepylaw06.HangulAll': WHATEVER THE INPUT: true; the input reads as it did. -/
def hangulAllSpec : ChangeSpec := { name := "hangulAll", fn := fun _ => fun
  | [d1, d2, d3] => { results := [.lit (.bool true)], args := [d1, d2, d3] }
  | _ => none }
def hangulAllRow : OpenClaim := { program := "ytiejfgfpkkiinaa", sum := "e43c676ac2a0299d66863eb5edcb3b53b19d6222dce48013dbe2590ed66f98ad", func := "orthoepy/orthoepylaw06.HangulAll", spec := "hangulAll", apart := false }
def HangulAllSaid : Prop := hangulAllRow.holds Try.pinned (OpenSpec.ofChange hangulAllSpec)

/-- ITS FALSE NEIGHBOUR: 'it returns false'. Refute it at one input. -/
def hangulAllWrong : ChangeSpec := { name := "hangulAll", fn := fun _ => fun
  | [d1, d2, d3] => { results := [.lit (.bool false)], args := [d1, d2, d3] }
  | _ => none }
def HangulAllWrongFalsely : Prop := hangulAllRow.holds Try.pinned (OpenSpec.ofChange hangulAllWrong)

/-- 'orthoepylaw06.HangulBack': WHATEVER THE INPUT: true; the input reads as it did. -/
def hangulBackSpec : ChangeSpec := { name := "hangulBack", fn := fun _ => fun
  | [d] => { results := [.lit (.bool true)], args := [d] }
  | _ => none }
def hangulBackRow : OpenClaim := { program := "ytiejfgfpkkiinaa", sum := "e43c676ac2a0299d66863eb5edcb3b53b19d6222dce48013dbe2590ed66f98ad", func := "orthoepy/orthoepylaw06.HangulBack", spec := "hangulBack", apart := false }
def HangulBackSaid : Prop := hangulBackRow.holds Try.pinned (OpenSpec.ofChange hangulBackSpec)

/-- ITS FALSE NEIGHBOUR: 'it returns false'. Refute it at one input. -/
def hangulBackWrong : ChangeSpec := { name := "hangulBack", fn := fun _ => fun
  | [d] => { results := [.lit (.bool false)], args := [d] }
  | _ => none }
def HangulBackWrongFalsely : Prop := hangulBackRow.holds Try.pinned (OpenSpec.ofChange hangulBackWrong)

/-- 'orthoepylaw06.HangulCounts': WHATEVER THE INPUT: true; the input reads as it did. -/
def hangulCountsSpec : ChangeSpec := { name := "hangulCounts", fn := fun _ => fun
  | [d1, d2, d3] => { results := [.lit (.bool true)], args := [d1, d2, d3] }
  | _ => none }
def hangulCountsRow : OpenClaim := { program := "ytiejfgfpkkiinaa", sum := "e43c676ac2a0299d66863eb5edcb3b53b19d6222dce48013dbe2590ed66f98ad", func := "orthoepy/orthoepylaw06.HangulCounts", spec := "hangulCounts", apart := false }
def HangulCountsSaid : Prop := hangulCountsRow.holds Try.pinned (OpenSpec.ofChange hangulCountsSpec)

/-- ITS FALSE NEIGHBOUR: 'it returns false'. Refute it at one input. -/
def hangulCountsWrong : ChangeSpec := { name := "hangulCounts", fn := fun _ => fun
  | [d1, d2, d3] => { results := [.lit (.bool false)], args := [d1, d2, d3] }
  | _ => none }
def HangulCountsWrongFalsely : Prop := hangulCountsRow.holds Try.pinned (OpenSpec.ofChange hangulCountsWrong)

/- THE SECOND FORM. 'bulk': how many values and letters a reading holds, each counted each time it is reached (what is shared counts as often as it is met; a slice's spare places count too). A statement '..UptoSaid' is the law's where the arguments, and the package variables that the reading takes, are together of bulk at most 1048576: NARROWER than '..Said'. Prove '..Said' where nothing that the law and all that it calls make is longer than what came in: it says more and counts as full. Else prove '..UptoSaid'. A law counts once. -/
mutual
def uptoBulk {H : Type} : DataW H → Nat
  | .lit (.string bytes) => bytes.length + 1
  | .lit _ => 1
  | .nil => 1
  | .ptr d => uptoBulk d + 1
  | .slice elems spare => uptoBulkAll elems + uptoBulkAll spare + 1
  | .agg parts => uptoBulkAll parts + 1
  | .iface _ d => uptoBulk d + 1
  | .map entries => uptoBulkEntries entries + 1
  | .held _ => 1
def uptoBulkAll {H : Type} : List (DataW H) → Nat
  | [] => 0
  | d :: r => uptoBulk d + uptoBulkAll r
def uptoBulkEntries {H : Type} : List (Lit × DataW H) → Nat
  | [] => 0
  | x :: r => uptoBulkEntry x + uptoBulkEntries r
def uptoBulkEntry {H : Type} : Lit × DataW H → Nat
  | (.string bytes, d) => bytes.length + uptoBulk d + 1
  | (_, d) => uptoBulk d + 1
 end
def uptoSmall : (H : Type) → List (DataW H) → Bool := fun _ ds => decide (uptoBulkAll ds ≤ 1048576)
def OpenSpec.upto (s : _root_.Go.ChangeSpec) : _root_.Go.OpenSpec := { _root_.Go.OpenSpec.ofChange s with cond := some uptoSmall }

/-- 'orthoepylaw06.HangulAll', WHERE WHAT IT READS IS OF BULK AT MOST 1048576: true; the input reads as it did. -/
def hangulAllUptoRow : OpenClaim := { program := "ytiejfgfpkkiinaa", sum := "e43c676ac2a0299d66863eb5edcb3b53b19d6222dce48013dbe2590ed66f98ad", func := "orthoepy/orthoepylaw06.HangulAll", spec := "hangulAll", apart := false, narrowed := true }
def HangulAllUptoSaid : Prop := hangulAllUptoRow.holds Try.pinned (OpenSpec.upto hangulAllSpec)

/-- 'orthoepylaw06.HangulBack', WHERE WHAT IT READS IS OF BULK AT MOST 1048576: true; the input reads as it did. -/
def hangulBackUptoRow : OpenClaim := { program := "ytiejfgfpkkiinaa", sum := "e43c676ac2a0299d66863eb5edcb3b53b19d6222dce48013dbe2590ed66f98ad", func := "orthoepy/orthoepylaw06.HangulBack", spec := "hangulBack", apart := false, narrowed := true }
def HangulBackUptoSaid : Prop := hangulBackUptoRow.holds Try.pinned (OpenSpec.upto hangulBackSpec)

/-- 'orthoepylaw06.HangulCounts', WHERE WHAT IT READS IS OF BULK AT MOST 1048576: true; the input reads as it did. -/
def hangulCountsUptoRow : OpenClaim := { program := "ytiejfgfpkkiinaa", sum := "e43c676ac2a0299d66863eb5edcb3b53b19d6222dce48013dbe2590ed66f98ad", func := "orthoepy/orthoepylaw06.HangulCounts", spec := "hangulCounts", apart := false, narrowed := true }
def HangulCountsUptoSaid : Prop := hangulCountsUptoRow.holds Try.pinned (OpenSpec.upto hangulCountsSpec)

end Rows
end Go.Proofs.Ytiejfgfpkkiinaa
