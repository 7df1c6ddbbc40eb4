/-
  No cell of these rows narrows 'for every input' (looked for: loops, veiled, ifaces, maps, wideKeys, modest, calm, conditions, laid).
  DERIVED. THE GIVEN ROWS OF THIS SEAT. 3 by the template 'for every input the law returns true; each argument reads behind the call as it read before'; 0 by the template 'total and deterministic' (their statements: YthiakokjijfgoaaTotals.lean).
  GIVEN WITH THE SEED: the statements are not yours to turn. If you find one false, say at which input.
  Laid BY PROGRAM, IN A SANDBOX (cutbox-rows.mjs): the forced cells as the released guide's own fill.sh prints them over the translation bb89e0f5e1e1cf23… (all of the seat's roots in one cut). By AI agents, Wed Nov 11 2026. No macro, syntax, notation, axiom, sorry.
-/
import Derived.Test.YthiakokjijfgoaaChecked
import GoSem.Claim
import GoSem.ClaimJoined
import GoSem.ClaimMapViews
import Derived.JoinedTies
import Derived.KernelRfl
namespace Go.Proofs.Ythiakokjijfgoaa
/- THE CELL 'sum', in the pinned program and in every row, IS THE sha256 OF THE DUMP (.gsa) THAT YthiakokjijfgoaaProg.lean LOADS. Nothing in Lean hashes anything: it is a label: what it is worth is what the hold of that sum in a sandbox is worth. -/
noncomputable def Try.pinned : Pinned := { name := "ythiakokjijfgoaa", sum := "bb89e0f5e1e1cf23c8b722adf9f2515f3e116ba9072960ff7b7778771bfd0488", checked := Try.checked }
namespace Rows
def none {H : Type} : Left H := { results := [], args := [] }

/-- 'orthoepylaw15.LimitPlays': WHATEVER THE INPUT: true; the input reads as it did. -/
def limitPlaysSpec : ChangeSpec := { name := "limitPlays", fn := fun _ => fun
  | [d1, d2] => { results := [.lit (.bool true)], args := [d1, d2] }
  | _ => none }
def limitPlaysRow : OpenClaim := { program := "ythiakokjijfgoaa", sum := "bb89e0f5e1e1cf23c8b722adf9f2515f3e116ba9072960ff7b7778771bfd0488", func := "orthoepy/orthoepylaw15.LimitPlays", spec := "limitPlays", apart := false }
def LimitPlaysSaid : Prop := limitPlaysRow.holds Try.pinned (OpenSpec.ofChange limitPlaysSpec)

/-- ITS FALSE NEIGHBOUR: 'it returns false'. Refute it at one input. -/
def limitPlaysWrong : ChangeSpec := { name := "limitPlays", fn := fun _ => fun
  | [d1, d2] => { results := [.lit (.bool false)], args := [d1, d2] }
  | _ => none }
def LimitPlaysWrongFalsely : Prop := limitPlaysRow.holds Try.pinned (OpenSpec.ofChange limitPlaysWrong)

/-- 'orthoepylaw15.LimitBounds': WHATEVER THE INPUT: true; the input reads as it did. -/
def limitBoundsSpec : ChangeSpec := { name := "limitBounds", fn := fun _ => fun
  | [d1, d2] => { results := [.lit (.bool true)], args := [d1, d2] }
  | _ => none }
def limitBoundsRow : OpenClaim := { program := "ythiakokjijfgoaa", sum := "bb89e0f5e1e1cf23c8b722adf9f2515f3e116ba9072960ff7b7778771bfd0488", func := "orthoepy/orthoepylaw15.LimitBounds", spec := "limitBounds", apart := false }
def LimitBoundsSaid : Prop := limitBoundsRow.holds Try.pinned (OpenSpec.ofChange limitBoundsSpec)

/-- ITS FALSE NEIGHBOUR: 'it returns false'. Refute it at one input. -/
def limitBoundsWrong : ChangeSpec := { name := "limitBounds", fn := fun _ => fun
  | [d1, d2] => { results := [.lit (.bool false)], args := [d1, d2] }
  | _ => none }
def LimitBoundsWrongFalsely : Prop := limitBoundsRow.holds Try.pinned (OpenSpec.ofChange limitBoundsWrong)

/-- 'orthoepylaw15.LimitChecks': WHATEVER THE INPUT: true; the input reads as it did. -/
def limitChecksSpec : ChangeSpec := { name := "limitChecks", fn := fun _ => fun
  | [d1, d2] => { results := [.lit (.bool true)], args := [d1, d2] }
  | _ => none }
def limitChecksRow : OpenClaim := { program := "ythiakokjijfgoaa", sum := "bb89e0f5e1e1cf23c8b722adf9f2515f3e116ba9072960ff7b7778771bfd0488", func := "orthoepy/orthoepylaw15.LimitChecks", spec := "limitChecks", apart := false }
def LimitChecksSaid : Prop := limitChecksRow.holds Try.pinned (OpenSpec.ofChange limitChecksSpec)

/-- ITS FALSE NEIGHBOUR: 'it returns false'. Refute it at one input. -/
def limitChecksWrong : ChangeSpec := { name := "limitChecks", fn := fun _ => fun
  | [d1, d2] => { results := [.lit (.bool false)], args := [d1, d2] }
  | _ => none }
def LimitChecksWrongFalsely : Prop := limitChecksRow.holds Try.pinned (OpenSpec.ofChange limitChecksWrong)

/- THE SECOND FORM. 'bulk': how many values and letters a reading holds, each counted each time it is reached (what is shared counts as often as it is met; a slice's spare places count too). A statement '..UptoSaid' is the law's where the arguments, and the package variables that the reading takes, are together of bulk at most 1048576: NARROWER than '..Said'. Prove '..Said' where nothing that the law and all that it calls make is longer than what came in: it says more and counts as full. Else prove '..UptoSaid'. A law counts once. -/
mutual
def uptoBulk {H : Type} : DataW H → Nat
  | .lit (.string bytes) => bytes.length + 1
  | .lit _ => 1
  | .nil => 1
  | .ptr d => uptoBulk d + 1
  | .slice elems spare => uptoBulkAll elems + uptoBulkAll spare + 1
  | .agg parts => uptoBulkAll parts + 1
  | .iface _ d => uptoBulk d + 1
  | .map entries => uptoBulkEntries entries + 1
  | .held _ => 1
def uptoBulkAll {H : Type} : List (DataW H) → Nat
  | [] => 0
  | d :: r => uptoBulk d + uptoBulkAll r
def uptoBulkEntries {H : Type} : List (Lit × DataW H) → Nat
  | [] => 0
  | x :: r => uptoBulkEntry x + uptoBulkEntries r
def uptoBulkEntry {H : Type} : Lit × DataW H → Nat
  | (.string bytes, d) => bytes.length + uptoBulk d + 1
  | (_, d) => uptoBulk d + 1
 end
def uptoSmall : (H : Type) → List (DataW H) → Bool := fun _ ds => decide (uptoBulkAll ds ≤ 1048576)
def OpenSpec.upto (s : _root_.Go.ChangeSpec) : _root_.Go.OpenSpec := { _root_.Go.OpenSpec.ofChange s with cond := some uptoSmall }

/-- 'orthoepylaw15.LimitPlays', WHERE WHAT IT READS IS OF BULK AT MOST 1048576: true; the input reads as it did. -/
def limitPlaysUptoRow : OpenClaim := { program := "ythiakokjijfgoaa", sum := "bb89e0f5e1e1cf23c8b722adf9f2515f3e116ba9072960ff7b7778771bfd0488", func := "orthoepy/orthoepylaw15.LimitPlays", spec := "limitPlays", apart := false, narrowed := true }
def LimitPlaysUptoSaid : Prop := limitPlaysUptoRow.holds Try.pinned (OpenSpec.upto limitPlaysSpec)

/-- 'orthoepylaw15.LimitBounds', WHERE WHAT IT READS IS OF BULK AT MOST 1048576: true; the input reads as it did. -/
def limitBoundsUptoRow : OpenClaim := { program := "ythiakokjijfgoaa", sum := "bb89e0f5e1e1cf23c8b722adf9f2515f3e116ba9072960ff7b7778771bfd0488", func := "orthoepy/orthoepylaw15.LimitBounds", spec := "limitBounds", apart := false, narrowed := true }
def LimitBoundsUptoSaid : Prop := limitBoundsUptoRow.holds Try.pinned (OpenSpec.upto limitBoundsSpec)

/-- 'orthoepylaw15.LimitChecks', WHERE WHAT IT READS IS OF BULK AT MOST 1048576: true; the input reads as it did. -/
def limitChecksUptoRow : OpenClaim := { program := "ythiakokjijfgoaa", sum := "bb89e0f5e1e1cf23c8b722adf9f2515f3e116ba9072960ff7b7778771bfd0488", func := "orthoepy/orthoepylaw15.LimitChecks", spec := "limitChecks", apart := false, narrowed := true }
def LimitChecksUptoSaid : Prop := limitChecksUptoRow.holds Try.pinned (OpenSpec.upto limitChecksSpec)

end Rows
end Go.Proofs.Ythiakokjijfgoaa
