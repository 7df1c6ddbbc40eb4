/-
  No cell of these rows narrows 'for every input' (looked for: loops, veiled, ifaces, maps, wideKeys, modest, calm, conditions, laid).
  DERIVED. THE GIVEN ROWS OF THIS SEAT. 5 by the template 'for every input the law returns true; each argument reads behind the call as it read before'; 0 by the template 'total and deterministic' (their statements: YtmedpgpokenddaaTotals.lean).
  GIVEN WITH THE SEED: the statements are not yours to turn. If you find one false, say at which input.
  Laid BY PROGRAM, IN A SANDBOX (cutbox-rows.mjs): the forced cells as the released guide's own fill.sh prints them over the translation 558f39d7a02f8cb9… (all of the seat's roots in one cut). By AI agents, Wed Nov 11 2026. No macro, syntax, notation, axiom, sorry.
-/
import Derived.Test.YtmedpgpokenddaaChecked
import GoSem.Claim
import GoSem.ClaimJoined
import GoSem.ClaimMapViews
import Derived.JoinedTies
import Derived.KernelRfl
namespace Go.Proofs.Ytmedpgpokenddaa
/- THE CELL 'sum', in the pinned program and in every row, IS THE sha256 OF THE DUMP (.gsa) THAT YtmedpgpokenddaaProg.lean LOADS. Nothing in Lean hashes anything: it is a label: what it is worth is what the hold of that sum in a sandbox is worth. -/
noncomputable def Try.pinned : Pinned := { name := "ytmedpgpokenddaa", sum := "558f39d7a02f8cb93297006e1566581b9cf7f1fb58c119575b9fb30f1d646b0c", checked := Try.checked }
namespace Rows
def none {H : Type} : Left H := { results := [], args := [] }

/-- 'orthoepylaw08.ComposeAll': WHATEVER THE INPUT: true; the input reads as it did. -/
def composeAllSpec : ChangeSpec := { name := "composeAll", fn := fun _ => fun
  | [d1, d2, d3] => { results := [.lit (.bool true)], args := [d1, d2, d3] }
  | _ => none }
def composeAllRow : OpenClaim := { program := "ytmedpgpokenddaa", sum := "558f39d7a02f8cb93297006e1566581b9cf7f1fb58c119575b9fb30f1d646b0c", func := "orthoepy/orthoepylaw08.ComposeAll", spec := "composeAll", unfollowed := true, recurses := true, plainKeys := false, apart := false }
def ComposeAllSaid : Prop := composeAllRow.holds Try.pinned (OpenSpec.ofChange composeAllSpec)

/-- ITS FALSE NEIGHBOUR: 'it returns false'. Refute it at one input. -/
def composeAllWrong : ChangeSpec := { name := "composeAll", fn := fun _ => fun
  | [d1, d2, d3] => { results := [.lit (.bool false)], args := [d1, d2, d3] }
  | _ => none }
def ComposeAllWrongFalsely : Prop := composeAllRow.holds Try.pinned (OpenSpec.ofChange composeAllWrong)

/-- 'orthoepylaw08.ComposeNumbers': WHATEVER THE INPUT: true; the input reads as it did. -/
def composeNumbersSpec : ChangeSpec := { name := "composeNumbers", fn := fun _ => fun
  | [d] => { results := [.lit (.bool true)], args := [d] }
  | _ => none }
def composeNumbersRow : OpenClaim := { program := "ytmedpgpokenddaa", sum := "558f39d7a02f8cb93297006e1566581b9cf7f1fb58c119575b9fb30f1d646b0c", func := "orthoepy/orthoepylaw08.ComposeNumbers", spec := "composeNumbers", unfollowed := true, recurses := true, plainKeys := false, apart := false }
def ComposeNumbersSaid : Prop := composeNumbersRow.holds Try.pinned (OpenSpec.ofChange composeNumbersSpec)

/-- ITS FALSE NEIGHBOUR: 'it returns false'. Refute it at one input. -/
def composeNumbersWrong : ChangeSpec := { name := "composeNumbers", fn := fun _ => fun
  | [d] => { results := [.lit (.bool false)], args := [d] }
  | _ => none }
def ComposeNumbersWrongFalsely : Prop := composeNumbersRow.holds Try.pinned (OpenSpec.ofChange composeNumbersWrong)

/-- 'orthoepylaw08.ComposeBack': WHATEVER THE INPUT: true; the input reads as it did. -/
def composeBackSpec : ChangeSpec := { name := "composeBack", fn := fun _ => fun
  | [d] => { results := [.lit (.bool true)], args := [d] }
  | _ => none }
def composeBackRow : OpenClaim := { program := "ytmedpgpokenddaa", sum := "558f39d7a02f8cb93297006e1566581b9cf7f1fb58c119575b9fb30f1d646b0c", func := "orthoepy/orthoepylaw08.ComposeBack", spec := "composeBack", unfollowed := true, recurses := true, plainKeys := false, apart := false }
def ComposeBackSaid : Prop := composeBackRow.holds Try.pinned (OpenSpec.ofChange composeBackSpec)

/-- ITS FALSE NEIGHBOUR: 'it returns false'. Refute it at one input. -/
def composeBackWrong : ChangeSpec := { name := "composeBack", fn := fun _ => fun
  | [d] => { results := [.lit (.bool false)], args := [d] }
  | _ => none }
def ComposeBackWrongFalsely : Prop := composeBackRow.holds Try.pinned (OpenSpec.ofChange composeBackWrong)

/-- 'orthoepylaw08.ComposeMarks': WHATEVER THE INPUT: true; the input reads as it did. -/
def composeMarksSpec : ChangeSpec := { name := "composeMarks", fn := fun _ => fun
  | [d1, d2] => { results := [.lit (.bool true)], args := [d1, d2] }
  | _ => none }
def composeMarksRow : OpenClaim := { program := "ytmedpgpokenddaa", sum := "558f39d7a02f8cb93297006e1566581b9cf7f1fb58c119575b9fb30f1d646b0c", func := "orthoepy/orthoepylaw08.ComposeMarks", spec := "composeMarks", unfollowed := true, recurses := true, plainKeys := false, apart := false }
def ComposeMarksSaid : Prop := composeMarksRow.holds Try.pinned (OpenSpec.ofChange composeMarksSpec)

/-- ITS FALSE NEIGHBOUR: 'it returns false'. Refute it at one input. -/
def composeMarksWrong : ChangeSpec := { name := "composeMarks", fn := fun _ => fun
  | [d1, d2] => { results := [.lit (.bool false)], args := [d1, d2] }
  | _ => none }
def ComposeMarksWrongFalsely : Prop := composeMarksRow.holds Try.pinned (OpenSpec.ofChange composeMarksWrong)

/-- 'orthoepylaw08.ComposeHangul': WHATEVER THE INPUT: true; the input reads as it did. -/
def composeHangulSpec : ChangeSpec := { name := "composeHangul", fn := fun _ => fun
  | [d] => { results := [.lit (.bool true)], args := [d] }
  | _ => none }
def composeHangulRow : OpenClaim := { program := "ytmedpgpokenddaa", sum := "558f39d7a02f8cb93297006e1566581b9cf7f1fb58c119575b9fb30f1d646b0c", func := "orthoepy/orthoepylaw08.ComposeHangul", spec := "composeHangul", unfollowed := true, recurses := true, plainKeys := false, apart := false }
def ComposeHangulSaid : Prop := composeHangulRow.holds Try.pinned (OpenSpec.ofChange composeHangulSpec)

/-- ITS FALSE NEIGHBOUR: 'it returns false'. Refute it at one input. -/
def composeHangulWrong : ChangeSpec := { name := "composeHangul", fn := fun _ => fun
  | [d] => { results := [.lit (.bool false)], args := [d] }
  | _ => none }
def ComposeHangulWrongFalsely : Prop := composeHangulRow.holds Try.pinned (OpenSpec.ofChange composeHangulWrong)

/- THE SECOND FORM. 'bulk': how many values and letters a reading holds, each counted each time it is reached (what is shared counts as often as it is met; a slice's spare places count too). A statement '..UptoSaid' is the law's where the arguments, and the package variables that the reading takes, are together of bulk at most 1048576: NARROWER than '..Said'. Prove '..Said' where nothing that the law and all that it calls make is longer than what came in: it says more and counts as full. Else prove '..UptoSaid'. A law counts once. -/
mutual
def uptoBulk {H : Type} : DataW H → Nat
  | .lit (.string bytes) => bytes.length + 1
  | .lit _ => 1
  | .nil => 1
  | .ptr d => uptoBulk d + 1
  | .slice elems spare => uptoBulkAll elems + uptoBulkAll spare + 1
  | .agg parts => uptoBulkAll parts + 1
  | .iface _ d => uptoBulk d + 1
  | .map entries => uptoBulkEntries entries + 1
  | .held _ => 1
def uptoBulkAll {H : Type} : List (DataW H) → Nat
  | [] => 0
  | d :: r => uptoBulk d + uptoBulkAll r
def uptoBulkEntries {H : Type} : List (Lit × DataW H) → Nat
  | [] => 0
  | x :: r => uptoBulkEntry x + uptoBulkEntries r
def uptoBulkEntry {H : Type} : Lit × DataW H → Nat
  | (.string bytes, d) => bytes.length + uptoBulk d + 1
  | (_, d) => uptoBulk d + 1
 end
def uptoSmall : (H : Type) → List (DataW H) → Bool := fun _ ds => decide (uptoBulkAll ds ≤ 1048576)
def OpenSpec.upto (s : _root_.Go.ChangeSpec) : _root_.Go.OpenSpec := { _root_.Go.OpenSpec.ofChange s with cond := some uptoSmall }

/-- 'orthoepylaw08.ComposeAll', WHERE WHAT IT READS IS OF BULK AT MOST 1048576: true; the input reads as it did. -/
def composeAllUptoRow : OpenClaim := { program := "ytmedpgpokenddaa", sum := "558f39d7a02f8cb93297006e1566581b9cf7f1fb58c119575b9fb30f1d646b0c", func := "orthoepy/orthoepylaw08.ComposeAll", spec := "composeAll", unfollowed := true, recurses := true, plainKeys := false, apart := false, narrowed := true }
def ComposeAllUptoSaid : Prop := composeAllUptoRow.holds Try.pinned (OpenSpec.upto composeAllSpec)

/-- 'orthoepylaw08.ComposeNumbers', WHERE WHAT IT READS IS OF BULK AT MOST 1048576: true; the input reads as it did. -/
def composeNumbersUptoRow : OpenClaim := { program := "ytmedpgpokenddaa", sum := "558f39d7a02f8cb93297006e1566581b9cf7f1fb58c119575b9fb30f1d646b0c", func := "orthoepy/orthoepylaw08.ComposeNumbers", spec := "composeNumbers", unfollowed := true, recurses := true, plainKeys := false, apart := false, narrowed := true }
def ComposeNumbersUptoSaid : Prop := composeNumbersUptoRow.holds Try.pinned (OpenSpec.upto composeNumbersSpec)

/-- 'orthoepylaw08.ComposeBack', WHERE WHAT IT READS IS OF BULK AT MOST 1048576: true; the input reads as it did. -/
def composeBackUptoRow : OpenClaim := { program := "ytmedpgpokenddaa", sum := "558f39d7a02f8cb93297006e1566581b9cf7f1fb58c119575b9fb30f1d646b0c", func := "orthoepy/orthoepylaw08.ComposeBack", spec := "composeBack", unfollowed := true, recurses := true, plainKeys := false, apart := false, narrowed := true }
def ComposeBackUptoSaid : Prop := composeBackUptoRow.holds Try.pinned (OpenSpec.upto composeBackSpec)

/-- 'orthoepylaw08.ComposeMarks', WHERE WHAT IT READS IS OF BULK AT MOST 1048576: true; the input reads as it did. -/
def composeMarksUptoRow : OpenClaim := { program := "ytmedpgpokenddaa", sum := "558f39d7a02f8cb93297006e1566581b9cf7f1fb58c119575b9fb30f1d646b0c", func := "orthoepy/orthoepylaw08.ComposeMarks", spec := "composeMarks", unfollowed := true, recurses := true, plainKeys := false, apart := false, narrowed := true }
def ComposeMarksUptoSaid : Prop := composeMarksUptoRow.holds Try.pinned (OpenSpec.upto composeMarksSpec)

/-- 'orthoepylaw08.ComposeHangul', WHERE WHAT IT READS IS OF BULK AT MOST 1048576: true; the input reads as it did. -/
def composeHangulUptoRow : OpenClaim := { program := "ytmedpgpokenddaa", sum := "558f39d7a02f8cb93297006e1566581b9cf7f1fb58c119575b9fb30f1d646b0c", func := "orthoepy/orthoepylaw08.ComposeHangul", spec := "composeHangul", unfollowed := true, recurses := true, plainKeys := false, apart := false, narrowed := true }
def ComposeHangulUptoSaid : Prop := composeHangulUptoRow.holds Try.pinned (OpenSpec.upto composeHangulSpec)

end Rows
end Go.Proofs.Ytmedpgpokenddaa
