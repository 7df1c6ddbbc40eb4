/-
  No cell of these rows narrows 'for every input' (looked for: loops, veiled, ifaces, maps, wideKeys, modest, calm, conditions, laid).
  DERIVED. THE GIVEN ROWS OF THIS SEAT. 4 by the template 'for every input the law returns true; each argument reads behind the call as it read before'; 0 by the template 'total and deterministic' (their statements: YtdkfffncohipbaaTotals.lean).
  GIVEN WITH THE SEED: the statements are not yours to turn. If you find one false, say at which input.
  Laid BY PROGRAM, IN A SANDBOX (cutbox-rows.mjs): the forced cells as the released guide's own fill.sh prints them over the translation 49036443d11026dd… (all of the seat's roots in one cut). By AI agents, Wed Nov 11 2026. No macro, syntax, notation, axiom, sorry.
-/
import Derived.Test.YtdkfffncohipbaaChecked
import GoSem.Claim
import GoSem.ClaimJoined
import GoSem.ClaimMapViews
import Derived.JoinedTies
import Derived.KernelRfl
namespace Go.Proofs.Ytdkfffncohipbaa
/- THE CELL 'sum', in the pinned program and in every row, IS THE sha256 OF THE DUMP (.gsa) THAT YtdkfffncohipbaaProg.lean LOADS. Nothing in Lean hashes anything: it is a label: what it is worth is what the hold of that sum in a sandbox is worth. -/
noncomputable def Try.pinned : Pinned := { name := "ytdkfffncohipbaa", sum := "49036443d11026ddb869f65f4664cc03763b071937aef8432390aa5a12f3a3ce", checked := Try.checked }
namespace Rows
def none {H : Type} : Left H := { results := [], args := [] }

/-- 'orthoepylaw13.GramPlays': WHATEVER THE INPUT: true; the input reads as it did. -/
def gramPlaysSpec : ChangeSpec := { name := "gramPlays", fn := fun _ => fun
  | [d] => { results := [.lit (.bool true)], args := [d] }
  | _ => none }
def gramPlaysRow : OpenClaim := { program := "ytdkfffncohipbaa", sum := "49036443d11026ddb869f65f4664cc03763b071937aef8432390aa5a12f3a3ce", func := "orthoepy/orthoepylaw13.GramPlays", spec := "gramPlays", apart := false }
def GramPlaysSaid : Prop := gramPlaysRow.holds Try.pinned (OpenSpec.ofChange gramPlaysSpec)

/-- ITS FALSE NEIGHBOUR: 'it returns false'. Refute it at one input. -/
def gramPlaysWrong : ChangeSpec := { name := "gramPlays", fn := fun _ => fun
  | [d] => { results := [.lit (.bool false)], args := [d] }
  | _ => none }
def GramPlaysWrongFalsely : Prop := gramPlaysRow.holds Try.pinned (OpenSpec.ofChange gramPlaysWrong)

/-- 'orthoepylaw13.GramTexts': WHATEVER THE INPUT: true; the input reads as it did. -/
def gramTextsSpec : ChangeSpec := { name := "gramTexts", fn := fun _ => fun
  | [d] => { results := [.lit (.bool true)], args := [d] }
  | _ => none }
def gramTextsRow : OpenClaim := { program := "ytdkfffncohipbaa", sum := "49036443d11026ddb869f65f4664cc03763b071937aef8432390aa5a12f3a3ce", func := "orthoepy/orthoepylaw13.GramTexts", spec := "gramTexts", recurses := true, apart := false }
def GramTextsSaid : Prop := gramTextsRow.holds Try.pinned (OpenSpec.ofChange gramTextsSpec)

/-- ITS FALSE NEIGHBOUR: 'it returns false'. Refute it at one input. -/
def gramTextsWrong : ChangeSpec := { name := "gramTexts", fn := fun _ => fun
  | [d] => { results := [.lit (.bool false)], args := [d] }
  | _ => none }
def GramTextsWrongFalsely : Prop := gramTextsRow.holds Try.pinned (OpenSpec.ofChange gramTextsWrong)

/-- 'orthoepylaw13.GramHopes': WHATEVER THE INPUT: true; the input reads as it did. -/
def gramHopesSpec : ChangeSpec := { name := "gramHopes", fn := fun _ => fun
  | [d] => { results := [.lit (.bool true)], args := [d] }
  | _ => none }
def gramHopesRow : OpenClaim := { program := "ytdkfffncohipbaa", sum := "49036443d11026ddb869f65f4664cc03763b071937aef8432390aa5a12f3a3ce", func := "orthoepy/orthoepylaw13.GramHopes", spec := "gramHopes", apart := false }
def GramHopesSaid : Prop := gramHopesRow.holds Try.pinned (OpenSpec.ofChange gramHopesSpec)

/-- ITS FALSE NEIGHBOUR: 'it returns false'. Refute it at one input. -/
def gramHopesWrong : ChangeSpec := { name := "gramHopes", fn := fun _ => fun
  | [d] => { results := [.lit (.bool false)], args := [d] }
  | _ => none }
def GramHopesWrongFalsely : Prop := gramHopesRow.holds Try.pinned (OpenSpec.ofChange gramHopesWrong)

/-- 'orthoepylaw13.GramFirst': WHATEVER THE INPUT: true; the input reads as it did. -/
def gramFirstSpec : ChangeSpec := { name := "gramFirst", fn := fun _ => fun
  | [d] => { results := [.lit (.bool true)], args := [d] }
  | _ => none }
def gramFirstRow : OpenClaim := { program := "ytdkfffncohipbaa", sum := "49036443d11026ddb869f65f4664cc03763b071937aef8432390aa5a12f3a3ce", func := "orthoepy/orthoepylaw13.GramFirst", spec := "gramFirst", apart := false }
def GramFirstSaid : Prop := gramFirstRow.holds Try.pinned (OpenSpec.ofChange gramFirstSpec)

/-- ITS FALSE NEIGHBOUR: 'it returns false'. Refute it at one input. -/
def gramFirstWrong : ChangeSpec := { name := "gramFirst", fn := fun _ => fun
  | [d] => { results := [.lit (.bool false)], args := [d] }
  | _ => none }
def GramFirstWrongFalsely : Prop := gramFirstRow.holds Try.pinned (OpenSpec.ofChange gramFirstWrong)

/- THE SECOND FORM. 'bulk': how many values and letters a reading holds, each counted each time it is reached (what is shared counts as often as it is met; a slice's spare places count too). A statement '..UptoSaid' is the law's where the arguments, and the package variables that the reading takes, are together of bulk at most 1048576: NARROWER than '..Said'. Prove '..Said' where nothing that the law and all that it calls make is longer than what came in: it says more and counts as full. Else prove '..UptoSaid'. A law counts once. -/
mutual
def uptoBulk {H : Type} : DataW H → Nat
  | .lit (.string bytes) => bytes.length + 1
  | .lit _ => 1
  | .nil => 1
  | .ptr d => uptoBulk d + 1
  | .slice elems spare => uptoBulkAll elems + uptoBulkAll spare + 1
  | .agg parts => uptoBulkAll parts + 1
  | .iface _ d => uptoBulk d + 1
  | .map entries => uptoBulkEntries entries + 1
  | .held _ => 1
def uptoBulkAll {H : Type} : List (DataW H) → Nat
  | [] => 0
  | d :: r => uptoBulk d + uptoBulkAll r
def uptoBulkEntries {H : Type} : List (Lit × DataW H) → Nat
  | [] => 0
  | x :: r => uptoBulkEntry x + uptoBulkEntries r
def uptoBulkEntry {H : Type} : Lit × DataW H → Nat
  | (.string bytes, d) => bytes.length + uptoBulk d + 1
  | (_, d) => uptoBulk d + 1
 end
def uptoSmall : (H : Type) → List (DataW H) → Bool := fun _ ds => decide (uptoBulkAll ds ≤ 1048576)
def OpenSpec.upto (s : _root_.Go.ChangeSpec) : _root_.Go.OpenSpec := { _root_.Go.OpenSpec.ofChange s with cond := some uptoSmall }

/-- 'orthoepylaw13.GramPlays', WHERE WHAT IT READS IS OF BULK AT MOST 1048576: true; the input reads as it did. -/
def gramPlaysUptoRow : OpenClaim := { program := "ytdkfffncohipbaa", sum := "49036443d11026ddb869f65f4664cc03763b071937aef8432390aa5a12f3a3ce", func := "orthoepy/orthoepylaw13.GramPlays", spec := "gramPlays", apart := false, narrowed := true }
def GramPlaysUptoSaid : Prop := gramPlaysUptoRow.holds Try.pinned (OpenSpec.upto gramPlaysSpec)

/-- 'orthoepylaw13.GramTexts', WHERE WHAT IT READS IS OF BULK AT MOST 1048576: true; the input reads as it did. -/
def gramTextsUptoRow : OpenClaim := { program := "ytdkfffncohipbaa", sum := "49036443d11026ddb869f65f4664cc03763b071937aef8432390aa5a12f3a3ce", func := "orthoepy/orthoepylaw13.GramTexts", spec := "gramTexts", recurses := true, apart := false, narrowed := true }
def GramTextsUptoSaid : Prop := gramTextsUptoRow.holds Try.pinned (OpenSpec.upto gramTextsSpec)

/-- 'orthoepylaw13.GramHopes', WHERE WHAT IT READS IS OF BULK AT MOST 1048576: true; the input reads as it did. -/
def gramHopesUptoRow : OpenClaim := { program := "ytdkfffncohipbaa", sum := "49036443d11026ddb869f65f4664cc03763b071937aef8432390aa5a12f3a3ce", func := "orthoepy/orthoepylaw13.GramHopes", spec := "gramHopes", apart := false, narrowed := true }
def GramHopesUptoSaid : Prop := gramHopesUptoRow.holds Try.pinned (OpenSpec.upto gramHopesSpec)

/-- 'orthoepylaw13.GramFirst', WHERE WHAT IT READS IS OF BULK AT MOST 1048576: true; the input reads as it did. -/
def gramFirstUptoRow : OpenClaim := { program := "ytdkfffncohipbaa", sum := "49036443d11026ddb869f65f4664cc03763b071937aef8432390aa5a12f3a3ce", func := "orthoepy/orthoepylaw13.GramFirst", spec := "gramFirst", apart := false, narrowed := true }
def GramFirstUptoSaid : Prop := gramFirstUptoRow.holds Try.pinned (OpenSpec.upto gramFirstSpec)

end Rows
end Go.Proofs.Ytdkfffncohipbaa
