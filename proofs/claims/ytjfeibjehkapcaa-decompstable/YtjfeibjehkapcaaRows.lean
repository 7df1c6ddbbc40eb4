/-
  No cell of these rows narrows 'for every input' (looked for: loops, veiled, ifaces, maps, wideKeys, modest, calm, conditions, laid).
  DERIVED. THE GIVEN ROWS OF THIS SEAT. 5 by the template 'for every input the law returns true; each argument reads behind the call as it read before'; 0 by the template 'total and deterministic' (their statements: YtjfeibjehkapcaaTotals.lean).
  GIVEN WITH THE SEED: the statements are not yours to turn. If you find one false, say at which input.
  Laid BY PROGRAM, IN A SANDBOX (cutbox-rows.mjs): the forced cells as the released guide's own fill.sh prints them over the translation 4d0b716ee381511c… (all of the seat's roots in one cut). By AI agents, Wed Nov 11 2026. No macro, syntax, notation, axiom, sorry.
-/
import Derived.Test.YtjfeibjehkapcaaChecked
import GoSem.Claim
import GoSem.ClaimJoined
import GoSem.ClaimMapViews
import Derived.JoinedTies
import Derived.KernelRfl
namespace Go.Proofs.Ytjfeibjehkapcaa
/- THE CELL 'sum', in the pinned program and in every row, IS THE sha256 OF THE DUMP (.gsa) THAT YtjfeibjehkapcaaProg.lean LOADS. Nothing in Lean hashes anything: it is a label: what it is worth is what the hold of that sum in a sandbox is worth. -/
noncomputable def Try.pinned : Pinned := { name := "ytjfeibjehkapcaa", sum := "4d0b716ee381511c0bf19f195e47287274a494821edead42b7a45fa10822dde9", checked := Try.checked }
namespace Rows
def none {H : Type} : Left H := { results := [], args := [] }

/-- 'orthoepylaw07.DecompAll': WHATEVER THE INPUT: true; the input reads as it did. -/
def decompAllSpec : ChangeSpec := { name := "decompAll", fn := fun _ => fun
  | [d1, d2] => { results := [.lit (.bool true)], args := [d1, d2] }
  | _ => none }
def decompAllRow : OpenClaim := { program := "ytjfeibjehkapcaa", sum := "4d0b716ee381511c0bf19f195e47287274a494821edead42b7a45fa10822dde9", func := "orthoepy/orthoepylaw07.DecompAll", spec := "decompAll", unfollowed := true, recurses := true, plainKeys := false, apart := false }
def DecompAllSaid : Prop := decompAllRow.holds Try.pinned (OpenSpec.ofChange decompAllSpec)

/-- ITS FALSE NEIGHBOUR: 'it returns false'. Refute it at one input. -/
def decompAllWrong : ChangeSpec := { name := "decompAll", fn := fun _ => fun
  | [d1, d2] => { results := [.lit (.bool false)], args := [d1, d2] }
  | _ => none }
def DecompAllWrongFalsely : Prop := decompAllRow.holds Try.pinned (OpenSpec.ofChange decompAllWrong)

/-- 'orthoepylaw07.DecompNumbers': WHATEVER THE INPUT: true; the input reads as it did. -/
def decompNumbersSpec : ChangeSpec := { name := "decompNumbers", fn := fun _ => fun
  | [d] => { results := [.lit (.bool true)], args := [d] }
  | _ => none }
def decompNumbersRow : OpenClaim := { program := "ytjfeibjehkapcaa", sum := "4d0b716ee381511c0bf19f195e47287274a494821edead42b7a45fa10822dde9", func := "orthoepy/orthoepylaw07.DecompNumbers", spec := "decompNumbers", unfollowed := true, recurses := true, plainKeys := false, apart := false }
def DecompNumbersSaid : Prop := decompNumbersRow.holds Try.pinned (OpenSpec.ofChange decompNumbersSpec)

/-- ITS FALSE NEIGHBOUR: 'it returns false'. Refute it at one input. -/
def decompNumbersWrong : ChangeSpec := { name := "decompNumbers", fn := fun _ => fun
  | [d] => { results := [.lit (.bool false)], args := [d] }
  | _ => none }
def DecompNumbersWrongFalsely : Prop := decompNumbersRow.holds Try.pinned (OpenSpec.ofChange decompNumbersWrong)

/-- 'orthoepylaw07.DecompOnce': WHATEVER THE INPUT: true; the input reads as it did. -/
def decompOnceSpec : ChangeSpec := { name := "decompOnce", fn := fun _ => fun
  | [d] => { results := [.lit (.bool true)], args := [d] }
  | _ => none }
def decompOnceRow : OpenClaim := { program := "ytjfeibjehkapcaa", sum := "4d0b716ee381511c0bf19f195e47287274a494821edead42b7a45fa10822dde9", func := "orthoepy/orthoepylaw07.DecompOnce", spec := "decompOnce", unfollowed := true, recurses := true, plainKeys := false, apart := false }
def DecompOnceSaid : Prop := decompOnceRow.holds Try.pinned (OpenSpec.ofChange decompOnceSpec)

/-- ITS FALSE NEIGHBOUR: 'it returns false'. Refute it at one input. -/
def decompOnceWrong : ChangeSpec := { name := "decompOnce", fn := fun _ => fun
  | [d] => { results := [.lit (.bool false)], args := [d] }
  | _ => none }
def DecompOnceWrongFalsely : Prop := decompOnceRow.holds Try.pinned (OpenSpec.ofChange decompOnceWrong)

/-- 'orthoepylaw07.DecompParts': WHATEVER THE INPUT: true; the input reads as it did. -/
def decompPartsSpec : ChangeSpec := { name := "decompParts", fn := fun _ => fun
  | [d1, d2] => { results := [.lit (.bool true)], args := [d1, d2] }
  | _ => none }
def decompPartsRow : OpenClaim := { program := "ytjfeibjehkapcaa", sum := "4d0b716ee381511c0bf19f195e47287274a494821edead42b7a45fa10822dde9", func := "orthoepy/orthoepylaw07.DecompParts", spec := "decompParts", unfollowed := true, recurses := true, plainKeys := false, apart := false }
def DecompPartsSaid : Prop := decompPartsRow.holds Try.pinned (OpenSpec.ofChange decompPartsSpec)

/-- ITS FALSE NEIGHBOUR: 'it returns false'. Refute it at one input. -/
def decompPartsWrong : ChangeSpec := { name := "decompParts", fn := fun _ => fun
  | [d1, d2] => { results := [.lit (.bool false)], args := [d1, d2] }
  | _ => none }
def DecompPartsWrongFalsely : Prop := decompPartsRow.holds Try.pinned (OpenSpec.ofChange decompPartsWrong)

/-- 'orthoepylaw07.DecompStable': WHATEVER THE INPUT: true; the input reads as it did. -/
def decompStableSpec : ChangeSpec := { name := "decompStable", fn := fun _ => fun
  | [d] => { results := [.lit (.bool true)], args := [d] }
  | _ => none }
def decompStableRow : OpenClaim := { program := "ytjfeibjehkapcaa", sum := "4d0b716ee381511c0bf19f195e47287274a494821edead42b7a45fa10822dde9", func := "orthoepy/orthoepylaw07.DecompStable", spec := "decompStable", unfollowed := true, recurses := true, plainKeys := false, apart := false }
def DecompStableSaid : Prop := decompStableRow.holds Try.pinned (OpenSpec.ofChange decompStableSpec)

/-- ITS FALSE NEIGHBOUR: 'it returns false'. Refute it at one input. -/
def decompStableWrong : ChangeSpec := { name := "decompStable", fn := fun _ => fun
  | [d] => { results := [.lit (.bool false)], args := [d] }
  | _ => none }
def DecompStableWrongFalsely : Prop := decompStableRow.holds Try.pinned (OpenSpec.ofChange decompStableWrong)

/- THE SECOND FORM. 'bulk': how many values and letters a reading holds, each counted each time it is reached (what is shared counts as often as it is met; a slice's spare places count too). A statement '..UptoSaid' is the law's where the arguments, and the package variables that the reading takes, are together of bulk at most 1048576: NARROWER than '..Said'. Prove '..Said' where nothing that the law and all that it calls make is longer than what came in: it says more and counts as full. Else prove '..UptoSaid'. A law counts once. -/
mutual
def uptoBulk {H : Type} : DataW H → Nat
  | .lit (.string bytes) => bytes.length + 1
  | .lit _ => 1
  | .nil => 1
  | .ptr d => uptoBulk d + 1
  | .slice elems spare => uptoBulkAll elems + uptoBulkAll spare + 1
  | .agg parts => uptoBulkAll parts + 1
  | .iface _ d => uptoBulk d + 1
  | .map entries => uptoBulkEntries entries + 1
  | .held _ => 1
def uptoBulkAll {H : Type} : List (DataW H) → Nat
  | [] => 0
  | d :: r => uptoBulk d + uptoBulkAll r
def uptoBulkEntries {H : Type} : List (Lit × DataW H) → Nat
  | [] => 0
  | x :: r => uptoBulkEntry x + uptoBulkEntries r
def uptoBulkEntry {H : Type} : Lit × DataW H → Nat
  | (.string bytes, d) => bytes.length + uptoBulk d + 1
  | (_, d) => uptoBulk d + 1
 end
def uptoSmall : (H : Type) → List (DataW H) → Bool := fun _ ds => decide (uptoBulkAll ds ≤ 1048576)
def OpenSpec.upto (s : _root_.Go.ChangeSpec) : _root_.Go.OpenSpec := { _root_.Go.OpenSpec.ofChange s with cond := some uptoSmall }

/-- 'orthoepylaw07.DecompAll', WHERE WHAT IT READS IS OF BULK AT MOST 1048576: true; the input reads as it did. -/
def decompAllUptoRow : OpenClaim := { program := "ytjfeibjehkapcaa", sum := "4d0b716ee381511c0bf19f195e47287274a494821edead42b7a45fa10822dde9", func := "orthoepy/orthoepylaw07.DecompAll", spec := "decompAll", unfollowed := true, recurses := true, plainKeys := false, apart := false, narrowed := true }
def DecompAllUptoSaid : Prop := decompAllUptoRow.holds Try.pinned (OpenSpec.upto decompAllSpec)

/-- 'orthoepylaw07.DecompNumbers', WHERE WHAT IT READS IS OF BULK AT MOST 1048576: true; the input reads as it did. -/
def decompNumbersUptoRow : OpenClaim := { program := "ytjfeibjehkapcaa", sum := "4d0b716ee381511c0bf19f195e47287274a494821edead42b7a45fa10822dde9", func := "orthoepy/orthoepylaw07.DecompNumbers", spec := "decompNumbers", unfollowed := true, recurses := true, plainKeys := false, apart := false, narrowed := true }
def DecompNumbersUptoSaid : Prop := decompNumbersUptoRow.holds Try.pinned (OpenSpec.upto decompNumbersSpec)

/-- 'orthoepylaw07.DecompOnce', WHERE WHAT IT READS IS OF BULK AT MOST 1048576: true; the input reads as it did. -/
def decompOnceUptoRow : OpenClaim := { program := "ytjfeibjehkapcaa", sum := "4d0b716ee381511c0bf19f195e47287274a494821edead42b7a45fa10822dde9", func := "orthoepy/orthoepylaw07.DecompOnce", spec := "decompOnce", unfollowed := true, recurses := true, plainKeys := false, apart := false, narrowed := true }
def DecompOnceUptoSaid : Prop := decompOnceUptoRow.holds Try.pinned (OpenSpec.upto decompOnceSpec)

/-- 'orthoepylaw07.DecompParts', WHERE WHAT IT READS IS OF BULK AT MOST 1048576: true; the input reads as it did. -/
def decompPartsUptoRow : OpenClaim := { program := "ytjfeibjehkapcaa", sum := "4d0b716ee381511c0bf19f195e47287274a494821edead42b7a45fa10822dde9", func := "orthoepy/orthoepylaw07.DecompParts", spec := "decompParts", unfollowed := true, recurses := true, plainKeys := false, apart := false, narrowed := true }
def DecompPartsUptoSaid : Prop := decompPartsUptoRow.holds Try.pinned (OpenSpec.upto decompPartsSpec)

/-- 'orthoepylaw07.DecompStable', WHERE WHAT IT READS IS OF BULK AT MOST 1048576: true; the input reads as it did. -/
def decompStableUptoRow : OpenClaim := { program := "ytjfeibjehkapcaa", sum := "4d0b716ee381511c0bf19f195e47287274a494821edead42b7a45fa10822dde9", func := "orthoepy/orthoepylaw07.DecompStable", spec := "decompStable", unfollowed := true, recurses := true, plainKeys := false, apart := false, narrowed := true }
def DecompStableUptoSaid : Prop := decompStableUptoRow.holds Try.pinned (OpenSpec.upto decompStableSpec)

end Rows
end Go.Proofs.Ytjfeibjehkapcaa
