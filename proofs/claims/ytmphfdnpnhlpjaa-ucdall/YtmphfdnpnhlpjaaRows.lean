/-
  No cell of these rows narrows 'for every input' (looked for: loops, veiled, ifaces, maps, wideKeys, modest, calm, conditions, laid).
  DERIVED. THE GIVEN ROWS OF THIS SEAT. 4 by the template 'for every input the law returns true; each argument reads behind the call as it read before'; 0 by the template 'total and deterministic' (their statements: YtmphfdnpnhlpjaaTotals.lean).
  GIVEN WITH THE SEED: the statements are not yours to turn. If you find one false, say at which input.
  Laid BY PROGRAM, IN A SANDBOX (cutbox-rows.mjs): the forced cells as the released guide's own fill.sh prints them over the translation 427e5b7559aee736… (all of the seat's roots in one cut). By AI agents, Wed Nov 11 2026. No macro, syntax, notation, axiom, sorry.
-/
import Derived.Test.YtmphfdnpnhlpjaaChecked
import GoSem.Claim
import GoSem.ClaimJoined
import GoSem.ClaimMapViews
import Derived.JoinedTies
import Derived.KernelRfl
namespace Go.Proofs.Ytmphfdnpnhlpjaa
/- THE CELL 'sum', in the pinned program and in every row, IS THE sha256 OF THE DUMP (.gsa) THAT YtmphfdnpnhlpjaaProg.lean LOADS. Nothing in Lean hashes anything: it is a label: what it is worth is what the hold of that sum in a sandbox is worth. -/
noncomputable def Try.pinned : Pinned := { name := "ytmphfdnpnhlpjaa", sum := "427e5b7559aee73638da527b4791a179e547b3b4ebd28e700cdb418f6f41ea99", checked := Try.checked }
namespace Rows
def none {H : Type} : Left H := { results := [], args := [] }

/-- 'orthoepylaw05.UcdAll': WHATEVER THE INPUT: true; the input reads as it did. -/
def ucdAllSpec : ChangeSpec := { name := "ucdAll", fn := fun _ => fun
  | [d1, d2, d3] => { results := [.lit (.bool true)], args := [d1, d2, d3] }
  | _ => none }
def ucdAllRow : OpenClaim := { program := "ytmphfdnpnhlpjaa", sum := "427e5b7559aee73638da527b4791a179e547b3b4ebd28e700cdb418f6f41ea99", func := "orthoepy/orthoepylaw05.UcdAll", spec := "ucdAll", unfollowed := true, recurses := true, plainKeys := false, apart := false }
def UcdAllSaid : Prop := ucdAllRow.holds Try.pinned (OpenSpec.ofChange ucdAllSpec)

/-- ITS FALSE NEIGHBOUR: 'it returns false'. Refute it at one input. -/
def ucdAllWrong : ChangeSpec := { name := "ucdAll", fn := fun _ => fun
  | [d1, d2, d3] => { results := [.lit (.bool false)], args := [d1, d2, d3] }
  | _ => none }
def UcdAllWrongFalsely : Prop := ucdAllRow.holds Try.pinned (OpenSpec.ofChange ucdAllWrong)

/-- 'orthoepylaw05.UcdRows': WHATEVER THE INPUT: true; the input reads as it did. -/
def ucdRowsSpec : ChangeSpec := { name := "ucdRows", fn := fun _ => fun
  | [d] => { results := [.lit (.bool true)], args := [d] }
  | _ => none }
def ucdRowsRow : OpenClaim := { program := "ytmphfdnpnhlpjaa", sum := "427e5b7559aee73638da527b4791a179e547b3b4ebd28e700cdb418f6f41ea99", func := "orthoepy/orthoepylaw05.UcdRows", spec := "ucdRows", unfollowed := true, recurses := true, plainKeys := false, apart := false }
def UcdRowsSaid : Prop := ucdRowsRow.holds Try.pinned (OpenSpec.ofChange ucdRowsSpec)

/-- ITS FALSE NEIGHBOUR: 'it returns false'. Refute it at one input. -/
def ucdRowsWrong : ChangeSpec := { name := "ucdRows", fn := fun _ => fun
  | [d] => { results := [.lit (.bool false)], args := [d] }
  | _ => none }
def UcdRowsWrongFalsely : Prop := ucdRowsRow.holds Try.pinned (OpenSpec.ofChange ucdRowsWrong)

/-- 'orthoepylaw05.UcdBack': WHATEVER THE INPUT: true; the input reads as it did. -/
def ucdBackSpec : ChangeSpec := { name := "ucdBack", fn := fun _ => fun
  | [d1, d2] => { results := [.lit (.bool true)], args := [d1, d2] }
  | _ => none }
def ucdBackRow : OpenClaim := { program := "ytmphfdnpnhlpjaa", sum := "427e5b7559aee73638da527b4791a179e547b3b4ebd28e700cdb418f6f41ea99", func := "orthoepy/orthoepylaw05.UcdBack", spec := "ucdBack", unfollowed := true, recurses := true, plainKeys := false, apart := false }
def UcdBackSaid : Prop := ucdBackRow.holds Try.pinned (OpenSpec.ofChange ucdBackSpec)

/-- ITS FALSE NEIGHBOUR: 'it returns false'. Refute it at one input. -/
def ucdBackWrong : ChangeSpec := { name := "ucdBack", fn := fun _ => fun
  | [d1, d2] => { results := [.lit (.bool false)], args := [d1, d2] }
  | _ => none }
def UcdBackWrongFalsely : Prop := ucdBackRow.holds Try.pinned (OpenSpec.ofChange ucdBackWrong)

/-- 'orthoepylaw05.UcdEnds': WHATEVER THE INPUT: true; the input reads as it did. -/
def ucdEndsSpec : ChangeSpec := { name := "ucdEnds", fn := fun _ => fun
  | [d] => { results := [.lit (.bool true)], args := [d] }
  | _ => none }
def ucdEndsRow : OpenClaim := { program := "ytmphfdnpnhlpjaa", sum := "427e5b7559aee73638da527b4791a179e547b3b4ebd28e700cdb418f6f41ea99", func := "orthoepy/orthoepylaw05.UcdEnds", spec := "ucdEnds", unfollowed := true, recurses := true, plainKeys := false, apart := false }
def UcdEndsSaid : Prop := ucdEndsRow.holds Try.pinned (OpenSpec.ofChange ucdEndsSpec)

/-- ITS FALSE NEIGHBOUR: 'it returns false'. Refute it at one input. -/
def ucdEndsWrong : ChangeSpec := { name := "ucdEnds", fn := fun _ => fun
  | [d] => { results := [.lit (.bool false)], args := [d] }
  | _ => none }
def UcdEndsWrongFalsely : Prop := ucdEndsRow.holds Try.pinned (OpenSpec.ofChange ucdEndsWrong)

/- THE SECOND FORM. 'bulk': how many values and letters a reading holds, each counted each time it is reached (what is shared counts as often as it is met; a slice's spare places count too). A statement '..UptoSaid' is the law's where the arguments, and the package variables that the reading takes, are together of bulk at most 1048576: NARROWER than '..Said'. Prove '..Said' where nothing that the law and all that it calls make is longer than what came in: it says more and counts as full. Else prove '..UptoSaid'. A law counts once. -/
mutual
def uptoBulk {H : Type} : DataW H → Nat
  | .lit (.string bytes) => bytes.length + 1
  | .lit _ => 1
  | .nil => 1
  | .ptr d => uptoBulk d + 1
  | .slice elems spare => uptoBulkAll elems + uptoBulkAll spare + 1
  | .agg parts => uptoBulkAll parts + 1
  | .iface _ d => uptoBulk d + 1
  | .map entries => uptoBulkEntries entries + 1
  | .held _ => 1
def uptoBulkAll {H : Type} : List (DataW H) → Nat
  | [] => 0
  | d :: r => uptoBulk d + uptoBulkAll r
def uptoBulkEntries {H : Type} : List (Lit × DataW H) → Nat
  | [] => 0
  | x :: r => uptoBulkEntry x + uptoBulkEntries r
def uptoBulkEntry {H : Type} : Lit × DataW H → Nat
  | (.string bytes, d) => bytes.length + uptoBulk d + 1
  | (_, d) => uptoBulk d + 1
 end
def uptoSmall : (H : Type) → List (DataW H) → Bool := fun _ ds => decide (uptoBulkAll ds ≤ 1048576)
def OpenSpec.upto (s : _root_.Go.ChangeSpec) : _root_.Go.OpenSpec := { _root_.Go.OpenSpec.ofChange s with cond := some uptoSmall }

/-- 'orthoepylaw05.UcdAll', WHERE WHAT IT READS IS OF BULK AT MOST 1048576: true; the input reads as it did. -/
def ucdAllUptoRow : OpenClaim := { program := "ytmphfdnpnhlpjaa", sum := "427e5b7559aee73638da527b4791a179e547b3b4ebd28e700cdb418f6f41ea99", func := "orthoepy/orthoepylaw05.UcdAll", spec := "ucdAll", unfollowed := true, recurses := true, plainKeys := false, apart := false, narrowed := true }
def UcdAllUptoSaid : Prop := ucdAllUptoRow.holds Try.pinned (OpenSpec.upto ucdAllSpec)

/-- 'orthoepylaw05.UcdRows', WHERE WHAT IT READS IS OF BULK AT MOST 1048576: true; the input reads as it did. -/
def ucdRowsUptoRow : OpenClaim := { program := "ytmphfdnpnhlpjaa", sum := "427e5b7559aee73638da527b4791a179e547b3b4ebd28e700cdb418f6f41ea99", func := "orthoepy/orthoepylaw05.UcdRows", spec := "ucdRows", unfollowed := true, recurses := true, plainKeys := false, apart := false, narrowed := true }
def UcdRowsUptoSaid : Prop := ucdRowsUptoRow.holds Try.pinned (OpenSpec.upto ucdRowsSpec)

/-- 'orthoepylaw05.UcdBack', WHERE WHAT IT READS IS OF BULK AT MOST 1048576: true; the input reads as it did. -/
def ucdBackUptoRow : OpenClaim := { program := "ytmphfdnpnhlpjaa", sum := "427e5b7559aee73638da527b4791a179e547b3b4ebd28e700cdb418f6f41ea99", func := "orthoepy/orthoepylaw05.UcdBack", spec := "ucdBack", unfollowed := true, recurses := true, plainKeys := false, apart := false, narrowed := true }
def UcdBackUptoSaid : Prop := ucdBackUptoRow.holds Try.pinned (OpenSpec.upto ucdBackSpec)

/-- 'orthoepylaw05.UcdEnds', WHERE WHAT IT READS IS OF BULK AT MOST 1048576: true; the input reads as it did. -/
def ucdEndsUptoRow : OpenClaim := { program := "ytmphfdnpnhlpjaa", sum := "427e5b7559aee73638da527b4791a179e547b3b4ebd28e700cdb418f6f41ea99", func := "orthoepy/orthoepylaw05.UcdEnds", spec := "ucdEnds", unfollowed := true, recurses := true, plainKeys := false, apart := false, narrowed := true }
def UcdEndsUptoSaid : Prop := ucdEndsUptoRow.holds Try.pinned (OpenSpec.upto ucdEndsSpec)

end Rows
end Go.Proofs.Ytmphfdnpnhlpjaa
