/-
  NARROWER THAN 'FOR EVERY INPUT', by the rows' own cells (each row's printed sentence says how): DigitsAll: laid · DigitsBack: laid · DigitsForms: laid · DigitsNorms: laid · DigitsOrder: laid.
  DERIVED. THE GIVEN ROWS OF THIS SEAT. 5 by the template 'for every input the law returns true; each argument reads behind the call as it read before'; 0 by the template 'total and deterministic' (their statements: YtadbnajodpfpgaaDoorTotals.lean).
  GIVEN WITH THE SEED: the statements are not yours to turn. If you find one false, say at which input.
  Laid BY PROGRAM, IN A SANDBOX (cutbox-rows.mjs): the forced cells as the released guide's own fill.sh prints them over the translation 9b9f907f3f81b62d… (all of the seat's roots in one cut). By AI agents, Wed Nov 11 2026. No macro, syntax, notation, axiom, sorry.
-/
import Derived.Test.YtadbnajodpfpgaaDoorChecked
import GoSem.PinnedTables
import GoSem.Claim
import GoSem.ClaimJoined
import GoSem.ClaimMapViews
import Derived.JoinedTies
import Derived.KernelRfl
namespace Go.Proofs.YtadbnajodpfpgaaDoor
/- THE CELL 'sum', in the pinned program and in every row, IS THE sha256 OF THE DUMP (.gsa) THAT YtadbnajodpfpgaaDoorProg.lean LOADS. Nothing in Lean hashes anything: it is a label: what it is worth is what the hold of that sum in a sandbox is worth. -/
noncomputable def Tryd.pinned : Pinned := { name := "ytadbnajodpfpgaadoor", sum := "9b9f907f3f81b62d55848e1ef5b5abaf2221edec6cda520b2fe1f19706272a82", checked := Tryd.checked }
namespace Rows
def none {H : Type} : Left H := { results := [], args := [] }

/- WHAT THE LISTED PACKAGE-LEVEL VARIABLES READ AS WHEN THE CALL BEGINS. Each datum BY PROGRAM (the guide's laid-datum.mjs) off the statement by which the dump's own 'gosem.cut.vars' lays the variable. In a bare row this is a premise. The card (YtadbnajodpfpgaaDoorCards.lean) ties it to the program's text. -/
def laid_unicode_utf8_acceptRanges {H : Type} : DataW H := .agg [.agg [.lit (.int .u8 128), .lit (.int .u8 191)], .agg [.lit (.int .u8 160), .lit (.int .u8 191)], .agg [.lit (.int .u8 128), .lit (.int .u8 159)], .agg [.lit (.int .u8 144), .lit (.int .u8 191)], .agg [.lit (.int .u8 128), .lit (.int .u8 143)], .agg [.lit (.int .u8 0), .lit (.int .u8 0)], .agg [.lit (.int .u8 0), .lit (.int .u8 0)], .agg [.lit (.int .u8 0), .lit (.int .u8 0)], .agg [.lit (.int .u8 0), .lit (.int .u8 0)], .agg [.lit (.int .u8 0), .lit (.int .u8 0)], .agg [.lit (.int .u8 0), .lit (.int .u8 0)], .agg [.lit (.int .u8 0), .lit (.int .u8 0)], .agg [.lit (.int .u8 0), .lit (.int .u8 0)], .agg [.lit (.int .u8 0), .lit (.int .u8 0)], .agg [.lit (.int .u8 0), .lit (.int .u8 0)], .agg [.lit (.int .u8 0), .lit (.int .u8 0)]]
/-- One of Go's own tables, pinned by name: the form's constant. -/
def laid_unicode_utf8_first : DataW Unit := Go.Pinned.utf8First

/-- 'orthoepylaw10.DigitsAll': WHATEVER THE INPUT: true; the input reads as it did. -/
def digitsAllSpec : ChangeSpec := { name := "digitsAll", fn := fun _ => fun
  | [d1, d2, d3, d4] => { results := [.lit (.bool true)], args := [d1, d2, d3, d4] }
  | _ => none }
def digitsAllRow : OpenClaim := { program := "ytadbnajodpfpgaadoor", sum := "9b9f907f3f81b62d55848e1ef5b5abaf2221edec6cda520b2fe1f19706272a82", func := "orthoepy/orthoepylaw10.DigitsAll", spec := "digitsAll", inPlace := ["internal/bytealg.IndexByteString", "internal/bytealg.IndexString"], recurses := true, named := ["unicode/utf8.first", "unicode/utf8.acceptRanges", "internal/bytealg.MaxLen"], apart := false, laid := [("unicode/utf8.acceptRanges", laid_unicode_utf8_acceptRanges), ("unicode/utf8.first", laid_unicode_utf8_first)] }
def DigitsAllSaid : Prop := digitsAllRow.holds Tryd.pinned (OpenSpec.ofChange digitsAllSpec)

/-- ITS FALSE NEIGHBOUR: 'it returns false'. Refute it at one input. -/
def digitsAllWrong : ChangeSpec := { name := "digitsAll", fn := fun _ => fun
  | [d1, d2, d3, d4] => { results := [.lit (.bool false)], args := [d1, d2, d3, d4] }
  | _ => none }
def DigitsAllWrongFalsely : Prop := digitsAllRow.holds Tryd.pinned (OpenSpec.ofChange digitsAllWrong)

/-- 'orthoepylaw10.DigitsBack': WHATEVER THE INPUT: true; the input reads as it did. -/
def digitsBackSpec : ChangeSpec := { name := "digitsBack", fn := fun _ => fun
  | [d] => { results := [.lit (.bool true)], args := [d] }
  | _ => none }
def digitsBackRow : OpenClaim := { program := "ytadbnajodpfpgaadoor", sum := "9b9f907f3f81b62d55848e1ef5b5abaf2221edec6cda520b2fe1f19706272a82", func := "orthoepy/orthoepylaw10.DigitsBack", spec := "digitsBack", inPlace := ["internal/bytealg.IndexByteString", "internal/bytealg.IndexString"], named := ["unicode/utf8.first", "unicode/utf8.acceptRanges", "internal/bytealg.MaxLen"], apart := false, laid := [("unicode/utf8.acceptRanges", laid_unicode_utf8_acceptRanges), ("unicode/utf8.first", laid_unicode_utf8_first)] }
def DigitsBackSaid : Prop := digitsBackRow.holds Tryd.pinned (OpenSpec.ofChange digitsBackSpec)

/-- ITS FALSE NEIGHBOUR: 'it returns false'. Refute it at one input. -/
def digitsBackWrong : ChangeSpec := { name := "digitsBack", fn := fun _ => fun
  | [d] => { results := [.lit (.bool false)], args := [d] }
  | _ => none }
def DigitsBackWrongFalsely : Prop := digitsBackRow.holds Tryd.pinned (OpenSpec.ofChange digitsBackWrong)

/-- 'orthoepylaw10.DigitsForms': WHATEVER THE INPUT: true; the input reads as it did. -/
def digitsFormsSpec : ChangeSpec := { name := "digitsForms", fn := fun _ => fun
  | [d1, d2, d3] => { results := [.lit (.bool true)], args := [d1, d2, d3] }
  | _ => none }
def digitsFormsRow : OpenClaim := { program := "ytadbnajodpfpgaadoor", sum := "9b9f907f3f81b62d55848e1ef5b5abaf2221edec6cda520b2fe1f19706272a82", func := "orthoepy/orthoepylaw10.DigitsForms", spec := "digitsForms", inPlace := ["internal/bytealg.IndexByteString", "internal/bytealg.IndexString"], recurses := true, named := ["unicode/utf8.first", "unicode/utf8.acceptRanges", "internal/bytealg.MaxLen"], apart := false, laid := [("unicode/utf8.acceptRanges", laid_unicode_utf8_acceptRanges), ("unicode/utf8.first", laid_unicode_utf8_first)] }
def DigitsFormsSaid : Prop := digitsFormsRow.holds Tryd.pinned (OpenSpec.ofChange digitsFormsSpec)

/-- ITS FALSE NEIGHBOUR: 'it returns false'. Refute it at one input. -/
def digitsFormsWrong : ChangeSpec := { name := "digitsForms", fn := fun _ => fun
  | [d1, d2, d3] => { results := [.lit (.bool false)], args := [d1, d2, d3] }
  | _ => none }
def DigitsFormsWrongFalsely : Prop := digitsFormsRow.holds Tryd.pinned (OpenSpec.ofChange digitsFormsWrong)

/-- 'orthoepylaw10.DigitsNorms': WHATEVER THE INPUT: true; the input reads as it did. -/
def digitsNormsSpec : ChangeSpec := { name := "digitsNorms", fn := fun _ => fun
  | [d1, d2, d3] => { results := [.lit (.bool true)], args := [d1, d2, d3] }
  | _ => none }
def digitsNormsRow : OpenClaim := { program := "ytadbnajodpfpgaadoor", sum := "9b9f907f3f81b62d55848e1ef5b5abaf2221edec6cda520b2fe1f19706272a82", func := "orthoepy/orthoepylaw10.DigitsNorms", spec := "digitsNorms", inPlace := ["internal/bytealg.IndexByteString", "internal/bytealg.IndexString"], named := ["unicode/utf8.first", "unicode/utf8.acceptRanges", "internal/bytealg.MaxLen"], apart := false, laid := [("unicode/utf8.acceptRanges", laid_unicode_utf8_acceptRanges), ("unicode/utf8.first", laid_unicode_utf8_first)] }
def DigitsNormsSaid : Prop := digitsNormsRow.holds Tryd.pinned (OpenSpec.ofChange digitsNormsSpec)

/-- ITS FALSE NEIGHBOUR: 'it returns false'. Refute it at one input. -/
def digitsNormsWrong : ChangeSpec := { name := "digitsNorms", fn := fun _ => fun
  | [d1, d2, d3] => { results := [.lit (.bool false)], args := [d1, d2, d3] }
  | _ => none }
def DigitsNormsWrongFalsely : Prop := digitsNormsRow.holds Tryd.pinned (OpenSpec.ofChange digitsNormsWrong)

/-- 'orthoepylaw10.DigitsOrder': WHATEVER THE INPUT: true; the input reads as it did. -/
def digitsOrderSpec : ChangeSpec := { name := "digitsOrder", fn := fun _ => fun
  | [d1, d2, d3, d4, d5] => { results := [.lit (.bool true)], args := [d1, d2, d3, d4, d5] }
  | _ => none }
def digitsOrderRow : OpenClaim := { program := "ytadbnajodpfpgaadoor", sum := "9b9f907f3f81b62d55848e1ef5b5abaf2221edec6cda520b2fe1f19706272a82", func := "orthoepy/orthoepylaw10.DigitsOrder", spec := "digitsOrder", inPlace := ["internal/bytealg.IndexByteString", "internal/bytealg.IndexString"], recurses := true, named := ["unicode/utf8.first", "unicode/utf8.acceptRanges", "internal/bytealg.MaxLen"], apart := false, laid := [("unicode/utf8.acceptRanges", laid_unicode_utf8_acceptRanges), ("unicode/utf8.first", laid_unicode_utf8_first)] }
def DigitsOrderSaid : Prop := digitsOrderRow.holds Tryd.pinned (OpenSpec.ofChange digitsOrderSpec)

/-- ITS FALSE NEIGHBOUR: 'it returns false'. Refute it at one input. -/
def digitsOrderWrong : ChangeSpec := { name := "digitsOrder", fn := fun _ => fun
  | [d1, d2, d3, d4, d5] => { results := [.lit (.bool false)], args := [d1, d2, d3, d4, d5] }
  | _ => none }
def DigitsOrderWrongFalsely : Prop := digitsOrderRow.holds Tryd.pinned (OpenSpec.ofChange digitsOrderWrong)

/- THE SECOND FORM. 'bulk': how many values and letters a reading holds, each counted each time it is reached (what is shared counts as often as it is met; a slice's spare places count too). A statement '..UptoSaid' is the law's where the arguments, and the package variables that the reading takes, are together of bulk at most 1048576: NARROWER than '..Said'. Prove '..Said' where nothing that the law and all that it calls make is longer than what came in: it says more and counts as full. Else prove '..UptoSaid'. A law counts once. -/
mutual
def uptoBulk {H : Type} : DataW H → Nat
  | .lit (.string bytes) => bytes.length + 1
  | .lit _ => 1
  | .nil => 1
  | .ptr d => uptoBulk d + 1
  | .slice elems spare => uptoBulkAll elems + uptoBulkAll spare + 1
  | .agg parts => uptoBulkAll parts + 1
  | .iface _ d => uptoBulk d + 1
  | .map entries => uptoBulkEntries entries + 1
  | .held _ => 1
def uptoBulkAll {H : Type} : List (DataW H) → Nat
  | [] => 0
  | d :: r => uptoBulk d + uptoBulkAll r
def uptoBulkEntries {H : Type} : List (Lit × DataW H) → Nat
  | [] => 0
  | x :: r => uptoBulkEntry x + uptoBulkEntries r
def uptoBulkEntry {H : Type} : Lit × DataW H → Nat
  | (.string bytes, d) => bytes.length + uptoBulk d + 1
  | (_, d) => uptoBulk d + 1
 end
def uptoSmall : (H : Type) → List (DataW H) → Bool := fun _ ds => decide (uptoBulkAll ds ≤ 1048576)
def OpenSpec.upto (s : _root_.Go.ChangeSpec) : _root_.Go.OpenSpec := { _root_.Go.OpenSpec.ofChange s with cond := some uptoSmall }

/-- 'orthoepylaw10.DigitsAll', WHERE WHAT IT READS IS OF BULK AT MOST 1048576: true; the input reads as it did. -/
def digitsAllUptoRow : OpenClaim := { program := "ytadbnajodpfpgaadoor", sum := "9b9f907f3f81b62d55848e1ef5b5abaf2221edec6cda520b2fe1f19706272a82", func := "orthoepy/orthoepylaw10.DigitsAll", spec := "digitsAll", inPlace := ["internal/bytealg.IndexByteString", "internal/bytealg.IndexString"], recurses := true, named := ["unicode/utf8.first", "unicode/utf8.acceptRanges", "internal/bytealg.MaxLen"], apart := false, laid := [("unicode/utf8.acceptRanges", laid_unicode_utf8_acceptRanges), ("unicode/utf8.first", laid_unicode_utf8_first)], narrowed := true }
def DigitsAllUptoSaid : Prop := digitsAllUptoRow.holds Tryd.pinned (OpenSpec.upto digitsAllSpec)

/-- 'orthoepylaw10.DigitsBack', WHERE WHAT IT READS IS OF BULK AT MOST 1048576: true; the input reads as it did. -/
def digitsBackUptoRow : OpenClaim := { program := "ytadbnajodpfpgaadoor", sum := "9b9f907f3f81b62d55848e1ef5b5abaf2221edec6cda520b2fe1f19706272a82", func := "orthoepy/orthoepylaw10.DigitsBack", spec := "digitsBack", inPlace := ["internal/bytealg.IndexByteString", "internal/bytealg.IndexString"], named := ["unicode/utf8.first", "unicode/utf8.acceptRanges", "internal/bytealg.MaxLen"], apart := false, laid := [("unicode/utf8.acceptRanges", laid_unicode_utf8_acceptRanges), ("unicode/utf8.first", laid_unicode_utf8_first)], narrowed := true }
def DigitsBackUptoSaid : Prop := digitsBackUptoRow.holds Tryd.pinned (OpenSpec.upto digitsBackSpec)

/-- 'orthoepylaw10.DigitsForms', WHERE WHAT IT READS IS OF BULK AT MOST 1048576: true; the input reads as it did. -/
def digitsFormsUptoRow : OpenClaim := { program := "ytadbnajodpfpgaadoor", sum := "9b9f907f3f81b62d55848e1ef5b5abaf2221edec6cda520b2fe1f19706272a82", func := "orthoepy/orthoepylaw10.DigitsForms", spec := "digitsForms", inPlace := ["internal/bytealg.IndexByteString", "internal/bytealg.IndexString"], recurses := true, named := ["unicode/utf8.first", "unicode/utf8.acceptRanges", "internal/bytealg.MaxLen"], apart := false, laid := [("unicode/utf8.acceptRanges", laid_unicode_utf8_acceptRanges), ("unicode/utf8.first", laid_unicode_utf8_first)], narrowed := true }
def DigitsFormsUptoSaid : Prop := digitsFormsUptoRow.holds Tryd.pinned (OpenSpec.upto digitsFormsSpec)

/-- 'orthoepylaw10.DigitsNorms', WHERE WHAT IT READS IS OF BULK AT MOST 1048576: true; the input reads as it did. -/
def digitsNormsUptoRow : OpenClaim := { program := "ytadbnajodpfpgaadoor", sum := "9b9f907f3f81b62d55848e1ef5b5abaf2221edec6cda520b2fe1f19706272a82", func := "orthoepy/orthoepylaw10.DigitsNorms", spec := "digitsNorms", inPlace := ["internal/bytealg.IndexByteString", "internal/bytealg.IndexString"], named := ["unicode/utf8.first", "unicode/utf8.acceptRanges", "internal/bytealg.MaxLen"], apart := false, laid := [("unicode/utf8.acceptRanges", laid_unicode_utf8_acceptRanges), ("unicode/utf8.first", laid_unicode_utf8_first)], narrowed := true }
def DigitsNormsUptoSaid : Prop := digitsNormsUptoRow.holds Tryd.pinned (OpenSpec.upto digitsNormsSpec)

/-- 'orthoepylaw10.DigitsOrder', WHERE WHAT IT READS IS OF BULK AT MOST 1048576: true; the input reads as it did. -/
def digitsOrderUptoRow : OpenClaim := { program := "ytadbnajodpfpgaadoor", sum := "9b9f907f3f81b62d55848e1ef5b5abaf2221edec6cda520b2fe1f19706272a82", func := "orthoepy/orthoepylaw10.DigitsOrder", spec := "digitsOrder", inPlace := ["internal/bytealg.IndexByteString", "internal/bytealg.IndexString"], recurses := true, named := ["unicode/utf8.first", "unicode/utf8.acceptRanges", "internal/bytealg.MaxLen"], apart := false, laid := [("unicode/utf8.acceptRanges", laid_unicode_utf8_acceptRanges), ("unicode/utf8.first", laid_unicode_utf8_first)], narrowed := true }
def DigitsOrderUptoSaid : Prop := digitsOrderUptoRow.holds Tryd.pinned (OpenSpec.upto digitsOrderSpec)

end Rows
end Go.Proofs.YtadbnajodpfpgaaDoor
