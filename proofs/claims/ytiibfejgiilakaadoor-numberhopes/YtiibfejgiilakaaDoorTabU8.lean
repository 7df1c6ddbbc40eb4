/- What the listed tables of package unicode/utf8 hold, as blocks of memory: for the world in which the row's list is met. -/
import Derived.WalkKit
import Derived.ProofKit
import GoSem.PinnedTables
namespace Go.Proofs.YtiibfejgiilakaaDoor
open Go
def u8Row (l : List Nat) : Array Value := (l.map fun (k : Nat) => Value.int .u8 (Int.ofNat k)).toArray
def firstArr : Array Value := u8Row Pinned.utf8FirstZ
def rangeArr : Array Value := u8Row ([128, 191, 160, 191, 128, 159, 144, 191, 128, 143] ++ List.replicate 22 0)
end Go.Proofs.YtiibfejgiilakaaDoor
