/-
  Helper: the library's contracts for strings.Builder.WriteRune and utf8.RuneCountInString at this program's numbers: one application each.
-/
import Derived.Shelf.Strings.BuilderRune
import Derived.Shelf.Utf8.RuneCount
import Derived.Test.YtpebgggdpgppdaaDoorShelf
namespace Go.Proofs.YtpebgggdpgppdaaDoor
open Go.Shelf
theorem runeCount_any (s : ByteArray) (w : World) (hs : s.size < 9223372036854775807) :
    Calls Tryd.prog 18 #[.string s] w fun e w' => e = .returned (.int .i64 (Lib.runeCount s)) ∧ ∃ pos, w' = w.iter s pos :=
  Any.utf8_RuneCountInString Tryd.lays195 s w hs
end Go.Proofs.YtpebgggdpgppdaaDoor
