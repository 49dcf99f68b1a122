/-
  Helper: the library's contracts for strings.Builder.WriteRune and utf8.RuneCountInString at this program's numbers: one application each.
-/
import Derived.Shelf.Strings.BuilderRune
import Derived.Shelf.Utf8.RuneCount
import Derived.Test.YtmoljdgalonlpaaDoorShelf
namespace Go.Proofs.YtmoljdgalonlpaaDoor
open Go.Shelf
def lays168_ren : Go.Shelf.Ren := ⟨fun | 168 => 43 | 240 => 59 | 242 => 60 | 276 => 69 | 278 => 70 | n => n, fun | 0 => 0 | 3 => 3 | 4 => 4 | 5 => 5 | 9 => 9 | 20 => 20 | 21 => 21 | 37 => 72 | 46 => 94 | 51 => 105 | 70 => 71 | 72 => 74 | 75 => 76 | 164 => 103 | 80 => 79 | n => n, fun | n => n⟩
theorem lays168 : Go.Proofs.Lays.n168 Tryd.prog lays168_ren where
  mixed := by kernel_rfl
  f168 := Tryd.func43.trans (congrArg some (by kernel_rfl))
  f240 := Tryd.func59.trans (congrArg some (by kernel_rfl))
  f242 := Tryd.func60.trans (congrArg some (by kernel_rfl))
  f276 := Tryd.func69.trans (congrArg some (by kernel_rfl))
  f278 := Tryd.func70.trans (congrArg some (by kernel_rfl))
  t0 := Tryd.underlying0
  a0 := Tryd.isAgg0
  z0 := Tryd.sizeOf0
  v0 := Tryd.zeroValue0
  t3 := Tryd.underlying3
  a3 := Tryd.isAgg3
  z3 := Tryd.sizeOf3
  v3 := Tryd.zeroValue3
  t4 := Tryd.underlying4
  a4 := Tryd.isAgg4
  z4 := Tryd.sizeOf4
  v4 := Tryd.zeroValue4
  t5 := Tryd.underlying5
  a5 := Tryd.isAgg5
  z5 := Tryd.sizeOf5
  v5 := Tryd.zeroValue5
  t9 := Tryd.underlying9
  a9 := Tryd.isAgg9
  z9 := Tryd.sizeOf9
  v9 := Tryd.zeroValue9
  t20 := Tryd.underlying20
  a20 := Tryd.isAgg20
  z20 := Tryd.sizeOf20
  v20 := Tryd.zeroValue20
  t21 := Tryd.underlying21
  a21 := Tryd.isAgg21
  z21 := Tryd.sizeOf21
  v21 := Tryd.zeroValue21
  t37 := Tryd.underlying72
  a37 := Tryd.isAgg72
  z37 := Tryd.sizeOf72
  v37 := Tryd.zeroValue72
  t46 := Tryd.underlying94
  a46 := Tryd.isAgg94
  z46 := Tryd.sizeOf94
  v46 := Tryd.zeroValue94
  t51 := Tryd.underlying105
  a51 := Tryd.isAgg105
  z51 := Tryd.sizeOf105
  v51 := Tryd.zeroValue105
  t70 := Tryd.underlying71
  a70 := Tryd.isAgg71
  z70 := Tryd.sizeOf71
  v70 := Tryd.zeroValue71
  t72 := Tryd.underlying74
  a72 := Tryd.isAgg74
  z72 := Tryd.sizeOf74
  v72 := Tryd.zeroValue74
  t75 := Tryd.underlying76
  a75 := Tryd.isAgg76
  z75 := Tryd.sizeOf76
  v75 := Tryd.zeroValue76
  t164 := Tryd.underlying103
  a164 := Tryd.isAgg103
  z164 := Tryd.sizeOf103
  v164 := Tryd.zeroValue103
theorem builderExtra168 : Builder.Extra Tryd.prog lays168_ren where
  sizeBuilder := by kernel_rfl
  liesBuilder := by kernel_rfl
  t5 := Tryd.underlying5
  a5 := Tryd.isAgg5
  z5 := Tryd.sizeOf5
  v5 := Tryd.zeroValue5
  infoByte := by kernel_rfl
  cellsByte := by kernel_rfl
  sizeByte := by kernel_rfl
  neB5 := by decide
open Go.RowKit in
theorem writeRune_k (B b : Nat) (bs : List Value) (r : Int) (hr0 : -2147483648 ≤ r) (hr1 : r ≤ 2147483647) (w : World) (h : Lib.IsBuilderF 74 5 B b bs w) (hlen : bs.length + 4 ≤ 140737488355328) (hBw : B ≤ w.heap.size) :
    Calls Tryd.prog 43 #[.pointer (some ⟨b, 0, none⟩), .int .i32 r] w fun e w' => e = .returned (.tuple #[.int .i64 (Lib.runeCells r).length, .nilIface]) ∧ (Lib.BuilderAtF 74 5 B b (.pointer (some ⟨b, 0, none⟩)) (bs ++ Lib.runeCells r) w' ∧ Below B w w' ∧ Lib.OthersKept 5 (some b) w w') :=
  Any.Builder_WriteRune_k lays168 builderExtra168 B b bs r hr0 hr1 w h hlen hBw
open Go.RowKit in
theorem runeCount_any (s : ByteArray) (w : World) (hs : s.size < 9223372036854775807) :
    Calls Tryd.prog 41 #[.string s] w fun e w' => e = .returned (.int .i64 (Lib.runeCount s)) ∧ ∃ pos, w' = w.iter s pos :=
  Any.utf8_RuneCountInString Tryd.lays195 s w hs
end Go.Proofs.YtmoljdgalonlpaaDoor
