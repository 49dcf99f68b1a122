/-
  Helper: the walks of decimal.Add and decimal.Valid.
-/
import Derived.Test.YtpankmaljafnnaaGreatDoorDcAdd
namespace Go.Proofs.YtpankmaljafnnaaGreatDoor
open Go.RowKit
set_option linter.unusedVariables false
set_option linter.unusedSimpArgs false

set_option maxRecDepth 100000 in
set_option maxHeartbeats 2000000 in
theorem Add_of (s t : ByteArray) (ok1 ok2 : Bool) (z1 x1 z2 x2 : Int) (H1 : Hid (∀ w, Tabs w → Calls Tryz.prog 43 #[.string s] w (RdG ok1 z1 x1 w))) (H2 : Hid (∀ w, Tabs w → Calls Tryz.prog 43 #[.string t] w (RdG ok2 z2 x2 w))) (C1 : Hid (ok1 = true → Cn z1 x1)) (C2 : Hid (ok2 = true → Cn z2 x2)) (w : World) (hT0 : Tabs w) :
    Calls Tryz.prog 25 #[.string s, .string t] w (TxP (if ok1 && ok2 then outD (addZ z1 x1 z2 x2) (min x1 x2) else (⟨#[]⟩, 3)) w) := by
  have HC := Lib.hid (calcAdd_of s t ok1 ok2 z1 x1 z2 x2 H1 H2 C1 C2 w hT0)
  generalize (if ok1 && ok2 then outD (addZ z1 x1 z2 x2) (min x1 x2) else (⟨#[]⟩, 3)) = r at *
  have HF : Hid (∀ w', Below w.heap.size w w' → TxP r w (Ending.returned (.tuple #[.string r.1, .int .i64 r.2])) w') := fun w' g => ⟨rfl, g⟩
  clear H1 H2 C1 C2 hT0
  generalize hPo : TxP r w = Po at *
  rw [← hPo] at HC
  clear hPo
  unfold TxP at HC
  go_enter Tryz.func25, Tryz.ntmps25
  go_wp2_with fail
  refine HC.out.mono ?_
  rintro en w4 ⟨rfl, q7⟩
  have hfin := Lib.hid (HF.out w4 q7)
  clear HF q7 HC
  go_wp2
  exact hfin.out
set_option maxRecDepth 100000 in
set_option maxHeartbeats 2000000 in
theorem Valid_of (s : ByteArray) (ok1 : Bool) (z1 x1 : Int) (H1 : Hid (∀ w, Tabs w → Calls Tryz.prog 43 #[.string s] w (RdG ok1 z1 x1 w))) (w : World) (hT0 : Tabs w) :
    Calls Tryz.prog 18 #[.string s] w (fun en w' => en = .returned (.bool ok1) ∧ Below w.heap.size w w') := by
  have HC := Lib.hid (H1.out w hT0)
  clear H1 hT0
  unfold RdG at HC
  go_enter Tryz.func18, Tryz.ntmps18
  go_wp2_with fail
  refine HC.out.mono ?_
  rintro en w4 ⟨b, a, n, k, e, rfl, _, q7⟩
  have q8 := Lib.hid q7
  clear q7 HC
  go_wp2
  go_ret
  exact ⟨rfl, q8.out.alloc q8.out.size _⟩
end Go.Proofs.YtpankmaljafnnaaGreatDoor
