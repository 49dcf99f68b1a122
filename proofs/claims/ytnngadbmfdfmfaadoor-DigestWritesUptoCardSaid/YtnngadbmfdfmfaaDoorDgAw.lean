/-
  Helper: the walk of awake; slices of strings made on the spot.
-/
import Derived.Test.YtnngadbmfdfmfaaDoorDgSums
import Derived.Test.YtnngadbmfdfmfaaDoorDgRefS
import Derived.Test.YtnngadbmfdfmfaaDoorDgEval
import Derived.Lib.IndexBytes
namespace Go.Proofs.YtnngadbmfdfmfaaDoor
open Go.RowKit
set_option linter.unusedVariables false

def BoolW (b : Bool) (w : World) (e : Ending) (w' : World) : Prop := e = .returned (.bool b) ∧ Below w.heap.size w w'
theorem rs_one (w : World) (s : ByteArray) (t : Nat) : Rs (w.alloc (.cells #[.string s] t)) (some ⟨w.heap.size, 0, none⟩) [s] := by
  refine .inr ⟨w.heap.size, 0, rfl, by simp, fun i hi => ?_⟩
  have : i = 0 := by simp at hi; omega
  subst this
  rw [World.cell?_alloc_at _ _ _ _ rfl]; rfl
theorem rs_two (w : World) (s r : ByteArray) (t : Nat) : Rs (w.alloc (.cells #[.string s, .string r] t)) (some ⟨w.heap.size, 0, none⟩) [s, r] := by
  refine .inr ⟨w.heap.size, 0, rfl, by simp, fun i hi => ?_⟩
  have : i = 0 ∨ i = 1 := by simp at hi; omega
  rcases this with rfl | rfl <;> (rw [World.cell?_alloc_at _ _ _ _ rfl]; rfl)
def mkS (l : List UInt8) : ByteArray := ⟨l.toArray⟩
/-- the sum of one string -/
theorem sum_one (s : ByteArray) (w w0 : World) (hT : Tabs w0) (hb : Below w0.heap.size w0 w) (hs : s.size ≤ 10000) :
    Calls Tryd.prog 10 #[.slice (some ⟨w.heap.size, 0, none⟩) 1 1] (w.alloc (.cells #[.string s] 9)) fun e w' => e = .returned (.string (mkS (sumF s.data.toList))) ∧ Below w0.heap.size w0 w' := by
  have hb1 : Below w0.heap.size w0 (w.alloc (.cells #[.string s] 9)) := hb.alloc hb.size _
  have h := sum_any [s] (some ⟨w.heap.size, 0, none⟩) 1 1 rfl (by omega) _ (rs_one w s _) (hT.go hb1) (by unfold catS; simp; omega)
  rw [show catS [s] = s.data.toList by unfold catS; simp] at h
  exact h.mono fun e w' h => ⟨h.1, hb1.trans (h.2.mono hb1.size)⟩
theorem sum_two (s r : ByteArray) (w w0 : World) (hT : Tabs w0) (hb : Below w0.heap.size w0 w) (hs : s.size + r.size ≤ 10000) :
    Calls Tryd.prog 10 #[.slice (some ⟨w.heap.size, 0, none⟩) 2 2] (w.alloc (.cells #[.string s, .string r] 9)) fun e w' => e = .returned (.string (mkS (sumF (s.data.toList ++ r.data.toList)))) ∧ Below w0.heap.size w0 w' := by
  have hb1 : Below w0.heap.size w0 (w.alloc (.cells #[.string s, .string r] 9)) := hb.alloc hb.size _
  have h := sum_any [s, r] (some ⟨w.heap.size, 0, none⟩) 2 2 rfl (by omega) _ (rs_two w s r _) (hT.go hb1) (by unfold catS; simp; omega)
  rw [show catS [s, r] = s.data.toList ++ r.data.toList by unfold catS; simp] at h
  exact h.mono fun e w' h => ⟨h.1, hb1.trans (h.2.mono hb1.size)⟩
theorem sum_none (w w0 : World) (hT : Tabs w0) (hb : Below w0.heap.size w0 w) :
    Calls Tryd.prog 10 #[.slice none 0 0] w fun e w' => e = .returned (.string (mkS (sumF []))) ∧ Below w0.heap.size w0 w' := by
  have h := sum_any [] none 0 0 rfl (by omega) w (.inl rfl) (hT.go hb) (by unfold catS; simp)
  exact h.mono fun e w' h => ⟨h.1, hb.trans (h.2.mono hb.size)⟩
set_option maxRecDepth 100000 in
set_option maxHeartbeats 4000000 in
theorem awake_any (w : World) (hT : Tabs w) : Calls Tryd.prog 9 #[] w (BoolW true w) := by
  have hb0 := Below.refl w.heap.size w
  have H1 := sum_one ⟨#[97, 98, 99]⟩ w w hT hb0 (by decide)
  have e1 : mkS (sumF (⟨#[97, 98, 99]⟩ : ByteArray).data.toList) = ⟨#[98, 97, 55, 56, 49, 54, 98, 102, 56, 102, 48, 49, 99, 102, 101, 97, 52, 49, 52, 49, 52, 48, 100, 101, 53, 100, 97, 101, 50, 50, 50, 51, 98, 48, 48, 51, 54, 49, 97, 51, 57, 54, 49, 55, 55, 97, 57, 99, 98, 52, 49, 48, 102, 102, 54, 49, 102, 50, 48, 48, 49, 53, 97, 100]⟩ := by
    unfold mkS
    rw [show (⟨#[97, 98, 99]⟩ : ByteArray).data.toList = La from rfl, suma]
  rw [e1] at H1
  have H2 := Lib.hid (fun W (hW : Below w.heap.size w W) => sum_none W w hT hW)
  have hp : Hid (Lib.hasPrefix (mkS (sumF [])).data.toList (⟨#[101, 51, 98, 48, 99, 52, 52, 50]⟩ : ByteArray).data.toList = true) := by
    show _ = _
    unfold mkS
    rw [show ([] : List UInt8) = Le from rfl, sume]
    decide +kernel
  have H1h := Lib.hid H1
  clear H1 e1 hT
  generalize mkS (sumF []) = r at *
  go_enter Tryd.func9, Tryd.ntmps9
  go_wp2_with fail
  refine H1h.out.mono ?_
  rintro e w1 ⟨rfl, hb1⟩
  have hb1h := Lib.hid hb1
  clear hb1
  go_wp2_with fail
  refine (H2.out _ hb1h.out).mono ?_
  rintro e w2 ⟨rfl, hb2⟩
  have hb2h := Lib.hid hb2
  clear hb2
  go_wp2_with fail
  refine (Tryd.strings_HasPrefix _ _ _).mono ?_
  rintro e w3 ⟨rfl, rfl⟩
  rw [hp.out]
  go_wp2
  go_ret
  exact ⟨rfl, hb2h.out⟩
end Go.Proofs.YtnngadbmfdfmfaaDoor
