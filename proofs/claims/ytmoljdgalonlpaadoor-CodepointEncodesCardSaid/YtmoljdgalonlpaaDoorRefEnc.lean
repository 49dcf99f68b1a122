/-
  Helper: the walks of the reference's Scalar and Encode.
-/
import Derived.Test.YtmoljdgalonlpaaDoorCpEnc
import Derived.Test.YtmoljdgalonlpaaDoorCpFeed2
namespace Go.Proofs.YtmoljdgalonlpaaDoor
open Go.RowKit
set_option linter.unusedVariables false

set_option maxHeartbeats 400000 in
theorem scalar_any (r : Int) (w : World) : Calls Tryd.prog 21 #[.int .i32 r] w fun e w' => e = .returned (.bool (Lib.validRune r)) ∧ Below w.heap.size w w' := by
  by_cases h : Lib.validRune r = true
  · have hv := of_decide_eq_true h
    rw [h]
    have h0 : (0 : Int) ≤ r := by omega
    have h1 : r ≤ 1114111 := by omega
    by_cases g : r < 55296
    · clear h hv
      go_enter Tryd.func21, Tryd.ntmps21
      go_wp2
      go_ret
      exact ⟨rfl, Below.refl _ _⟩
    · have h2 : (57343 : Int) < r := by omega
      clear h hv
      go_enter Tryd.func21, Tryd.ntmps21
      go_wp2
      go_ret
      exact ⟨rfl, Below.refl _ _⟩
  · have hf : Lib.validRune r = false := by simpa using h
    have hv := of_decide_eq_false hf
    rw [hf]
    by_cases g0 : (0 : Int) ≤ r
    · by_cases g1 : r ≤ 1114111
      · have h2 : ¬ r < 55296 := by omega
        have h3 : ¬ (57343 : Int) < r := by omega
        clear h hv hf
        go_enter Tryd.func21, Tryd.ntmps21
        go_wp2
        go_ret
        exact ⟨rfl, Below.refl _ _⟩
      · clear h hv hf
        go_enter Tryd.func21, Tryd.ntmps21
        go_wp2
        go_ret
        exact ⟨rfl, Below.refl _ _⟩
    · clear h hv hf
      go_enter Tryd.func21, Tryd.ntmps21
      go_wp2
      go_ret
      exact ⟨rfl, Below.refl _ _⟩

theorem conv_cells (w : World) (l : List UInt8) (n cap : Nat) (vs : Array Value) (hn : l.length = n) (hv : vs.toList = Lib.byteCells l) :
    (convert 72 9 (.slice (some ⟨w.heap.size, 0, none⟩) n cap)).run Tryd.prog (w.alloc (.cells vs 5)) = .ok (.string ⟨l.toArray⟩) (w.alloc (.cells vs 5)) := by
  subst hn
  refine run_convert_bytes_back (w.alloc (.cells vs 5)) 72 9 5 ⟨w.heap.size, 0, none⟩ cap l Tryd.underlying72 Tryd.underlying5 Tryd.underlying9 (fun j hj => ?_)
  have e : (⟨w.heap.size, 0, none⟩ : Addr).add j = ⟨w.heap.size, j, none⟩ := by cases j <;> simp [Addr.add]
  rw [e, World.cell?_alloc_at _ _ _ _ rfl]
  show vs[j]? = _
  rw [← Array.getElem?_toList, hv]
  unfold Lib.byteCells
  rw [List.getElem?_map, List.getElem?_eq_getElem hj]; rfl
theorem enc_len (r : Int) : (Lib.encodeRune r).length = (Lib.encodeRuneZ r).length := by unfold Lib.encodeRune; rw [List.length_map]
theorem conv_enc (w : World) (r : Int) (zs : List Int) (n cap : Nat) (vs : Array Value) (hz : Lib.encodeRuneZ r = zs) (hn : zs.length = n) (hv : vs.toList = zs.map fun x => Value.int .u8 x) :
    (convert 72 9 (.slice (some ⟨w.heap.size, 0, none⟩) n cap)).run Tryd.prog (w.alloc (.cells vs 5)) = .ok (.string ⟨(Lib.encodeRune r).toArray⟩) (w.alloc (.cells vs 5)) :=
  conv_cells w (Lib.encodeRune r) n cap vs (by rw [enc_len, hz, hn]) (by rw [Lib.byteCells_encodeRune, hv]; unfold Lib.runeCells; rw [hz])

set_option maxRecDepth 100000 in
set_option maxHeartbeats 400000 in
theorem refEncode_1 (r : Int) (w : World) (h0 : 0 ≤ r) (h1 : r < 128) : Calls Tryd.prog 22 #[.int .i32 r] w fun e w' => e = .returned (.string ⟨(Lib.encodeRune r).toArray⟩) ∧ Below w.heap.size w w' := by
  have hcv := conv_enc w r [r] 1 1 #[.int .u8 r] (Lib.encodeRuneZ_one h0 (by omega)) rfl rfl
  generalize (⟨(Lib.encodeRune r).toArray⟩ : ByteArray) = t at *
  go_enter Tryd.func22, Tryd.ntmps22
  go_wp2_with fail
  go_ret
  exact ⟨rfl, (Below.refl _ w).alloc (Nat.le_refl _) _⟩
set_option maxRecDepth 100000 in
set_option maxHeartbeats 400000 in
theorem refEncode_2 (r : Int) (w : World) (h0 : 128 ≤ r) (h1 : r < 2048) : Calls Tryd.prog 22 #[.int .i32 r] w fun e w' => e = .returned (.string ⟨(Lib.encodeRune r).toArray⟩) ∧ Below w.heap.size w w' := by
  have hcv := conv_enc w r [192 + r / 64, 128 + r % 64] 2 2 #[.int .u8 (192 + r / 64), .int .u8 (128 + r % 64)] (Lib.encodeRuneZ_two h0 (by omega)) rfl rfl
  generalize (⟨(Lib.encodeRune r).toArray⟩ : ByteArray) = t at *
  go_enter Tryd.func22, Tryd.ntmps22
  go_wp2_with fail
  go_ret
  exact ⟨rfl, (Below.refl _ w).alloc (Nat.le_refl _) _⟩
set_option maxRecDepth 100000 in
set_option maxHeartbeats 400000 in
theorem refEncode_3 (r : Int) (w : World) (h0 : 2048 ≤ r) (h1 : r < 65536) (hs : r < 55296 ∨ 57343 < r) : Calls Tryd.prog 22 #[.int .i32 r] w fun e w' => e = .returned (.string ⟨(Lib.encodeRune r).toArray⟩) ∧ Below w.heap.size w w' := by
  have hcv := conv_enc w r [224 + r / 4096, 128 + r / 64 % 64, 128 + r % 64] 3 3 #[.int .u8 (224 + r / 4096), .int .u8 (128 + r / 64 % 64), .int .u8 (128 + r % 64)] (Lib.encodeRuneZ_three (by omega)) rfl rfl
  generalize (⟨(Lib.encodeRune r).toArray⟩ : ByteArray) = t at *
  clear hs
  go_enter Tryd.func22, Tryd.ntmps22
  go_wp2_with fail
  go_ret
  exact ⟨rfl, (Below.refl _ w).alloc (Nat.le_refl _) _⟩
set_option maxRecDepth 100000 in
set_option maxHeartbeats 400000 in
theorem refEncode_4 (r : Int) (w : World) (h0 : 65536 ≤ r) (h1 : r ≤ 1114111) : Calls Tryd.prog 22 #[.int .i32 r] w fun e w' => e = .returned (.string ⟨(Lib.encodeRune r).toArray⟩) ∧ Below w.heap.size w w' := by
  have hcv := conv_enc w r [240 + r / 262144, 128 + r / 4096 % 64, 128 + r / 64 % 64, 128 + r % 64] 4 4 #[.int .u8 (240 + r / 262144), .int .u8 (128 + r / 4096 % 64), .int .u8 (128 + r / 64 % 64), .int .u8 (128 + r % 64)] (Lib.encodeRuneZ_four h0 h1) rfl rfl
  generalize (⟨(Lib.encodeRune r).toArray⟩ : ByteArray) = t at *
  go_enter Tryd.func22, Tryd.ntmps22
  go_wp2_with fail
  go_ret
  exact ⟨rfl, (Below.refl _ w).alloc (Nat.le_refl _) _⟩
theorem refEncode_any (r : Int) (w : World) (h : Lib.validRune r = true) : Calls Tryd.prog 22 #[.int .i32 r] w fun e w' => e = .returned (.string ⟨(Lib.encodeRune r).toArray⟩) ∧ Below w.heap.size w w' := by
  have hv := of_decide_eq_true h
  by_cases g1 : r < 128
  · exact refEncode_1 r w (by omega) g1
  · by_cases g2 : r < 2048
    · exact refEncode_2 r w (by omega) g2
    · by_cases g3 : r < 65536
      · exact refEncode_3 r w (by omega) g3 (by omega)
      · exact refEncode_4 r w (by omega) (by omega)
end Go.Proofs.YtmoljdgalonlpaaDoor
