/-
  Helper: the walks of number.plainSize and number.scientific.
-/
import Derived.Test.YtpankmaljafnnaaGreatDoorDcParts
namespace Go.Proofs.YtpankmaljafnnaaGreatDoor
open Go.RowKit
set_option linter.unusedVariables false
set_option linter.unusedSimpArgs false

/-- how many digits the plain form has -/
def plS (n : Nat) (e : Int) : Int := if 0 ≤ e then (n : Int) + e + 1 else max (n : Int) (1 - e)
set_option maxRecDepth 100000 in
set_option maxHeartbeats 1000000 in
theorem plainSize_any (b : Bool) (n : Nat) (e : Int) (a : Option Addr) (cap : Nat) (hn : n ≤ 100000) (h1 : -10000 ≤ e) (h2 : e ≤ 10000) (w : World) :
    Calls Tryz.prog 47 #[.agg (nvl b a n cap e).toArray] w (fun en w' => en = .returned (.int .i64 (plS n e)) ∧ Below w.heap.size w w') := by
  obtain ⟨wb, hwb⟩ : ∃ wb, w.alloc (.cells (nvl b a n cap e).toArray 61) = wb := ⟨_, rfl⟩
  obtain ⟨N, hN⟩ : ∃ N, w.heap.size = N := ⟨_, rfl⟩
  have hB : Hid (Blk wb N 61 (nvl b a n cap e)) := by rw [← hwb, ← hN]; exact Blk.new w _ _
  have hb : Hid (Below w.heap.size w wb) := by rw [← hwb]; exact (Below.refl _ w).alloc (Nat.le_refl _) _
  have c1 := hB.out.cell 1 (.slice a n cap) rfl
  have c2 := hB.out.cell 2 (.int .i64 e) rfl
  have HF : Hid (∀ r, plS n e = r → (fun (en : Ending) (w' : World) => en = .returned (.int .i64 (plS n e)) ∧ Below w.heap.size w w') (Ending.returned (.int .i64 r)) wb) := fun r h => ⟨by rw [h], hb.out⟩
  generalize (fun (en : Ending) (w' : World) => en = .returned (.int .i64 (plS n e)) ∧ Below w.heap.size w w') = Po at *
  unfold plS at HF
  clear hB hb
  by_cases h0 : 0 ≤ e
  · have hfin := Lib.hid (HF.out _ (if_pos h0))
    clear HF
    go_enter Tryz.func47, Tryz.ntmps47
    go_wp2
    exact hfin.out
  · have hfin := Lib.hid (HF.out _ (if_neg h0))
    clear HF
    go_enter Tryz.func47, Tryz.ntmps47
    go_wp2
    exact hfin.out
/-- the scientific form without a sign -/
def sciT (l : List UInt8) : ByteArray := if 1 < l.length then mkB (l.take 1) ++ ((⟨#[46]⟩ : ByteArray) ++ mkB (l.drop 1)) else mkB (l.take 1)
def sciB (l : List UInt8) (e : Int) : ByteArray := sciT l ++ ⟨#[101]⟩ ++ mkB (T (e + (l.length : Int) - 1))
theorem mkB_T_small (x : Int) (h1 : -30000 ≤ x) (h2 : x ≤ 30000) : (mkB (T x)).size ≤ 100 := by
  have h3 := T_len x
  have h4 : (body 10 x.natAbs).length ≤ 5 := body_len _ _ ((E_len_le 10 _ 5 (by omega)).2 (by omega)) (by omega)
  rw [mkB_size]; omega
set_option maxRecDepth 100000 in
set_option maxHeartbeats 2000000 in
theorem sci_any (b : Bool) (l : List UInt8) (e : Int) (a : Option Addr) (cap : Nat) (hl0 : 1 ≤ l.length) (hl : l.length ≤ 1000) (hcap : l.length ≤ cap) (h1 : -10000 ≤ e) (h2 : e ≤ 10000) (w : World) (hr : Rb w a l) (hT : Tabs w) :
    Calls Tryz.prog 49 #[.agg (nvl b a l.length cap e).toArray] w (fun en w' => en = .returned (.string (sciB l e)) ∧ Below w.heap.size w w') := by
  obtain ⟨wb, hwb⟩ : ∃ wb, w.alloc (.cells (nvl b a l.length cap e).toArray 61) = wb := ⟨_, rfl⟩
  obtain ⟨N, hN⟩ : ∃ N, w.heap.size = N := ⟨_, rfl⟩
  have hB : Hid (Blk wb N 61 (nvl b a l.length cap e)) := by rw [← hwb, ← hN]; exact Blk.new w _ _
  have hbel : Below w.heap.size w wb := by rw [← hwb]; exact (Below.refl _ w).alloc (Nat.le_refl _) _
  have hb : Hid (Below w.heap.size w wb) := hbel
  have hrb : Rb wb a l := hr.go hbel
  have hTb : Hid (Tabs wb) := hT.go hbel
  obtain ⟨gb, off, rfl, _, _⟩ := hrb.at 0 (by omega)
  have hrbh := Lib.hid hrb
  have HX : Hid (∀ W, Below wb.heap.size wb W → W.cell? ⟨N, 0, none⟩ = some (.bool b) ∧ W.cell? ⟨N, 1, none⟩ = some (.slice (some ⟨gb, off, none⟩) l.length cap) ∧ W.cell? ⟨N, 2, none⟩ = some (.int .i64 e)) := fun W h => by
    have := hB.out.go h hB.out.lt
    exact ⟨this.cell 0 _ rfl, this.cell 1 _ rfl, this.cell 2 _ rfl⟩
  have hv1 : (convert 59 9 (.slice (some ⟨gb, off, none⟩) 1 cap)).run Tryz.prog wb = .ok (.string (mkB (l.take 1))) wb := by
    have := conv_str (hrb.take 1) cap (List.length_pos_iff.1 (by rw [List.length_take]; omega))
    rw [List.length_take, Nat.min_eq_left hl0] at this
    exact this
  have hv2 : 1 < l.length → (convert 59 9 (.slice (some ⟨gb, off + 1, none⟩) (l.length - 1) (cap - 1))).run Tryz.prog wb = .ok (.string (mkB (l.drop 1))) wb := fun h => by
    have := conv_str (hrb.dropK 1) (cap - 1) (List.length_pos_iff.1 (by rw [List.length_drop]; omega))
    rw [List.length_drop] at this
    exact this
  have HIt : Hid (∀ W, Below wb.heap.size wb W → Calls Tryz.prog 67 #[.int .i64 (e + (l.length : Int) - 1)] W fun en w' => en = .returned (.string (mkB (T (e + (l.length : Int) - 1)))) ∧ Below W.heap.size W w') := fun W hW => itoa_any (e + (l.length : Int) - 1) (by omega) (by omega) W (hTb.out.go hW)
  have hs2 := mkB_T_small (e + (l.length : Int) - 1) (by omega) (by omega)
  have HF : Hid (∀ t w', sciT l = t → Below wb.heap.size wb w' → (fun (en : Ending) (w' : World) => en = .returned (.string (sciB l e)) ∧ Below w.heap.size w w') (Ending.returned (.string (t ++ ⟨#[101]⟩ ++ mkB (T (e + (l.length : Int) - 1))))) w') := fun t w' h h2 => ⟨by rw [← h]; rfl, hb.out.trans (h2.mono hb.out.size)⟩
  generalize (fun (en : Ending) (w' : World) => en = .returned (.string (sciB l e)) ∧ Below w.heap.size w w') = Po at *
  have hz1 : (mkB (l.take 1)).size = 1 := by rw [mkB_size, List.length_take]; omega
  have hz2 : (mkB (l.drop 1)).size = l.length - 1 := by rw [mkB_size, List.length_drop]
  unfold sciT at HF
  generalize mkB (l.take 1) = A at *
  generalize mkB (l.drop 1) = D at *
  generalize l.length = n at *
  have hw1 : IntKind.i64.wrap (e + (n : Int)) = e + (n : Int) := wrapI _ (by omega) (by omega)
  have hw2 : IntKind.i64.wrap (e + (n : Int) - 1) = e + (n : Int) - 1 := wrapI _ (by omega) (by omega)
  have hbd : Hid (Below wb.heap.size wb wb.drew) := (Below.refl _ wb).drew
  obtain ⟨c0, c1, c2⟩ := HX.out wb (Below.refl _ wb)
  generalize hss : mkB (T (e + (n : Int) - 1)) = s2 at *
  clear hss hrb hr hbel hB hTb hrbh hT
  by_cases h1l : 1 < n
  · have hv3 := hv2 h1l
    rw [if_pos h1l] at HF
    have q1 : (1 : Int) < (n : Int) := by omega
    have l0 : (9223372036854775807 < 1 + D.size) = False := eq_false (by omega)
    have l1 : (9223372036854775807 < A.size + (1 + D.size)) = False := eq_false (by omega)
    have l2 : (9223372036854775807 < A.size + (1 + D.size) + 1) = False := eq_false (by omega)
    have l3 : (9223372036854775807 < A.size + (1 + D.size) + 1 + s2.size) = False := eq_false (by omega)
    clear hv2
    go_enter Tryz.func49, Tryz.ntmps49
    go_wp2_with fail
    refine (HIt.out wb (Below.refl _ wb)).mono ?_
    rintro en w3 ⟨rfl, q3⟩
    have hfin := Lib.hid (HF.out _ w3 rfl q3)
    clear HF HIt q3 HX c0 c1 c2 hwb
    go_wp2
    exact hfin.out
  · have hv3 := hv2
    rw [if_neg h1l] at HF
    have q1 : ¬ (1 : Int) < (n : Int) := by omega
    have l2 : (9223372036854775807 < A.size + 1) = False := eq_false (by omega)
    have l3 : (9223372036854775807 < A.size + 1 + s2.size) = False := eq_false (by omega)
    clear hv2
    go_enter Tryz.func49, Tryz.ntmps49
    go_wp2_with fail
    refine (HIt.out wb (Below.refl _ wb)).mono ?_
    rintro en w3 ⟨rfl, q3⟩
    have hfin := Lib.hid (HF.out _ w3 rfl q3)
    clear HF HIt q3 HX c0 c1 c2 hwb
    go_wp2
    exact hfin.out
end Go.Proofs.YtpankmaljafnnaaGreatDoor
