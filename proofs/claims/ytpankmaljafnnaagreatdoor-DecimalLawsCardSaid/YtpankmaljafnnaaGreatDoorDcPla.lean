/-
  Helper: the walk of number.plain.
-/
import Derived.Test.YtpankmaljafnnaaGreatDoorDcSci
namespace Go.Proofs.YtpankmaljafnnaaGreatDoor
open Go.RowKit
set_option linter.unusedVariables false
set_option linter.unusedSimpArgs false

/-- the plain form without a sign -/
def plnB (l : List UInt8) (e : Int) : ByteArray :=
  if 0 ≤ e then mkB l ++ mkB (List.replicate e.toNat 48) ++ ⟨#[46, 48]⟩
  else (mkB (spreadL l (plS l.length e).toNat 0)).extract 0 ((plS l.length e) + e).toNat ++ ⟨#[46]⟩ ++ (mkB (spreadL l (plS l.length e).toNat 0)).extract ((plS l.length e) + e).toNat (plS l.length e).toNat
theorem repL_zero : ∀ (c : Nat), Lib.repeatL [48] c = List.replicate c 48
  | 0 => rfl
  | c + 1 => by
    have := repL_zero c
    rw [List.replicate_succ, ← this]; rfl
theorem repeat_zero (j : Nat) (hj : j ≤ 100000) (w : World) : Calls Tryz.prog 71 #[.string ⟨#[48]⟩, .int .i64 (j : Int)] w fun e w' => e = .returned (.string (mkB (List.replicate j 48))) ∧ Below w.heap.size w w' := by
  match j, hj with
  | 0, _ => exact (Tryz.strings_Repeat_zero ⟨#[48]⟩ w).mono fun e w' h => ⟨h.1, by rw [h.2]; exact Below.refl _ _⟩
  | 1, _ => exact (Tryz.strings_Repeat_one ⟨#[48]⟩ w).mono fun e w' h => ⟨h.1, by rw [h.2]; exact Below.refl _ _⟩
  | j + 2, hj =>
    have e48 : (⟨#[48]⟩ : ByteArray).size = 1 := rfl
    have := Tryz.strings_Repeat_main ⟨#[48]⟩ (j + 2) w (by omega) (by omega) (by rw [e48]; omega) (by rw [e48]; omega)
    have e2 : (⟨#[48]⟩ : ByteArray).data.toList = [48] := rfl
    rw [e2, repL_zero] at this
    exact this
set_option maxRecDepth 100000 in
set_option maxHeartbeats 2000000 in
theorem plain_pos (b : Bool) (l : List UInt8) (j : Nat) (a : Option Addr) (cap : Nat) (hl0 : 1 ≤ l.length) (hl : l.length ≤ 1000) (hj : j ≤ 10000) (w : World) (hr : Rb w a l) :
    Calls Tryz.prog 48 #[.agg (nvl b a l.length cap (j : Int)).toArray] w (fun en w' => en = .returned (.string (mkB l ++ mkB (List.replicate j 48) ++ ⟨#[46, 48]⟩)) ∧ Below w.heap.size w w') := by
  obtain ⟨wb, hwb⟩ : ∃ wb, w.alloc (.cells (nvl b a l.length cap (j : Int)).toArray 61) = wb := ⟨_, rfl⟩
  obtain ⟨N, hN⟩ : ∃ N, w.heap.size = N := ⟨_, rfl⟩
  have hB : Hid (Blk wb N 61 (nvl b a l.length cap (j : Int))) := by rw [← hwb, ← hN]; exact Blk.new w _ _
  have hbel : Below w.heap.size w wb := by rw [← hwb]; exact (Below.refl _ w).alloc (Nat.le_refl _) _
  have hb : Hid (Below w.heap.size w wb) := hbel
  have hrb : Rb wb a l := hr.go hbel
  have HX : Hid (∀ W, Below wb.heap.size wb W → W.cell? ⟨N, 0, none⟩ = some (.bool b) ∧ W.cell? ⟨N, 1, none⟩ = some (.slice a l.length cap) ∧ W.cell? ⟨N, 2, none⟩ = some (.int .i64 (j : Int)) ∧ (convert 59 9 (.slice a l.length cap)).run Tryz.prog W = .ok (.string (mkB l)) W) := fun W h => by
    have := hB.out.go h hB.out.lt
    exact ⟨this.cell 0 _ rfl, this.cell 1 _ rfl, this.cell 2 _ rfl, conv_str (hrb.go h) cap (List.length_pos_iff.1 hl0)⟩
  have HR := Lib.hid (fun W => repeat_zero j (by omega) W)
  have hz1 : (mkB l).size = l.length := mkB_size _
  have hz2 : (mkB (List.replicate j 48)).size = j := by rw [mkB_size]; simp
  have HF : Hid (∀ w', Below wb.heap.size wb w' → (fun (en : Ending) (w' : World) => en = .returned (.string (mkB l ++ mkB (List.replicate j 48) ++ ⟨#[46, 48]⟩)) ∧ Below w.heap.size w w') (Ending.returned (.string (mkB l ++ mkB (List.replicate j 48) ++ ⟨#[46, 48]⟩))) w') := fun w' h => ⟨rfl, hb.out.trans (h.mono hb.out.size)⟩
  generalize (fun (en : Ending) (w' : World) => en = .returned (.string (mkB l ++ mkB (List.replicate j 48) ++ ⟨#[46, 48]⟩)) ∧ Below w.heap.size w w') = Po at *
  generalize mkB l = A at *
  generalize mkB (List.replicate j 48) = D at *
  generalize l.length = n at *
  have l1 : (9223372036854775807 < A.size + D.size) = False := eq_false (by omega)
  have l2 : (9223372036854775807 < A.size + D.size + 2) = False := eq_false (by omega)
  have p0 : (0 : Int) ≤ (j : Int) := by omega
  obtain ⟨c0, c1, c2, hv⟩ := HX.out wb (Below.refl _ wb)
  obtain ⟨c3, c4, c5, hv2⟩ := HX.out wb.drew (Below.refl _ wb).drew
  have hbd : Hid (Below wb.heap.size wb wb.drew) := (Below.refl _ wb).drew
  clear hB hrb hr hbel hb hz1 hz2
  go_enter Tryz.func48, Tryz.ntmps48
  go_wp2_with fail
  clear hwb
  go_region_law (first
    | (go_simp; go_at_call 71; refine (HR.out _).mono ?_; rintro en w3 ⟨rfl, q3⟩; have hb3 := Lib.hid (hbd.out.trans (q3.mono (Nat.le_refl _))); clear q3; obtain ⟨z0, z1, z2, z3⟩ := HX.out w3 hb3.out))
  all_goals
    have hfin := Lib.hid (HF.out w3 hb3.out)
    first | (go_wp2; exact hfin.out) | (go_simp; go_wp2; exact hfin.out) | (go_simp; exact hfin.out)
set_option maxRecDepth 100000 in
set_option maxHeartbeats 4000000 in
theorem plain_neg (b : Bool) (l : List UInt8) (e : Int) (a : Option Addr) (cap : Nat) (hl0 : 1 ≤ l.length) (hl : l.length ≤ 1000) (hcap : l.length ≤ cap) (he0 : e < 0) (he : -10000 ≤ e) (W P : Nat) (hW : plS l.length e = (W : Int)) (hP : (W : Int) + e = (P : Int)) (w : World) (hr : Rb w a l) :
    Calls Tryz.prog 48 #[.agg (nvl b a l.length cap e).toArray] w (fun en w' => en = .returned (.string ((mkB (spreadL l W 0)).extract 0 P ++ ⟨#[46]⟩ ++ (mkB (spreadL l W 0)).extract P W)) ∧ Below w.heap.size w w') := by
  obtain ⟨wb, hwb⟩ : ∃ wb, w.alloc (.cells (nvl b a l.length cap e).toArray 61) = wb := ⟨_, rfl⟩
  obtain ⟨N, hN⟩ : ∃ N, w.heap.size = N := ⟨_, rfl⟩
  have hB : Hid (Blk wb N 61 (nvl b a l.length cap e)) := by rw [← hwb, ← hN]; exact Blk.new w _ _
  have hbel : Below w.heap.size w wb := by rw [← hwb]; exact (Below.refl _ w).alloc (Nat.le_refl _) _
  have hb : Hid (Below w.heap.size w wb) := hbel
  have hrb : Rb wb a l := hr.go hbel
  have hWn : plS l.length e = max (l.length : Int) (1 - e) := if_neg (by omega)
  have hW1 : l.length ≤ W := by omega
  have hW2 : W ≤ 20000 := by omega
  have HX : Hid (∀ V, Below wb.heap.size wb V → V.cell? ⟨N, 0, none⟩ = some (.bool b) ∧ V.cell? ⟨N, 1, none⟩ = some (.slice a l.length cap) ∧ V.cell? ⟨N, 2, none⟩ = some (.int .i64 e)) := fun V h => by
    have := hB.out.go h hB.out.lt
    exact ⟨this.cell 0 _ rfl, this.cell 1 _ rfl, this.cell 2 _ rfl⟩
  have HPs := Lib.hid (fun V => plainSize_any b l.length e a cap (by omega) he (by omega) V)
  rw [hW] at HPs
  have hlS : (spreadL l W 0).length = W := len_spread _ _ _ (by omega)
  have HSp : Hid (∀ V, Below wb.heap.size wb V → Calls Tryz.prog 61 #[.agg (nvl b a l.length cap e).toArray, .int .i64 e, .int .i64 (W : Int)] V (fun en w' => ∃ g, en = .returned (.slice (some ⟨g, 0, none⟩) W W) ∧ (convert 59 9 (.slice (some ⟨g, 0, none⟩) W W)).run Tryz.prog w' = .ok (.string (mkB (spreadL l W 0))) w' ∧ Below wb.heap.size wb w')) := fun V h => (spread_any b l e a cap hcap (by omega) e 0 W (by omega) (by omega) (by omega) (by omega) (by omega) (by omega) V (hrb.go h)).mono (by
    rintro en w' ⟨g, rfl, h1, h2⟩
    rw [hlS]
    have hc := conv_str h1 W (List.length_pos_iff.1 (by rw [hlS]; omega))
    rw [hlS] at hc
    exact ⟨g, rfl, hc, h.trans (h2.mono h.size)⟩)
  have HF : Hid (∀ w', Below wb.heap.size wb w' → (fun (en : Ending) (w' : World) => en = .returned (.string ((mkB (spreadL l W 0)).extract 0 P ++ ⟨#[46]⟩ ++ (mkB (spreadL l W 0)).extract P W)) ∧ Below w.heap.size w w') (Ending.returned (.string ((mkB (spreadL l W 0)).extract 0 P ++ ⟨#[46]⟩ ++ (mkB (spreadL l W 0)).extract P W))) w') := fun w' h => ⟨rfl, hb.out.trans (h.mono hb.out.size)⟩
  generalize (fun (en : Ending) (w' : World) => en = .returned (.string ((mkB (spreadL l W 0)).extract 0 P ++ ⟨#[46]⟩ ++ (mkB (spreadL l W 0)).extract P W)) ∧ Below w.heap.size w w') = Po at *
  have hsz : (mkB (spreadL l W 0)).size = W := by rw [mkB_size, hlS]
  generalize mkB (spreadL l W 0) = S at *
  have hz1 : (S.extract 0 P).size = P := by rw [ByteArray.size_extract]; omega
  have hz2 : (S.extract P W).size = W - P := by rw [ByteArray.size_extract]; omega
  have l1 : (9223372036854775807 < (S.extract 0 P).size + 1) = False := eq_false (by omega)
  have l2 : (9223372036854775807 < (S.extract 0 P).size + 1 + (S.extract P W).size) = False := eq_false (by omega)
  have p1 : (0 : Int) ≤ (P : Int) := by omega
  have p2 : (P : Int) ≤ (W : Int) := by omega
  generalize l.length = n at *
  clear hWn hW hlS
  obtain ⟨c0, c1, c2⟩ := HX.out wb (Below.refl _ wb)
  obtain ⟨c3, c4, c5⟩ := HX.out wb.drew (Below.refl _ wb).drew
  have hbd : Hid (Below wb.heap.size wb wb.drew) := (Below.refl _ wb).drew
  clear hB hrb hr hbel hb hz1 hz2
  go_enter Tryz.func48, Tryz.ntmps48
  go_wp2_with fail
  clear hwb
  go_region_law (first
    | (go_simp; go_at_call 47; refine (HPs.out _).mono ?_; rintro en w2 ⟨rfl, q2⟩; have hb2 := Lib.hid (hbd.out.trans (q2.mono (Nat.le_refl _))); clear q2; obtain ⟨y0, y1, y2⟩ := HX.out w2 hb2.out)
    | (go_simp; go_at_call 61; refine (HSp.out _ hb2.out).mono ?_; rintro en w3 ⟨g, rfl, hcv, q3⟩; have hb3 := Lib.hid q3; clear q3; obtain ⟨z0, z1, z2⟩ := HX.out w3 hb3.out))
  all_goals
    have hfin := Lib.hid (HF.out w3.drew hb3.out.drew)
    clear HF HX HPs HSp
    go_wp2
    go_region
    all_goals (go_wp2; exact hfin.out)
end Go.Proofs.YtpankmaljafnnaaGreatDoor
