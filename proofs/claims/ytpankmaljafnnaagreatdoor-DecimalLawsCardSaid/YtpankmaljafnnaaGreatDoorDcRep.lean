/-
  Helper: the walk of bytes.Repeat of one zero character.
-/
import Derived.Test.YtpankmaljafnnaaGreatDoorDcText
import Derived.Lib.MakeNoZero
namespace Go.Proofs.YtpankmaljafnnaaGreatDoor
open Go.RowKit
set_option linter.unusedVariables false
set_option linter.unusedSimpArgs false

/-- a row of the call's own whose first n cells are zeros' characters -/
def ZRow (w : World) (g n : Nat) : Prop := ∃ cur : List Value, w.heap[g]? = some (.cells cur.toArray 5 (0, 0)) ∧ n ≤ cur.length ∧ cur.take n = bytes (List.replicate n 48)
def RepP (n : Nat) (w : World) (en : Ending) (w' : World) : Prop := ∃ g, en = .returned (.slice (some ⟨g, 0, none⟩) n n) ∧ w.heap.size ≤ g ∧ ZRow w' g n ∧ Below w.heap.size w w'
/-- a row part-filled -/
def Part (w : World) (g n k : Nat) : Prop := ∃ cur : List Value, w.heap[g]? = some (.cells cur.toArray 5 (0, 0)) ∧ n ≤ cur.length ∧ cur.take k = bytes (List.replicate k 48)
theorem part_copy {w : World} {g n k c : Nat} (h : Part w g n k) (hc : c ≤ k) (hk : k + c ≤ n) (h0 : 0 < c) (t : TypeId) (ht : Tryz.prog.underlying t = some (.slice 5)) (ty : TypeId) (dCap sLen sCap dLen : Nat) (hm : c = Nat.min sLen dLen) :
    ∃ w', (Builtin.copy_ #[t, t] ty #[.slice (some ⟨g, k, none⟩) dLen dCap, .slice (some ⟨g, 0, none⟩) sLen sCap]).run Tryz.prog w = .ok (goInt c) w' ∧ Part w' g n (k + c) ∧ ∀ B w0, Below B w0 w → B ≤ g → Below B w0 w' := by
  obtain ⟨cur, h1, h2, h3⟩ := h
  have hl : (bytes (List.replicate c 48)).length = c := by rw [bytes_len]; simp
  have hsrc : ∀ j v, (bytes (List.replicate c 48))[j]? = some v → w.cell? ((⟨g, 0, none⟩ : Addr).add j) = some v := by
    intro j v hv
    have hj : j < c := by have := (List.getElem?_eq_some_iff.1 hv).1; omega
    have e : (⟨g, 0, none⟩ : Addr).add j = ⟨g, j, none⟩ := by cases j <;> simp [Addr.add]
    rw [e, cell_of_row w g j _ _ (0, 0) h1]
    have h5 : (cur.take k)[j]? = some v := by
      rw [h3]
      have e1 : v = .int .u8 48 := by
        unfold bytes at hv
        rw [List.getElem?_map, List.getElem?_replicate, if_pos hj] at hv
        simpa using hv.symm
      rw [e1]
      unfold bytes
      rw [List.getElem?_map, List.getElem?_replicate, if_pos (by omega)]; rfl
    rw [List.getElem?_take_of_lt (by omega)] at h5
    simpa using h5
  have hr := run_copy_row (P := Tryz.prog) w t t ty 5 g k dLen dCap ⟨g, 0, none⟩ sLen sCap cur.toArray 5 (bytes (List.replicate c 48)) ht size_u8 h1 (by rw [hl]; exact hm) hsrc (by rw [hl]; simpa using (by omega : k + c ≤ cur.length)) (cells_one _)
  rw [hl] at hr
  refine ⟨_, hr, ⟨cur.take k ++ bytes (List.replicate c 48) ++ cur.drop (k + c), ?_, ?_, ?_⟩, fun B w0 hb hB => below_row hb hB _⟩
  · exact setRow_heap _ _ _ _ _ _ h1
  · rw [List.length_append, List.length_append, hl, List.length_take, List.length_drop]; omega
  · have hl2 : (cur.take k ++ bytes (List.replicate c 48)).length = k + c := by rw [List.length_append, hl, List.length_take]; omega
    rw [List.take_left' hl2, h3, ← List.replicate_append_replicate]
    unfold bytes; rw [List.map_append]
set_option maxRecDepth 100000 in
set_option maxHeartbeats 8000000 in
theorem rep_any (n : Nat) (h1 : 1 ≤ n) (hn : n ≤ 100000) (g : Nat) (w : World) (hg : g < w.heap.size) (hc : w.cell? ⟨g, 0, none⟩ = some (.int .u8 48)) :
    Calls Tryz.prog 80 #[.slice (some ⟨g, 0, none⟩) 1 1, .int .i64 n] w (RepP n w) := by
  have HM := Lib.hid (fun W => Tryz.bits_Mul 1 n (by omega) (by omega) W)
  obtain ⟨cs, hrunM, hle, _⟩ := Lib.run_makeNoZero (P := Tryz.prog) w #[3] 59 5 Tryz.underlying59 n (by omega)
  have hcall : (callFunc 106 #[.int .i64 (n : Int)]).run Tryz.prog w = .ok (.value (.slice (some ⟨w.heap.size, 0, none⟩) n cs.size)) ((w.alloc (.cells cs 5)).drewN 2) := by
    rw [run_callFunc_extern Tryz.func106 (by kernel_rfl) (by kernel_rfl) (by kernel_rfl) (e := Extern.BytealgMakeNoZero.makeNoZero #[3] #[59]) (by kernel_rfl), hrunM]
    rfl
  clear hrunM
  have hF : Hid (∀ w', ZRow w' w.heap.size n → Below w.heap.size w w' → RepP n w (.returned (.slice (some ⟨w.heap.size, 0, none⟩) n n)) w') := fun w' h2 h3 => ⟨_, rfl, Nat.le_refl _, h2, h3⟩
  generalize RepP n w = Po at *
  have e1 : ((1 : Nat) * n / 18446744073709551616 : Nat) = 0 := by rw [Nat.one_mul]; omega
  have e2 : ((1 : Nat) * n % 18446744073709551616 : Nat) = n := by rw [Nat.one_mul]; omega
  rw [e1, e2] at HM
  replace HM : Hid (∀ W, Calls Tryz.prog 95 #[.int .u64 1, .int .u64 n] W fun e w' => e = .returned (.tuple #[.int .u64 0, .int .u64 n]) ∧ w' = W) := HM
  have hn0 : ((n : Int) == 0) = false := by rw [beq_eq_false_iff_ne]; omega
  have hn1 : ¬ (n : Int) < 0 := by omega
  have i0 : (0 : Int) ≤ (n : Int) := by omega
  have i1 : (n : Int) ≤ (cs.size : Int) := by omega
  -- the first copy
  obtain ⟨N, hN⟩ : ∃ N, w.heap.size = N := ⟨_, rfl⟩
  obtain ⟨WA, hWA⟩ : ∃ WA, (w.alloc (.cells cs 5)).drewN 2 = WA := ⟨_, rfl⟩
  have hA1 : WA.heap[N]? = some (.cells cs 5 (0, 0)) := by rw [← hWA, ← hN]; exact heap_alloc_new w _
  have hbA : Below N w WA := by rw [← hWA, ← hN]; exact Below.drewN ((Below.refl _ w).alloc (Nat.le_refl _) _) 2
  have hcA : WA.cell? ⟨g, 0, none⟩ = some (.int .u8 48) := by rw [hbA.cell (by show g < N; omega)]; exact hc
  have hr1 := run_copy_row (P := Tryz.prog) WA 59 59 3 5 N 0 n n ⟨g, 0, none⟩ 1 1 cs 5 [.int .u8 48] Tryz.underlying59 size_u8 hA1 (by show 1 = Nat.min 1 n; exact (Nat.min_eq_left h1).symm) (fun j v hv => by
    match j, hv with
    | 0, hv => simp at hv; subst hv; simpa [Addr.add] using hcA) (by show 0 + 1 ≤ cs.size; omega) (by intro v hv; simp at hv; subst hv; rfl)
  obtain ⟨C1, hC1, hC2, hC3⟩ : ∃ C1 : List Value, (cs.toList.take 0 ++ [.int .u8 48] ++ cs.toList.drop (0 + [Value.int .u8 48].length)) = C1 ∧ n ≤ C1.length ∧ C1.take 1 = bytes (List.replicate 1 48) := by
    refine ⟨_, rfl, ?_, rfl⟩
    simp; omega
  rw [hC1] at hr1
  replace hr1 : (Builtin.copy_ #[59, 59] 3 #[.slice (some ⟨N, 0, none⟩) n n, .slice (some ⟨g, 0, none⟩) 1 1]).run Tryz.prog WA = .ok (.int .i64 1) (WA.setRow N C1.toArray) := hr1
  have hP1 : Hid (Part (WA.setRow N C1.toArray) N n 1) := ⟨C1, setRow_heap _ _ _ _ _ _ hA1, hC2, hC3⟩
  have hb1 : Hid (Below N w (WA.setRow N C1.toArray)) := below_row hbA (Nat.le_refl _) _
  obtain ⟨WB, hWB⟩ : ∃ WB, WA.setRow N C1.toArray = WB := ⟨_, rfl⟩
  rw [hWB] at hr1 hP1 hb1
  rw [hWA] at hcall
  rw [hN] at hcall hF
  clear e1 e2 hA1 hbA hcA hC1 hC2 hC3 hWB
  have PC := Lib.hid (fun (W : World) (k c : Nat) (h : Part W N n k) h2 h3 h4 dC sL sC dL hm => part_copy h (c := c) h2 h3 h4 59 Tryz.underlying59 3 dC sL sC dL hm)
  by_cases hbig : 8192 < n
  · have hb8 : (8192 : Int) < (n : Int) := by omega
    clear hbig
    go_enter Tryz.func80, Tryz.ntmps80
    go_wp2_with fail
    refine (HM.out _).mono ?_
    rintro en w' ⟨rfl, rfl⟩
    go_wp2
    go_loopw [10] (fun i wr => ∃ k : Nat, 1 ≤ k ∧ k ≤ n ∧ i = .int .i64 k ∧ Hid (Part wr N n k) ∧ Hid (Below N w' wr)) (fun i _ => n - (intOf i).toNat)
    case atStart => exact ⟨1, Nat.le_refl _, h1, rfl, hP1, hb1⟩
    case round =>
      obtain ⟨k, hk1, hkn, rfl, HPt, hbel⟩ := hrel
      by_cases hlt : k < n
      · have x1 : (k : Int) < (n : Int) := by omega
        have x2 : ¬ n = k := by omega
        have y0 : (0 : Int) ≤ (k : Int) := by omega
        by_cases h8 : k < 8192
        · have x3 : (k : Int) < 8192 := by omega
          have x4 : min (k : Int) 8192 = (k : Int) := by omega
          obtain ⟨c, hc⟩ : ∃ c, c = Nat.min k (n - k) := ⟨_, rfl⟩
          have hc1 : c ≤ k ∧ c ≤ n - k ∧ 0 < c := by
            refine ⟨by rw [hc]; exact Nat.min_le_left _ _, by rw [hc]; exact Nat.min_le_right _ _, ?_⟩
            rw [hc]; exact Nat.lt_min.2 ⟨by omega, by omega⟩
          obtain ⟨w2, r1, r2, r3⟩ := PC.out wr.drew k c HPt.out (by omega) (by omega) hc1.2.2 (n - k) k n (n - k) hc
          replace r1 : (Builtin.copy_ #[59, 59] 3 #[.slice (some ⟨N, k, none⟩) (n - k) (n - k), .slice (some ⟨N, 0, none⟩) k n]).run Tryz.prog wr.drew = .ok (.int .i64 (c : Int)) w2 := r1
          have R2 := Lib.hid r2
          have R3 := Lib.hid (r3 N w' hbel.out.drew (Nat.le_refl _))
          have hcm : c ≤ 100000 := by omega
          have hkc := hc1
          clear hc r2 r3 PC hF hP1 hb1
          go_wp2
          go_region
          go_wp2
          go_roundw
          case rel => exact ⟨k + c, by omega, by omega, by go_num, R2, R3⟩
          case measure => simp [intOf]; omega
        · have x3 : ¬ (k : Int) < 8192 := by omega
          have x4 : min (k : Int) 8192 = 8192 := by omega
          obtain ⟨c, hc⟩ : ∃ c, c = Nat.min 8192 (n - k) := ⟨_, rfl⟩
          have hc1 : c ≤ 8192 ∧ c ≤ n - k ∧ 0 < c := by
            refine ⟨by rw [hc]; exact Nat.min_le_left _ _, by rw [hc]; exact Nat.min_le_right _ _, ?_⟩
            rw [hc]; exact Nat.lt_min.2 ⟨by omega, by omega⟩
          obtain ⟨w2, r1, r2, r3⟩ := PC.out wr.drew k c HPt.out (by omega) (by omega) hc1.2.2 (n - k) 8192 n (n - k) hc
          replace r1 : (Builtin.copy_ #[59, 59] 3 #[.slice (some ⟨N, k, none⟩) (n - k) (n - k), .slice (some ⟨N, 0, none⟩) 8192 n]).run Tryz.prog wr.drew = .ok (.int .i64 (c : Int)) w2 := r1
          have R2 := Lib.hid r2
          have R3 := Lib.hid (r3 N w' hbel.out.drew (Nat.le_refl _))
          have hcm : c ≤ 100000 := by omega
          have hkc := hc1
          clear hc r2 r3 PC hF hP1 hb1
          go_wp2
          go_region
          go_wp2
          go_roundw
          case rel => exact ⟨k + c, by omega, by omega, by go_num, R2, R3⟩
          case measure => simp [intOf]; omega
      · have x1 : ¬ (k : Int) < (n : Int) := by omega
        obtain rfl : k = n := by omega
        obtain ⟨cur, q1, q2, q3⟩ := HPt.out
        have hfin := Lib.hid (hF.out wr ⟨cur, q1, q2, q3⟩ hbel.out)
        clear q1 q2 q3 HPt hbel PC hF
        go_wp2
        exact hfin.out
  · have hb8 : ¬ (8192 : Int) < (n : Int) := by omega
    clear hbig
    go_enter Tryz.func80, Tryz.ntmps80
    go_wp2_with fail
    refine (HM.out _).mono ?_
    rintro en w' ⟨rfl, rfl⟩
    go_wp2
    go_loopw [10] (fun i wr => ∃ k : Nat, 1 ≤ k ∧ k ≤ n ∧ i = .int .i64 k ∧ Hid (Part wr N n k) ∧ Hid (Below N w' wr)) (fun i _ => n - (intOf i).toNat)
    case atStart => exact ⟨1, Nat.le_refl _, h1, rfl, hP1, hb1⟩
    case round =>
      obtain ⟨k, hk1, hkn, rfl, HPt, hbel⟩ := hrel
      by_cases hlt : k < n
      · have x1 : (k : Int) < (n : Int) := by omega
        have x2 : ¬ n = k := by omega
        have y0 : (0 : Int) ≤ (k : Int) := by omega
        have x4 : min (k : Int) (n : Int) = (k : Int) := by omega
        obtain ⟨c, hc⟩ : ∃ c, c = Nat.min k (n - k) := ⟨_, rfl⟩
        have hc1 : c ≤ k ∧ c ≤ n - k ∧ 0 < c := by
          refine ⟨by rw [hc]; exact Nat.min_le_left _ _, by rw [hc]; exact Nat.min_le_right _ _, ?_⟩
          rw [hc]; exact Nat.lt_min.2 ⟨by omega, by omega⟩
        obtain ⟨w2, r1, r2, r3⟩ := PC.out wr.drew k c HPt.out (by omega) (by omega) hc1.2.2 (n - k) k n (n - k) hc
        replace r1 : (Builtin.copy_ #[59, 59] 3 #[.slice (some ⟨N, k, none⟩) (n - k) (n - k), .slice (some ⟨N, 0, none⟩) k n]).run Tryz.prog wr.drew = .ok (.int .i64 (c : Int)) w2 := r1
        have R2 := Lib.hid r2
        have R3 := Lib.hid (r3 N w' hbel.out.drew (Nat.le_refl _))
        have hcm : c ≤ 100000 := by omega
        have hkc := hc1
        clear hc r2 r3 PC hF hP1 hb1
        go_wp2
        go_region
        go_wp2
        go_roundw
        case rel => exact ⟨k + c, by omega, by omega, by go_num, R2, R3⟩
        case measure => simp [intOf]; omega
      · have x1 : ¬ (k : Int) < (n : Int) := by omega
        obtain rfl : k = n := by omega
        obtain ⟨cur, q1, q2, q3⟩ := HPt.out
        have hfin := Lib.hid (hF.out wr ⟨cur, q1, q2, q3⟩ hbel.out)
        clear q1 q2 q3 HPt hbel PC hF
        go_wp2
        exact hfin.out
end Go.Proofs.YtpankmaljafnnaaGreatDoor
