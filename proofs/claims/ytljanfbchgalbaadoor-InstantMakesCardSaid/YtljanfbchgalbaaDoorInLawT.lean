/-
  Helper: the walk of the statement InstantShifts.
-/
import Derived.Test.YtljanfbchgalbaaDoorInForm2
import Derived.Laws.BytesString
namespace Go.Proofs.YtljanfbchgalbaaDoor
open Go.RowKit
set_option linter.unusedVariables false

def D8 (k : Nat) : UInt8 := UInt8.ofNat (48 + k)
def zon (h m : Nat) : List UInt8 := [D8 (h / 10), D8 (h % 10)] ++ 58 :: [D8 (m / 10), D8 (m % 10)]
theorem D8_nat (k : Nat) (h : k < 10) : ((D8 k).toNat : Int) = 48 + (k : Int) := by
  have h2 : k = 0 ∨ k = 1 ∨ k = 2 ∨ k = 3 ∨ k = 4 ∨ k = 5 ∨ k = 6 ∨ k = 7 ∨ k = 8 ∨ k = 9 := by omega
  rcases h2 with rfl | rfl | rfl | rfl | rfl | rfl | rfl | rfl | rfl | rfl <;> decide
theorem pad2 (h : Nat) (hh : h ≤ 99) : IsPad [D8 (h / 10), D8 (h % 10)] 2 h := by
  have a := dgt (h / 10) (by omega)
  have b := dgt (h % 10) (by omega)
  refine ⟨rfl, fun c hc => ?_, ?_⟩
  · simp only [List.mem_cons, List.not_mem_nil, or_false] at hc
    rcases hc with rfl | rfl
    · exact a.1
    · exact b.1
  · show 10 * (10 * 0 + ((UInt8.ofNat (48 + h / 10)).toNat - 48)) + ((UInt8.ofNat (48 + h % 10)).toNat - 48) = h
    rw [a.2, b.2]; omega
theorem conv5 (w1 : World) (h m : Nat) (hh : h ≤ 99) (hm : m ≤ 99) : (convert 43 9 (.slice (some ⟨w1.heap.size, 0, none⟩) 5 5)).run Tryd.prog (w1.alloc (.cells #[.int .u8 (48 + (h : Int) / 10), .int .u8 (48 + (h : Int) % 10), .int .u8 58, .int .u8 (48 + (m : Int) / 10), .int .u8 (48 + (m : Int) % 10)] 5)) =
    .ok (.string ⟨(zon h m).toArray⟩) (w1.alloc (.cells #[.int .u8 (48 + (h : Int) / 10), .int .u8 (48 + (h : Int) % 10), .int .u8 58, .int .u8 (48 + (m : Int) / 10), .int .u8 (48 + (m : Int) % 10)] 5)) := by
  refine run_convert_bytes_back _ _ _ 5 _ 5 (zon h m) Tryd.underlying43 Tryd.underlying5 Tryd.underlying9 ?_
  intro j hj
  have hb := Blk.new w1 5 [.int .u8 (48 + (h : Int) / 10), .int .u8 (48 + (h : Int) % 10), .int .u8 58, .int .u8 (48 + (m : Int) / 10), .int .u8 (48 + (m : Int) % 10)]
  have e1 := D8_nat (h / 10) (by omega)
  have e2 := D8_nat (h % 10) (by omega)
  have e3 := D8_nat (m / 10) (by omega)
  have e4 := D8_nat (m % 10) (by omega)
  have hj5 : j < 5 := hj
  have hj2 : j = 0 ∨ j = 1 ∨ j = 2 ∨ j = 3 ∨ j = 4 := by omega
  rcases hj2 with rfl | rfl | rfl | rfl | rfl
  · exact (hb.cell 0 _ rfl).trans (congrArg (fun x => some (Value.int .u8 x)) (by show (48 + (h : Int) / 10) = ((D8 (h / 10)).toNat : Int); omega))
  · exact (hb.cell 1 _ rfl).trans (congrArg (fun x => some (Value.int .u8 x)) (by show (48 + (h : Int) % 10) = ((D8 (h % 10)).toNat : Int); omega))
  · exact hb.cell 2 _ rfl
  · exact (hb.cell 3 _ rfl).trans (congrArg (fun x => some (Value.int .u8 x)) (by show (48 + (m : Int) / 10) = ((D8 (m / 10)).toNat : Int); omega))
  · exact (hb.cell 4 _ rfl).trans (congrArg (fun x => some (Value.int .u8 x)) (by show (48 + (m : Int) % 10) = ((D8 (m % 10)).toNat : Int); omega))
theorem of_zero (n : Int) (k : Nat) (t : ByteArray) (en : Int) (h : OfR n k t en) (hk : k ≤ 999999999) (h1 : -62167219200 ≤ n) (h2 : n ≤ 253402300799) : en = 0 := by
  unfold OfR at h
  rw [if_neg (by omega), if_neg (by omega)] at h
  obtain ⟨_, _, _, _, _, _, _, _, rfl⟩ := h
  rfl
theorem sec_of (n : Int) (k : Nat) (u : ByteArray) (h : OfR n k u 0) : secF u = (n, k, 0) ∧ u.size ≤ 6000 := by
  obtain ⟨b1, _, b3⟩ := of_back n k u h
  refine ⟨?_, b3⟩
  unfold secF; rw [b1]; unfold secG
  rw [if_pos ⟨rfl, h⟩]
theorem insR_e (en : Int) (he : en ≠ 0) (t : ByteArray) (e : Int) (h : InsR (0, 0, en) t e) : t = ⟨#[]⟩ ∧ e = en := by
  unfold InsR at h; rw [if_neg he] at h; exact h
theorem insR_o (B : Int) (na : Nat) (t : ByteArray) (e : Int) (h : InsR (B, na, 0) t e) : OfR B na t e := by
  unfold InsR at h; rw [if_pos rfl] at h; exact h
theorem u8b {k : Int} (hk : (Lit.int .u8 k).wf = true) : 0 ≤ k ∧ k ≤ 255 := by
  simp only [Lit.wf, Bool.and_eq_true, decide_eq_true_eq] at hk
  exact hk
set_option maxRecDepth 100000 in
set_option maxHeartbeats 8000000 in
theorem walkInstantShifts (w : World) (hT : Tabs w) (s : ByteArray) (hs : s.size ≤ maxLen) (H : Int) (hH : (Lit.int .u8 H).wf = true) (M : Int) (hM : (Lit.int .u8 M).wf = true) : Calls Tryd.prog 8 #[.string s, .int .u8 H, .int .u8 M] w (BoolW true w) := by
  have HA := Lib.hid (awake_any w hT)
  unfold BoolW at HA
  have HT : Hid (∀ W, Below w.heap.size w W → Tabs W) := fun W hb => hT.below hb hT.1
  have HF : Hid (∀ w', Below w.heap.size w w' → BoolW true w (.returned (.bool true)) w') := fun w' h => ⟨rfl, h⟩
  generalize BoolW true w = Po at *
  clear hT
  unfold maxLen at hs
  have hs2 : (s.size : Int) ≤ 9223372036854775807 := by omega
  have hH2 := u8b hH
  have hM2 := u8b hM
  clear hH hM
  by_cases la : 40 < s.size
  · have la2 : (40 : Int) < (s.size : Int) := by omega
    go_enter Tryd.func8, Tryd.ntmps8
    go_wp2_with fail
    refine HA.out.mono ?_
    rintro e w1 ⟨rfl, hb1⟩
    have hfin := Lib.hid (HF.out _ hb1)
    clear hb1
    go_wp2
    exact hfin.out
  have la3 : ¬ (40 : Int) < (s.size : Int) := by omega
  obtain ⟨h, hh, hh2⟩ : ∃ h : Nat, H % 24 = h ∧ h ≤ 23 := ⟨(H % 24).toNat, by omega, by omega⟩
  obtain ⟨m, hm, hm2⟩ : ∃ m : Nat, M % 60 = m ∧ m ≤ 59 := ⟨(M % 60).toNat, by omega, by omega⟩
  have th : H.tmod 24 = h := by rw [Int.tmod_eq_emod_of_nonneg (by omega)]; exact hh
  have tm : M.tmod 60 = m := by rw [Int.tmod_eq_emod_of_nonneg (by omega)]; exact hm
  have l24 : (s.size : Int) ≤ 40 := by omega
  have d1 : (s ++ ⟨#[90]⟩).data.toList = s.data.toList ++ [90] := by simp
  have d2 : (s ++ ⟨#[43]⟩ ++ ⟨(zon h m).toArray⟩).data.toList = s.data.toList ++ (43 :: ([D8 (h / 10), D8 (h % 10)] ++ 58 :: [D8 (m / 10), D8 (m % 10)])) := by simp [zon]
  have d3 : (s ++ ⟨#[45]⟩ ++ ⟨(zon h m).toArray⟩).data.toList = s.data.toList ++ (45 :: ([D8 (h / 10), D8 (h % 10)] ++ 58 :: [D8 (m / 10), D8 (m % 10)])) := by simp [zon]
  have z5 : (⟨(zon h m).toArray⟩ : ByteArray).size = 5 := rfl
  have y1 : (⟨#[90]⟩ : ByteArray).size = 1 := rfl
  have y2 : (⟨#[43]⟩ : ByteArray).size = 1 := rfl
  have y3 : (⟨#[45]⟩ : ByteArray).size = 1 := rfl
  have H1 := Lib.hid (fun W hW => Instant_any (s ++ ⟨#[90]⟩) W hW (by rw [ByteArray.size_append, y1]; omega))
  have H2 := Lib.hid (fun W hW => Instant_any (s ++ ⟨#[43]⟩ ++ ⟨(zon h m).toArray⟩) W hW (by rw [ByteArray.size_append, ByteArray.size_append, y2, z5]; omega))
  have H3 := Lib.hid (fun W hW => Instant_any (s ++ ⟨#[45]⟩ ++ ⟨(zon h m).toArray⟩) W hW (by rw [ByteArray.size_append, ByteArray.size_append, y3, z5]; omega))
  rw [d1] at H1
  rw [d2] at H2
  rw [d3] at H3
  have hT3 := trip s.data.toList [D8 (h / 10), D8 (h % 10)] [D8 (m / 10), D8 (m % 10)] h m (pad2 h (by omega)) (pad2 m (by omega)) hh2 hm2
  have HC5 := Lib.hid (fun W => conv5 W h m (by omega) (by omega))
  clear d1 d2 d3 y1 y2 y3 hs la hh hm
  generalize (⟨(zon h m).toArray⟩ : ByteArray) = zb at *
  generalize s.data.toList = sl at *
  rcases hT3 with ⟨en, hen, e1, e2, e3⟩ | ⟨B, na, hna, hB0, hB9, e1, e2, e3⟩
  · rw [e1] at H1
    rw [e2] at H2
    rw [e3] at H3
    have K := Lib.hid (insR_e en hen)
    clear e1 e2 e3
    unfold InsP at H1 H2 H3
    go_enter Tryd.func8, Tryd.ntmps8
    go_wp2_with fail
    refine HA.out.mono ?_
    rintro e w1 ⟨rfl, hb1⟩
    have hB1 : Hid (Below w.heap.size w w1) := hb1
    clear hb1
    have hcv := HC5.out w1
    go_wp2_with fail
    have hbz : Hid (Below w.heap.size w (w1.alloc (.cells #[.int .u8 (48 + (h : Int) / 10), .int .u8 (48 + (h : Int) % 10), .int .u8 58, .int .u8 (48 + (m : Int) / 10), .int .u8 (48 + (m : Int) % 10)] 5))) := hB1.out.alloc hB1.out.size _
    clear hcv HC5
    refine (H1.out _ (HT.out _ hbz.out)).mono ?_
    rintro e w2 ⟨u, e1, hI, rfl, hb2⟩
    have hB2 := bt hbz hb2
    clear hb2 hbz hB1
    obtain ⟨ht, hee⟩ := K.out _ _ hI
    clear hI
    subst ht
    subst hee
    go_wp2_with fail
    refine (H2.out _ (HT.out _ hB2.out)).mono ?_
    rintro e w3 ⟨u, e2, hI, rfl, hb3⟩
    have hB3 := bt hB2 hb3
    obtain ⟨ht, hee⟩ := K.out _ _ hI
    clear hI hb3
    subst ht
    subst hee
    go_wp2_with fail
    refine (H3.out _ (HT.out _ hB3.out)).mono ?_
    rintro e w4 ⟨u, e3, hI, rfl, hb4⟩
    have hB4 := bt hB3 hb4
    obtain ⟨ht, hee⟩ := K.out _ _ hI
    clear hI hb4
    subst ht
    subst hee
    have hfin := Lib.hid (HF.out _ hB4.out)
    clear K H1 H2 H3 HA
    go_wp2
    exact hfin.out
  · rw [e1] at H1
    rw [e2] at H2
    rw [e3] at H3
    have K := Lib.hid (insR_o)
    have HZ := Lib.hid (fun t e h => of_zero B na t e h hna hB0 hB9)
    have HS : Hid (∀ u, OfR B na u 0 → ∀ W, Tabs W → Calls Tryd.prog 17 #[.string u] W fun e' w' => e' = .returned (.tuple #[.int .i64 B, .int .i64 na, .int .i64 0]) ∧ Below W.heap.size W w') := fun u hu W hW => by
      obtain ⟨x1, x2⟩ := sec_of B na u hu
      have := Seconds_any u W hW (by omega)
      rw [x1] at this
      exact this
    have HO : Hid (∀ (n : Int) (t : ByteArray) (en : Int), OfR n na t en → ∀ W, Tabs W → Calls Tryd.prog 19 #[.int .i64 n, .int .i64 na] W fun e' w' => e' = .returned (.tuple #[.string t, .int .i64 en]) ∧ Below W.heap.size W w') := fun n t en h W hW => (of_all n na W hW).mono fun e' w' ⟨t', en', h', g1, g2⟩ => by
      obtain ⟨rfl, rfl⟩ := h.det h'
      exact ⟨g1, g2⟩
    clear e1 e2 e3
    unfold zsec at H2 H3
    unfold InsP at H1 H2 H3
    go_enter Tryd.func8, Tryd.ntmps8
    go_wp2_with fail
    refine HA.out.mono ?_
    rintro e w1 ⟨rfl, hb1⟩
    have hB1 : Hid (Below w.heap.size w w1) := hb1
    clear hb1
    have hcv := HC5.out w1
    go_wp2_with fail
    have hbz : Hid (Below w.heap.size w (w1.alloc (.cells #[.int .u8 (48 + (h : Int) / 10), .int .u8 (48 + (h : Int) % 10), .int .u8 58, .int .u8 (48 + (m : Int) / 10), .int .u8 (48 + (m : Int) % 10)] 5))) := hB1.out.alloc hB1.out.size _
    clear hcv HC5
    refine (H1.out _ (HT.out _ hbz.out)).mono ?_
    rintro e w2 ⟨u, e1, hI, rfl, hb2⟩
    have hB2 := bt hbz hb2
    clear hb2 hbz hB1
    have hI2 := K.out _ _ _ _ hI
    have hee := HZ.out _ _ hI2
    subst hee
    have C1 := Lib.hid (HS.out u hI2)
    clear hI hI2 HS HZ H1
    go_wp2_with fail
    refine (H2.out _ (HT.out _ hB2.out)).mono ?_
    rintro e w3 ⟨u2, e2, hI, rfl, hb3⟩
    have hB3 := bt hB2 hb3
    have C2 := Lib.hid (HO.out _ _ _ (K.out _ _ _ _ hI))
    clear hI hb3 H2
    go_wp2_with fail
    refine (H3.out _ (HT.out _ hB3.out)).mono ?_
    rintro e w4 ⟨u3, e3, hI, rfl, hb4⟩
    have hB4 := bt hB3 hb4
    have C3 := Lib.hid (HO.out _ _ _ (K.out _ _ _ _ hI))
    clear hI hb4 H3 HO K
    go_wp2_with fail
    refine (C1.out _ (HT.out _ hB4.out)).mono ?_
    rintro e w5 ⟨rfl, hb5⟩
    have hB5 := bt hB4 hb5
    clear hb5 C1
    go_wp2_with fail
    refine (C2.out _ (HT.out _ hB5.out)).mono ?_
    rintro e w6 ⟨rfl, hb6⟩
    have hB6 := bt hB5 hb6
    clear hb6 C2
    go_wp2_with fail
    refine (C3.out _ (HT.out _ hB6.out)).mono ?_
    rintro e w7 ⟨rfl, hb7⟩
    have hfin := Lib.hid (HF.out _ (bt hB6 hb7).out)
    clear hb7 C3
    go_wp2
    exact hfin.out
end Go.Proofs.YtljanfbchgalbaaDoor
