/-
  Helper: the walks of the program's OfMagnitude and of the reference's Fits.
-/
import Derived.Test.YtmnopohjnbpinabIRefByt
import Derived.Test.YtmnopohjnbpinabIMisc
import Derived.Test.YtmnopohjnbpinabIParse
namespace Go.Proofs.Ytmnopohjnbpinab
open Go.RowKit
set_option linter.unusedVariables false

/-- the bits of a magnitude are counted rightly -/
theorem bitLen_b (n : Nat) (h : n < 256) (h0 : n ≠ 0) : 1 ≤ Lib.bitLen n ∧ 2 ^ (Lib.bitLen n - 1) ≤ n ∧ n < 2 ^ Lib.bitLen n := by
  have hall : ∀ n, n < 256 → n ≠ 0 → 1 ≤ Lib.bitLen n ∧ 2 ^ (Lib.bitLen n - 1) ≤ n ∧ n < 2 ^ Lib.bitLen n := by decide +kernel
  exact hall n h h0
theorem bl_le (n k : Nat) : bl n ≤ k ↔ n < 2 ^ k := by
  by_cases h0 : n = 0
  · subst h0
    have e : bl 0 = 0 := by decide
    rw [e]
    exact ⟨fun _ => Nat.pow_pos (by omega), fun _ => Nat.zero_le _⟩
  · have hne : E 256 n ≠ [] := fun e => h0 ((E_nil 256 n (by omega)).1 e)
    obtain ⟨len, hlen⟩ : ∃ len, (E 256 n).length = len + 1 := ⟨(E 256 n).length - 1, by have := List.length_pos_iff.2 hne; omega⟩
    have hlast := E_last 256 n len (by omega) (by omega) hlen
    have hv := vb_E 256 n (by omega) (by omega)
    have hd := dg_E 256 n (by omega) (by omega)
    -- the top byte, and the rest
    have hs := vb_split 256 (E 256 n) len (by omega)
    have hdrop : vb 256 ((E 256 n).drop len) = ((E 256 n).getD len 0).toNat := by
      rw [vb_drop 256 _ len (by omega), List.drop_eq_nil_of_le (by omega)]; simp [vb]
    have hlo := vb_lt 256 ((E 256 n).take len) (dg_take 256 _ hd len)
    rw [List.length_take, Nat.min_eq_left (by omega)] at hlo
    rw [hv, hdrop] at hs
    have hc0 : ((E 256 n).getD len 0).toNat ≠ 0 := fun e => hlast (UInt8.toNat_inj.1 (by rw [e]; rfl))
    have hc8 : ((E 256 n).getD len 0).toNat < 256 := UInt8.toNat_lt _
    obtain ⟨b1, b2, b3⟩ := bitLen_b _ hc8 hc0
    have hbl : bl n = 8 * len + Lib.bitLen ((E 256 n).getD len 0).toNat := by
      have hrev : (E 256 n).reverse = (E 256 n).getD len 0 :: ((E 256 n).take len).reverse := by
        have h1 : E 256 n = (E 256 n).take len ++ [(E 256 n).getD len 0] := by
          conv => lhs; rw [← List.take_append_drop len (E 256 n)]
          congr 1
          rw [List.drop_eq_getElem_cons (by omega), List.drop_eq_nil_of_le (by omega), List.getD_eq_getElem?_getD, List.getElem?_eq_getElem (by omega)]; rfl
        conv => lhs; rw [h1]
        simp
      unfold bl
      rw [hrev]
      show 8 * ((E 256 n).take len).reverse.length + _ = _
      rw [List.length_reverse, List.length_take, Nat.min_eq_left (by omega)]
    generalize ((E 256 n).getD len 0).toNat = c at *
    generalize Lib.bitLen c = t at *
    generalize vb 256 ((E 256 n).take len) = lo at *
    have e256 : (256 : Nat) ^ len = 2 ^ (8 * len) := by rw [show (256 : Nat) = 2 ^ 8 by decide, ← Nat.pow_mul]
    rw [e256] at hs hlo
    have hup : n < 2 ^ (8 * len + t) := by
      rw [Nat.pow_add]
      have : 2 ^ (8 * len) * (c + 1) ≤ 2 ^ (8 * len) * 2 ^ t := Nat.mul_le_mul_left _ b3
      rw [Nat.mul_add, Nat.mul_one] at this
      omega
    have hdn : 2 ^ (8 * len + t - 1) ≤ n := by
      rw [show 8 * len + t - 1 = 8 * len + (t - 1) by omega, Nat.pow_add]
      have : 2 ^ (8 * len) * 2 ^ (t - 1) ≤ 2 ^ (8 * len) * c := Nat.mul_le_mul_left _ b2
      omega
    rw [hbl]
    constructor
    · intro h
      exact Nat.lt_of_lt_of_le hup (Nat.pow_le_pow_right (by omega) h)
    · intro h
      by_cases g : 8 * len + t ≤ k
      · exact g
      · have : 2 ^ k ≤ 2 ^ (8 * len + t - 1) := Nat.pow_le_pow_right (by omega) (by omega)
        omega
/-- whether a number fits, as the limit says it -/
theorem fits_iff (z : Int) (k : Nat) (hk : 1 ≤ k) : decide ((bl (fitN z) : Int) < (k : Int)) = (if neg z then decide (z.natAbs ≤ 2 ^ (k - 1)) else decide (z.natAbs < 2 ^ (k - 1))) := by
  have h := bl_le (fitN z) (k - 1)
  have hp : 0 < 2 ^ (k - 1) := Nat.pow_pos (by omega)
  unfold neg fitN at *
  by_cases hz : z < 0
  · rw [if_pos hz] at h
    rw [if_pos hz, decide_eq_true hz, if_pos rfl, decide_eq_decide]
    omega
  · rw [if_neg hz] at h
    rw [if_neg hz, decide_eq_false hz, if_neg (by decide), decide_eq_decide]
    omega

/-- the bytes of a text, in memory -/
theorem conv_rbs (w : World) (s : ByteArray) (hs : s.size ≤ 100000) : ∃ (cap : Nat) (w1 : World), (convert 9 26 (.string s)).run Try.prog w = .ok (.slice (some ⟨w.heap.size, 0, none⟩) s.data.toList.length cap) w1 ∧ Rb w1 (some ⟨w.heap.size, 0, none⟩) s.data.toList ∧ Below w.heap.size w w1 := by
  have hcv := Lib.run_convert_string_bytes (P := Try.prog) w 9 26 5 s Try.underlying9 Try.underlying26 Try.underlying5
  have hl : s.data.toList.length = s.size := by simp
  refine ⟨grownCap w s.size 0 5, Lib.bytesWorld w 5 s, ?_, .inr ⟨w.heap.size, 0, rfl, by rw [Lib.bytesWorld_size]; omega, fun i hi => ?_⟩, ⟨rfl, rfl, rfl, by rw [Lib.bytesWorld_size]; omega, fun k hk => Lib.bytesWorld_at_old w _ s k hk⟩⟩
  · rw [hcv, hl]
  · rw [Nat.zero_add, Lib.bytesWorld_cell w 5 s i (by omega)]

/-- what comes back of a calculation, as a number's text or as an error -/
def OvP (z : Int) (w : World) (e : Ending) (w' : World) : Prop := e = .returned (.tuple #[.string (ov z), .int .i64 (oe z)]) ∧ Below w.heap.size w w'
set_option maxRecDepth 100000 in
set_option maxHeartbeats 1000000 in
theorem ofMag_any (s : ByteArray) (b : Bool) (w : World) (hs : s.size ≤ 100000) : Calls Try.prog 31 #[.string s, .bool b] w (OvP (zi b (vm 256 s.data.toList)) w) := by
  obtain ⟨cap, w1, hcv, hrb, hbw⟩ := conv_rbs w s hs
  have hl : s.data.toList.length ≤ 1000000 := by have : s.data.toList.length = s.size := by simp
                                                 omega
  have HT : Hid (Calls Try.prog 40 #[.bool b, .slice (some ⟨w.heap.size, 0, none⟩) s.data.toList.length cap, .int .i64 (256 : Int)] w1 (OvP (zi b (vm 256 s.data.toList)) w1)) := Lib.hid (by
    by_cases h : (E 10 (vm 256 s.data.toList)).length ≤ 400
    · refine (textOf_ok s.data.toList b 256 (by omega) (by omega) _ cap w1 hrb hl h).mono fun e w' g => ⟨?_, g.2⟩
      have hsh : Sh (zi b (vm 256 s.data.toList)) := by unfold Sh; rw [zi_abs]; exact h
      rw [ov_yes hsh, oe_yes hsh]; exact g.1
    · refine (textOf_long s.data.toList b 256 (by omega) (by omega) _ cap w1 hrb hl (by omega)).mono fun e w' g => ⟨?_, g.2⟩
      have hsh : ¬ Sh (zi b (vm 256 s.data.toList)) := by unfold Sh; rw [zi_abs]; exact h
      rw [ov_no hsh, oe_no hsh]; exact g.1)
  have HF : Hid (∀ w', Below w1.heap.size w1 w' → OvP (zi b (vm 256 s.data.toList)) w (.returned (.tuple #[.string (ov (zi b (vm 256 s.data.toList))), .int .i64 (oe (zi b (vm 256 s.data.toList)))])) w') := Lib.hid fun w' h => ⟨rfl, hbw.trans (h.mono hbw.size)⟩
  clear hrb hbw hl hs
  unfold OvP at HT
  generalize OvP (zi b (vm 256 s.data.toList)) w = Po at *
  generalize ov (zi b (vm 256 s.data.toList)) = vo at *
  generalize oe (zi b (vm 256 s.data.toList)) = eo at *
  generalize s.data.toList.length = l at *
  go_enter Try.func31, Try.ntmps31
  go_wp2_with fail
  refine HT.out.mono ?_
  rintro e w2 ⟨rfl, h2⟩
  have hfin := Lib.hid (HF.out w2 h2)
  clear h2 hcv
  go_wp2
  exact hfin.out

set_option maxRecDepth 100000 in
set_option maxHeartbeats 4000000 in
/-- whether a number fits into so many bits -/
theorem refFits_any (z : Int) (bits : Int) (hbits : bits ≤ 9223372036854775807) (a : Option Addr) (cap : Nat) (w : World) (hr : Rb w a (E 10 z.natAbs)) (hs : (E 10 z.natAbs).length ≤ 400) :
    Calls Try.prog 33 #[.agg #[.bool (neg z), .slice a (E 10 z.natAbs).length cap], .int .i64 bits] w fun e w' => e = .returned (.bool (decide ((bl (fitN z) : Int) < bits))) ∧ Below w.heap.size w w' := by
  have HF : Hid (∀ w' r, Below w.heap.size w w' → r = decide ((bl (fitN z) : Int) < bits) → (fun (e : Ending) w' => e = .returned (.bool (decide ((bl (fitN z) : Int) < bits))) ∧ Below w.heap.size w w') (.returned (.bool r)) w') := Lib.hid fun w' r h1 h2 => ⟨by rw [h2], h1⟩
  generalize hPo : (fun (e : Ending) w' => e = .returned (.bool (decide ((bl (fitN z) : Int) < bits))) ∧ Below w.heap.size w w') = Po at *
  clear hPo
  obtain ⟨w0, hw0⟩ : ∃ w0, Hid (w0 = w.alloc (.cells #[.bool (neg z), .slice a (E 10 z.natAbs).length cap] 28)) := ⟨_, Lib.hid rfl⟩
  by_cases h1 : bits < 1
  · have hfin := Lib.hid (HF.out w0 false (by rw [hw0.out]; exact (Below.refl _ w).alloc (Nat.le_refl _) _) (by rw [decide_eq_false]; omega))
    clear HF hr hs
    generalize (E 10 z.natAbs).length = lz at *
    generalize neg z = bz at *
    go_enter Try.func33, Try.ntmps33
    go_wp2_with fail
    rw [← hw0.out]
    exact hfin.out
  · obtain ⟨B, rfl⟩ : ∃ B : Nat, bits = B := ⟨bits.toNat, by omega⟩
    have hB : 1 ≤ B := by omega
    have hfi := fits_iff z B hB
    -- the limits, and what they say
    obtain ⟨P, HP1, HPs, HPB, HPm⟩ : ∃ P : Nat → Nat, Hid (E 10 (P 1) = [1]) ∧ Hid (∀ k, 1 ≤ k → P (k + 1) = 2 * P k + 0) ∧ Hid (P B = 2 ^ (B - 1)) ∧ Hid (∀ k, k ≤ B → P k ≤ P B) := by
      refine ⟨fun k => 2 ^ (k - 1), Lib.hid (by decide), Lib.hid fun k hk => ?_, Lib.hid rfl, Lib.hid fun k hk => Nat.pow_le_pow_right (by omega) (by omega)⟩
      show 2 ^ (k + 1 - 1) = 2 * 2 ^ (k - 1) + 0
      rw [show k + 1 - 1 = (k - 1) + 1 by omega, Nat.pow_succ]; omega
    rw [← HPB.out] at hfi
    rw [hfi] at HF
    clear hfi
    have hsz0 : Hid (w0.heap.size = w.heap.size + 1) := by rw [hw0.out]; exact Lib.hid (by simp)
    have hbel0 : Hid (Below w.heap.size w w0) := by rw [hw0.out]; exact Lib.hid ((Below.refl _ w).alloc (Nat.le_refl _) _)
    have hcells : Hid (∀ wr, Below (w.heap.size + 1) w0 wr → wr.cell? ⟨w.heap.size, 0, none⟩ = some (.bool (neg z)) ∧ wr.cell? ⟨w.heap.size, 1, none⟩ = some (.slice a (E 10 z.natAbs).length cap) ∧ Rb wr a (E 10 z.natAbs) ∧ Below w.heap.size w wr) := Lib.hid fun wr h => by
      have hlt : w.heap.size < w.heap.size + 1 := Nat.lt_succ_self _
      refine ⟨?_, ?_, ?_, hbel0.out.trans (h.mono (Nat.le_succ _))⟩
      · rw [h.cell (p := ⟨w.heap.size, 0, none⟩) hlt, hw0.out, World.cell?_alloc_at _ _ _ _ rfl]; rfl
      · rw [h.cell (p := ⟨w.heap.size, 1, none⟩) hlt, hw0.out, World.cell?_alloc_at _ _ _ _ rfl]; rfl
      · exact hr.below (hbel0.out.trans (h.mono (Nat.le_succ _))) (Nat.le_refl _)
    have HSZ := Lib.hid (fun m ra rc W hx hy (hl : (E 10 m).length ≤ 1000000) => refSize_any z.natAbs m a ra cap rc W hx hy (by omega) hl)
    have HLT : Hid (∀ m, 401 < (E 10 m).length → z.natAbs < m) := Lib.hid fun m h => E_less_len 10 z.natAbs m (by omega) (by omega)
    clear hr
    generalize neg z = bz at *
    generalize hZ : z.natAbs = Z at *
    generalize (E 10 Z).length = lz at *
    go_enter Try.func33, Try.ntmps33
    go_wp2_with fail
    rw [← hw0.out]
    go_loopw [5, 6] (fun v i wr => ∃ (k : Nat) (ra : Option Addr) (rc : Nat), 1 ≤ k ∧ k ≤ B ∧ i = .int .i64 k ∧ v = .slice ra (E 10 (P k)).length rc ∧ (E 10 (P k)).length ≤ 405 ∧ Hid (Rb wr ra (E 10 (P k))) ∧ Below (w.heap.size + 1) w0 wr) (fun _ i _ => B - (intOf i).toNat)
    case atStart =>
      have hrow := (Row.new w0 5 [1]).rb
      rw [hsz0.out] at hrow
      refine ⟨1, some ⟨w.heap.size + 1, 0, none⟩, 1, Nat.le_refl _, hB, rfl, by rw [HP1.out]; rfl, by rw [HP1.out]; decide, Lib.hid (by rw [HP1.out]; exact hrow), (Below.refl _ w0).alloc (by have := hsz0.out; omega) _⟩
    case round =>
      obtain ⟨k, ra, rc, hk1, hkB, rfl, rfl, hlk, hrb, hbel⟩ := hrel
      by_cases hkl : k < B
      · have hkli : (k : Int) < (B : Int) := by omega
        by_cases hl4 : (E 10 (P k)).length ≤ 401
        · have HSC := Lib.hid (refScale_any (P k) 2 0 (by omega) (by omega) (by omega) ra rc wr hrb.out (by omega))
          have hl2 := len_scaled (P k) 2 0 401 (by omega) (by omega) hl4
          rw [← HPs.out k hk1] at HSC hl2
          have hl2h := Lib.hid hl2
          have hl4i : ((E 10 (P k)).length : Int) ≤ 401 := by omega
          have hsw := hbel.size
          clear hl2 HF HP1 HPs HPB HPm hcells HSZ HLT hrb hlk hl4
          generalize (E 10 (P k)).length = lk at *
          go_wp2_with fail
          refine HSC.out.mono ?_
          rintro e w2 ⟨na, nc, rfl, hr2, hc2, hb2'⟩
          have hbel2 := Lib.hid (hbel.trans (hb2'.mono (by have := hsz0.out; omega)))
          have hr2h := Lib.hid hr2
          clear hr2 hb2' HSC hbel
          go_wp2_with fail
          go_roundw
          case rel => exact ⟨k + 1, na, nc, by omega, by omega, by go_num, rfl, hl2h.out, hr2h, hbel2.out⟩
          case measure => simp [intOf]; omega
        · have hl4i : (401 : Int) < ((E 10 (P k)).length : Int) := by omega
          have hdone : decide (cmpN Z (P k) ≤ 0) = decide (Z ≤ P B) ∧ decide (cmpN Z (P k) < 0) = decide (Z < P B) := by
            have h1 := HLT.out (P k) (by omega)
            have h2 := HPm.out k hkB
            have hc : cmpN Z (P k) = -1 := by unfold cmpN; rw [if_pos h1]
            rw [hc]
            exact ⟨by rw [decide_eq_true (show Z ≤ P B by omega)]; rfl, by rw [decide_eq_true (show Z < P B by omega)]; rfl⟩
          obtain ⟨c0, c1, hra, hbw⟩ := hcells.out wr hbel
          have HS2 := Lib.hid (HSZ.out (P k) ra rc wr hra hrb.out (by omega))
          have hbwh := Lib.hid hbw
          have HD := Lib.hid hdone
          clear hdone hra hbw hbel HP1 HPs HPB HPm hcells HSZ HLT hrb
          generalize cmpN Z (P k) = c at *
          generalize (E 10 (P k)).length = lk at *
          cases bz
          · go_wp2_with fail
            refine HS2.out.mono ?_
            rintro e w2 ⟨rfl, h2⟩
            have hfin := Lib.hid (HF.out w2 (decide (c < 0)) (hbwh.out.trans (h2.mono hbwh.out.size)) (by rw [HD.out.2]; rfl))
            clear h2 HD HF
            go_wp2
            exact hfin.out
          · go_wp2_with fail
            refine HS2.out.mono ?_
            rintro e w2 ⟨rfl, h2⟩
            have hfin := Lib.hid (HF.out w2 (decide (c ≤ 0)) (hbwh.out.trans (h2.mono hbwh.out.size)) (by rw [HD.out.1]; rfl))
            clear h2 HD HF
            go_wp2
            exact hfin.out
      · obtain rfl : k = B := by omega
        have hkd : decide ((k : Int) < (k : Int)) = false := decide_eq_false (by omega)
        have hdone : decide (cmpN Z (P k) ≤ 0) = decide (Z ≤ P k) ∧ decide (cmpN Z (P k) < 0) = decide (Z < P k) := by
          unfold cmpN
          constructor
          · rw [decide_eq_decide]
            split
            · omega
            · split <;> omega
          · rw [decide_eq_decide]
            split
            · omega
            · split <;> omega
        obtain ⟨c0, c1, hra, hbw⟩ := hcells.out wr hbel
        have HS2 := Lib.hid (HSZ.out (P k) ra rc wr hra hrb.out (by omega))
        have hbwh := Lib.hid hbw
        have HD := Lib.hid hdone
        clear hdone hra hbw hbel HP1 HPs HPB HPm hcells HSZ HLT hrb
        generalize cmpN Z (P k) = c at *
        generalize (E 10 (P k)).length = lk at *
        cases bz
        · go_wp2_with fail
          refine HS2.out.mono ?_
          rintro e w2 ⟨rfl, h2⟩
          have hfin := Lib.hid (HF.out w2 (decide (c < 0)) (hbwh.out.trans (h2.mono hbwh.out.size)) (by rw [HD.out.2]; rfl))
          clear h2 HD HF
          go_wp2
          exact hfin.out
        · go_wp2_with fail
          refine HS2.out.mono ?_
          rintro e w2 ⟨rfl, h2⟩
          have hfin := Lib.hid (HF.out w2 (decide (c ≤ 0)) (hbwh.out.trans (h2.mono hbwh.out.size)) (by rw [HD.out.1]; rfl))
          clear h2 HD HF
          go_wp2
          exact hfin.out
end Go.Proofs.Ytmnopohjnbpinab
