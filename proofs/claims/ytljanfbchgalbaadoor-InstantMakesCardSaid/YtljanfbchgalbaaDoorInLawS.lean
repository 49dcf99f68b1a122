/-
  Helper: the walk of the statement InstantSettles.
-/
import Derived.Test.YtljanfbchgalbaaDoorInBack2
namespace Go.Proofs.YtljanfbchgalbaaDoor
open Go.RowKit
set_option linter.unusedVariables false

theorem mkB_data (l : List UInt8) : (mkB l).data.toList = l := rfl
theorem canL_len (sh : Nat) (f : List Nat) (na : Nat) (hb : ∀ k, f.getD k 0 ≤ 1000000000) (hna : na ≤ 999999999) : (canL sh f na).length ≤ 5000 := by
  have h1 := wrL_len f 0 3 45 hb (by omega)
  have h2 := wrL_len f 3 3 58 hb (by omega)
  have h3 := frL_len na hna
  unfold canL
  split
  · omega
  · split
    · rw [List.length_append]; omega
    · simp only [List.length_append, List.length_cons, List.length_nil]; omega
theorem ofT_data (y m d C na : Nat) : (ofT y m d C na).data.toList = canL 3 [y, m, d, C / 3600, C / 60 % 60, C % 60, 0, 0] na ++ [90] := by
  unfold ofT mkB; simp
open Classical in
/-- the text of a moment is read back as the moment -/
theorem of_back (n : Int) (k : Nat) (t : ByteArray) (h : OfR n k t 0) : momF (rd t.data.toList) = (n, k, 0) ∧ (locF (rd t.data.toList)) = (0, z8, 0, 3) ∧ t.size ≤ 6000 := by
  unfold OfR at h
  split at h
  · exact absurd h.2 (by omega)
  split at h
  · exact absurd h.2 (by omega)
  rename_i c1 c2
  obtain ⟨y, m, d, C, hD, hC, hn, rfl, _⟩ := h
  have hk : k ≤ 999999999 := by omega
  have hkk : (k : Int).toNat = k := by omega
  rw [hkk]
  obtain ⟨i0, i1, i2, i3, i4, i5⟩ := hD
  have hml := (ml_bound (leap y) m).2
  have hIR : IR 3 [y, m, d, C / 3600, C / 60 % 60, C % 60, 0, 0] := ⟨lims _ (by show y ≤ _; omega) (by show m ≤ _; omega) (by show d ≤ _; omega) (by show C / 3600 ≤ _; omega) (by show C / 60 % 60 ≤ _; omega) (by show C % 60 ≤ _; omega) (by show 0 ≤ _; omega) (by show 0 ≤ _; omega), .inr ⟨i0, i1, i2, i3, i4, i5⟩⟩
  have hr : rd (ofT y m d C k).data.toList = (true, 3, [y, m, d, C / 3600, C / 60 % 60, C % 60, 0, 0], k, 90) := by
    rw [ofT_data, rd_both _ k [90] hIR.small hk (.inr rfl) 3 (by omega) (by omega)]; rfl
  refine ⟨?_, ?_, ?_⟩
  · rw [hr]; unfold momF
    rw [if_pos ⟨rfl, rfl, by show (90 : Nat) ≠ 0; decide⟩, if_pos hIR]
    have hs : sec [y, m, d, C / 3600, C / 60 % 60, C % 60, 0, 0] 90 = n := by
      unfold sec
      rw [if_neg (by omega)]
      show dn y m d * 86400 + (3600 * ((C / 3600 : Nat) : Int) + 60 * ((C / 60 % 60 : Nat) : Int) + ((C % 60 : Nat) : Int) - (3600 * ((0 : Nat) : Int) + 60 * ((0 : Nat) : Int))) = n
      omega
    show (sec [y, m, d, C / 3600, C / 60 % 60, C % 60, 0, 0] 90, k, (0 : Int)) = (n, k, 0)
    rw [hs]
  · rw [hr]; unfold locF
    rw [if_neg (fun h => absurd (show (90 : Nat) = 0 from h.2) (by decide))]
  · have hl : (ofT y m d C k).size = (ofT y m d C k).data.toList.length := by simp
    rw [hl, ofT_data, List.length_append, List.length_singleton]
    have := canL_len 3 [y, m, d, C / 3600, C / 60 % 60, C % 60, 0, 0] k (fun j => by
      match j with
      | 0 => show y ≤ _; omega
      | 1 => show m ≤ _; omega
      | 2 => show d ≤ _; omega
      | 3 => show C / 3600 ≤ _; omega
      | 4 => show C / 60 % 60 ≤ _; omega
      | 5 => show C % 60 ≤ _; omega
      | 6 => show 0 ≤ _; omega
      | 7 => show 0 ≤ _; omega
      | j + 8 => show 0 ≤ _; omega) hk
    omega
open Classical in
theorem ins_ok (r : Rd) (a : ByteArray) (h : InsR (momF r) a 0) : InsR (momF (rd a.data.toList)) a 0 ∧ locF (rd a.data.toList) = (0, z8, 0, 3) ∧ a.size ≤ 6000 ∧ locF r = (0, z8, 0, 3) := by
  have hm : (momF r).2.2 = 0 := by
    unfold InsR at h
    split at h
    · assumption
    · exact h.2.symm
  have ho : OfR (momF r).1 (momF r).2.1 a 0 := by
    unfold InsR at h; rw [if_pos hm] at h; exact h
  obtain ⟨b1, b2, b3⟩ := of_back _ _ a ho
  refine ⟨?_, b2, b3, ?_⟩
  · rw [b1]; unfold InsR; rw [if_pos rfl]; exact ho
  · unfold momF at hm
    split at hm
    · rename_i c
      unfold locF
      rw [if_neg (fun e => c.2.2 e.2)]
    · exact absurd hm (by decide)
theorem f3_ir (f : List Nat) (h : IR 1 f) : IR 1 (f3 f) := ⟨lims _ (h.1 0 (by omega)) (h.1 1 (by omega)) (h.1 2 (by omega)) (Nat.zero_le _) (Nat.zero_le _) (Nat.zero_le _) (Nat.zero_le _) (Nat.zero_le _), .inr (h.2.resolve_left (by omega))⟩
theorem f2_ir (f : List Nat) (h : IR 2 f) : IR 2 (f2 f) := ⟨lims _ (Nat.zero_le _) (Nat.zero_le _) (Nat.zero_le _) (h.1 3 (by omega)) (h.1 4 (by omega)) (h.1 5 (by omega)) (Nat.zero_le _) (Nat.zero_le _), .inl rfl⟩
theorem f6_ir (sh : Nat) (f : List Nat) (h : IR sh f) (h2 : sh ≠ 2) : IR 3 (f6 f) := ⟨lims _ (h.1 0 (by omega)) (h.1 1 (by omega)) (h.1 2 (by omega)) (h.1 3 (by omega)) (h.1 4 (by omega)) (h.1 5 (by omega)) (Nat.zero_le _) (Nat.zero_le _), .inr (h.2.resolve_left h2)⟩
open Classical in
theorem loc_back (sh : Nat) (f : List Nat) (na : Nat) (h : IR sh f) (hna : na ≤ 999999999) : locT (locF (rd (canL sh f na))) = mkB (canL sh f na) ∧ (locF (rd (canL sh f na))).2.2.2 = 0 := by
  by_cases h1 : sh = 1
  · subst h1
    have e : locF (rd (canL 1 f na)) = (1, f3 f, 0, 0) := by
      rw [rd_date f na h.small]; unfold locF
      rw [if_pos ⟨rfl, rfl⟩, if_pos (f3_ir f h)]
    rw [e]
    refine ⟨?_, rfl⟩
    unfold locT
    rw [if_pos rfl]
    show mkB (canL 1 (f3 f) 0) = _
    unfold canL; rw [if_pos rfl, if_pos rfl]; rfl
  by_cases h2 : sh = 2
  · subst h2
    have e : locF (rd (canL 2 f na)) = (2, f2 f, na, 0) := by
      rw [rd_time f na h.small hna]; unfold locF
      rw [if_pos ⟨rfl, rfl⟩, if_pos (f2_ir f h)]
    rw [e]
    refine ⟨?_, rfl⟩
    unfold locT
    rw [if_pos rfl]
    show mkB (canL 2 (f2 f) na) = _
    unfold canL; rw [if_neg (by omega), if_pos rfl, if_neg (by omega), if_pos rfl]; rfl
  · have e : locF (rd (canL sh f na)) = (3, f6 f, na, 0) := by
      have hr := rd_both f na [] h.small hna (.inl rfl) sh h1 h2
      rw [List.append_nil] at hr
      rw [hr]; unfold locF
      rw [if_pos ⟨rfl, rfl⟩, if_pos (f6_ir sh f h h2)]
    rw [e]
    refine ⟨?_, rfl⟩
    unfold locT
    rw [if_pos rfl]
    show mkB (canL 3 (f6 f) na) = _
    unfold canL; rw [if_neg (by omega), if_neg (by omega), if_neg h1, if_neg h2]; rfl
open Classical in
theorem loc_ok (r : Rd) (hG : Good r) (h : (locF r).2.2.2 = 0) : locT (locF (rd (locT (locF r)).data.toList)) = locT (locF r) ∧ (locF (rd (locT (locF r)).data.toList)).2.2.2 = 0 ∧ (locT (locF r)).size ≤ 6000 ∧ momF r = (0, 0, 3) := by
  have hc : r.1 = true ∧ r.2.2.2.2 = 0 ∧ IR r.2.1 r.2.2.1 := by
    unfold locF at h
    split at h
    · rename_i c
      split at h
      · rename_i c2; exact ⟨c.1, c.2, c2⟩
      · exact absurd h (by decide)
    · exact absurd h (by decide)
  have e : locF r = (r.2.1, r.2.2.1, r.2.2.2.1, 0) := by
    unfold locF; rw [if_pos ⟨hc.1, hc.2.1⟩, if_pos hc.2.2]
  have eT : locT (locF r) = mkB (canL r.2.1 r.2.2.1 r.2.2.2.1) := by
    rw [e]; unfold locT; rw [if_pos rfl]
  have hb := loc_back r.2.1 r.2.2.1 r.2.2.2.1 hc.2.2 hG.2.1
  refine ⟨?_, ?_, ?_, ?_⟩
  · rw [eT, mkB_data]; exact hb.1
  · rw [eT, mkB_data]; exact hb.2
  · rw [eT, mkB_size]
    have := canL_len r.2.1 r.2.2.1 r.2.2.2.1 hG.1.2 hG.2.1
    omega
  · unfold momF; rw [if_neg (fun g => g.2.2 hc.2.1)]
theorem loc_no (x : Lc) (h : x.2.2.2 ≠ 0) : locT x = ⟨#[]⟩ := by unfold locT; rw [if_neg h]
set_option maxRecDepth 100000 in
set_option maxHeartbeats 8000000 in
theorem walkInstantSettles (w : World) (hT : Tabs w) (s : ByteArray) (hs : s.size ≤ maxLen) : Calls Tryd.prog 9 #[.string s] w (BoolW true w) := by
  have HA := Lib.hid (awake_any w hT)
  unfold BoolW at HA
  have HT : Hid (∀ W, Below w.heap.size w W → Tabs W) := fun W hb => hT.below hb hT.1
  have HF : Hid (∀ w', Below w.heap.size w w' → BoolW true w (.returned (.bool true)) w') := fun w' h => ⟨rfl, h⟩
  generalize BoolW true w = Po at *
  clear hT
  unfold maxLen at hs
  have hs2 : (s.size : Int) ≤ 9223372036854775807 := by omega
  by_cases la : 200 < s.size
  · have la2 : (200 : Int) < (s.size : Int) := by omega
    go_enter Tryd.func9, Tryd.ntmps9
    go_wp2_with fail
    refine HA.out.mono ?_
    rintro e w1 ⟨rfl, hb1⟩
    have hfin := Lib.hid (HF.out _ hb1)
    clear hb1
    go_wp2
    exact hfin.out
  have la3 : ¬ (200 : Int) < (s.size : Int) := by omega
  have H1 := Lib.hid (fun W hW => Instant_any s W hW (by omega))
  have H2 := Lib.hid (fun W hW => Local_any s W hW (by omega))
  unfold InsP at H1
  unfold StrE at H2
  have F1 : Hid (∀ a, InsR (momF (rd s.data.toList)) a 0 → (locF (rd s.data.toList)).2.2.2 = 3 ∧ locT (locF (rd s.data.toList)) = ⟨#[]⟩ ∧ Hid (∀ W, Tabs W → Calls Tryd.prog 11 #[.string a] W fun e w' => e = .returned (.tuple #[.string a, .int .i64 0]) ∧ Below W.heap.size W w') ∧ Hid (∀ W, Tabs W → Calls Tryd.prog 16 #[.string a] W fun e w' => e = .returned (.int .i64 0) ∧ Below W.heap.size W w')) := fun a h => by
    obtain ⟨i1, i2, i3, i4⟩ := ins_ok _ a h
    refine ⟨by rw [i4], by rw [i4]; rfl, Lib.hid fun W hW => (Instant_any a W hW (by omega)).mono fun e w' ⟨t, en, h1, h2, h3⟩ => ?_, Lib.hid fun W hW => (Shape_any a W hW (by omega)).mono fun e w' ⟨h1, h2⟩ => ?_⟩
    · obtain ⟨rfl, rfl⟩ := h1.det i1
      exact ⟨h2, h3⟩
    · have hz : shpF (locF (rd a.data.toList)) a = 0 := by
        rw [i2]; unfold shpF; rw [if_neg (fun g => absurd g.1 (by decide))]
      rw [hz] at h1
      exact ⟨h1, h2⟩
  have F2 : Hid ((locF (rd s.data.toList)).2.2.2 = 0 → Hid (∀ W, Tabs W → Calls Tryd.prog 13 #[.string (locT (locF (rd s.data.toList)))] W fun e w' => e = .returned (.tuple #[.string (locT (locF (rd s.data.toList))), .int .i64 0]) ∧ Below W.heap.size W w') ∧ ∀ a en, InsR (momF (rd s.data.toList)) a en → en = 3) := fun h => by
    obtain ⟨i1, i2, i3, i4⟩ := loc_ok _ (rd_good s.data.toList) h
    refine ⟨Lib.hid fun W hW => (Local_any _ W hW (by omega)).mono fun e w' ⟨h1, h2⟩ => ?_, fun a en h => ?_⟩
    · rw [i1, i2] at h1
      exact ⟨h1, h2⟩
    · rw [i4] at h
      unfold InsR at h
      rw [if_neg (by decide)] at h
      exact h.2
  have F3 : Hid ((locF (rd s.data.toList)).2.2.2 ≠ 0 → locT (locF (rd s.data.toList)) = ⟨#[]⟩) := fun h => loc_no _ h
  generalize locT (locF (rd s.data.toList)) = b at *
  generalize (locF (rd s.data.toList)).2.2.2 = f at *
  generalize momF (rd s.data.toList) = m at *
  clear hs la
  go_enter Tryd.func9, Tryd.ntmps9
  go_wp2_with fail
  refine HA.out.mono ?_
  rintro e w1 ⟨rfl, hb1⟩
  have hB1 : Hid (Below w.heap.size w w1) := hb1
  clear hb1
  go_wp2_with fail
  refine (H1.out _ (HT.out _ hB1.out)).mono ?_
  rintro e w2 ⟨a, en, hI, rfl, hb2⟩
  have hB2 := bt hB1 hb2
  have hIh := Lib.hid hI
  clear hb2 hI
  go_wp2_with fail
  refine (H2.out _ (HT.out _ hB2.out)).mono ?_
  rintro e w3 ⟨rfl, hb3⟩
  have hB3 := bt hB2 hb3
  clear hb3
  by_cases hen : en = 0
  · subst hen
    obtain ⟨rfl, rfl, C1, C2⟩ := F1.out a hIh.out
    clear F1 F2 F3 hIh H1 H2
    go_wp2_with fail
    refine (C1.out _ (HT.out _ hB3.out)).mono ?_
    rintro e w4 ⟨rfl, hb4⟩
    have hB4 := bt hB3 hb4
    clear hb4
    go_wp2_with fail
    refine (C2.out _ (HT.out _ hB4.out)).mono ?_
    rintro e w5 ⟨rfl, hb5⟩
    have hfin := Lib.hid (HF.out _ (bt hB4 hb5).out)
    clear hb5
    go_wp2
    exact hfin.out
  · by_cases hf : f = 0
    · subst hf
      obtain ⟨C1, hen3⟩ := F2.out (by first | rfl | trivial)
      obtain rfl : en = 3 := hen3 a en hIh.out
      clear F1 F2 F3 hIh H1 H2 hen3 hen
      go_wp2_with fail
      refine (C1.out _ (HT.out _ hB3.out)).mono ?_
      rintro e w4 ⟨rfl, hb4⟩
      have hfin := Lib.hid (HF.out _ (bt hB3 hb4).out)
      clear hb4
      go_wp2
      exact hfin.out
    · obtain rfl := F3.out hf
      have hfin := Lib.hid (HF.out _ hB3.out)
      clear F1 F2 F3 hIh H1 H2
      go_wp2
      exact hfin.out
end Go.Proofs.YtljanfbchgalbaaDoor
