/-
  Helper: the walk of the statement InstantSettles.
-/
import Derived.Test.YtckeefjmamggmaaDoorInBack2
namespace Go.Proofs.YtckeefjmamggmaaDoor
open Go.RowKit
set_option linter.unusedVariables false

theorem mkB_data (l : List UInt8) : (mkB l).data.toList = l := rfl
theorem canL_len (sh : Nat) (f : List Nat) (na : Nat) (hb : ∀ k, f.getD k 0 ≤ 1000000000) (hna : na ≤ 999999999) : (canL sh f na).length ≤ 5000 := by
  have h1 := wrL_len f 0 3 45 hb (by omega)
  have h2 := wrL_len f 3 3 58 hb (by omega)
  have h3 := frL_len na hna
  unfold canL
  split
  · omega
  · split
    · rw [List.length_append]; omega
    · simp only [List.length_append, List.length_cons, List.length_nil]; omega
theorem ofT_data (y m d C na : Nat) : (ofT y m d C na).data.toList = canL 3 [y, m, d, C / 3600, C / 60 % 60, C % 60, 0, 0] na ++ [90] := by
  unfold ofT mkB; simp
open Classical in
/-- the text of a moment is read back as the moment -/
theorem of_back (n : Int) (k : Nat) (t : ByteArray) (h : OfR n k t 0) : momF (rd t.data.toList) = (n, k, 0) ∧ (locF (rd t.data.toList)) = (0, z8, 0, 3) ∧ t.size ≤ 6000 := by
  unfold OfR at h
  split at h
  · exact absurd h.2 (by omega)
  split at h
  · exact absurd h.2 (by omega)
  rename_i c1 c2
  obtain ⟨y, m, d, C, hD, hC, hn, rfl, _⟩ := h
  have hk : k ≤ 999999999 := by omega
  have hkk : (k : Int).toNat = k := by omega
  rw [hkk]
  obtain ⟨i0, i1, i2, i3, i4, i5⟩ := hD
  have hml := (ml_bound (leap y) m).2
  have hIR : IR 3 [y, m, d, C / 3600, C / 60 % 60, C % 60, 0, 0] := ⟨lims _ (by show y ≤ _; omega) (by show m ≤ _; omega) (by show d ≤ _; omega) (by show C / 3600 ≤ _; omega) (by show C / 60 % 60 ≤ _; omega) (by show C % 60 ≤ _; omega) (by show 0 ≤ _; omega) (by show 0 ≤ _; omega), .inr ⟨i0, i1, i2, i3, i4, i5⟩⟩
  have hr : rd (ofT y m d C k).data.toList = (true, 3, [y, m, d, C / 3600, C / 60 % 60, C % 60, 0, 0], k, 90) := by
    rw [ofT_data, rd_both _ k [90] hIR.small hk (.inr rfl) 3 (by omega) (by omega)]; rfl
  refine ⟨?_, ?_, ?_⟩
  · rw [hr]; unfold momF
    rw [if_pos ⟨rfl, rfl, by show (90 : Nat) ≠ 0; decide⟩, if_pos hIR]
    have hs : sec [y, m, d, C / 3600, C / 60 % 60, C % 60, 0, 0] 90 = n := by
      unfold sec
      rw [if_neg (by omega)]
      show dn y m d * 86400 + (3600 * ((C / 3600 : Nat) : Int) + 60 * ((C / 60 % 60 : Nat) : Int) + ((C % 60 : Nat) : Int) - (3600 * ((0 : Nat) : Int) + 60 * ((0 : Nat) : Int))) = n
      omega
    show (sec [y, m, d, C / 3600, C / 60 % 60, C % 60, 0, 0] 90, k, (0 : Int)) = (n, k, 0)
    rw [hs]
  · rw [hr]; unfold locF
    rw [if_neg (fun h => absurd (show (90 : Nat) = 0 from h.2) (by decide))]
  · have hl : (ofT y m d C k).size = (ofT y m d C k).data.toList.length := by simp
    rw [hl, ofT_data, List.length_append, List.length_singleton]
    have := canL_len 3 [y, m, d, C / 3600, C / 60 % 60, C % 60, 0, 0] k (fun j => by
      match j with
      | 0 => show y ≤ _; omega
      | 1 => show m ≤ _; omega
      | 2 => show d ≤ _; omega
      | 3 => show C / 3600 ≤ _; omega
      | 4 => show C / 60 % 60 ≤ _; omega
      | 5 => show C % 60 ≤ _; omega
      | 6 => show 0 ≤ _; omega
      | 7 => show 0 ≤ _; omega
      | j + 8 => show 0 ≤ _; omega) hk
    omega
open Classical in
theorem ins_ok (r : Rd) (a : ByteArray) (h : InsR (momF r) a 0) : InsR (momF (rd a.data.toList)) a 0 ∧ locF (rd a.data.toList) = (0, z8, 0, 3) ∧ a.size ≤ 6000 ∧ locF r = (0, z8, 0, 3) := by
  have hm : (momF r).2.2 = 0 := by
    unfold InsR at h
    split at h
    · assumption
    · exact h.2.symm
  have ho : OfR (momF r).1 (momF r).2.1 a 0 := by
    unfold InsR at h; rw [if_pos hm] at h; exact h
  obtain ⟨b1, b2, b3⟩ := of_back _ _ a ho
  refine ⟨?_, b2, b3, ?_⟩
  · rw [b1]; unfold InsR; rw [if_pos rfl]; exact ho
  · unfold momF at hm
    split at hm
    · rename_i c
      unfold locF
      rw [if_neg (fun e => c.2.2 e.2)]
    · exact absurd hm (by decide)
theorem f3_ir (f : List Nat) (h : IR 1 f) : IR 1 (f3 f) := ⟨lims _ (h.1 0 (by omega)) (h.1 1 (by omega)) (h.1 2 (by omega)) (Nat.zero_le _) (Nat.zero_le _) (Nat.zero_le _) (Nat.zero_le _) (Nat.zero_le _), .inr (h.2.resolve_left (by omega))⟩
theorem f2_ir (f : List Nat) (h : IR 2 f) : IR 2 (f2 f) := ⟨lims _ (Nat.zero_le _) (Nat.zero_le _) (Nat.zero_le _) (h.1 3 (by omega)) (h.1 4 (by omega)) (h.1 5 (by omega)) (Nat.zero_le _) (Nat.zero_le _), .inl rfl⟩
theorem f6_ir (sh : Nat) (f : List Nat) (h : IR sh f) (h2 : sh ≠ 2) : IR 3 (f6 f) := ⟨lims _ (h.1 0 (by omega)) (h.1 1 (by omega)) (h.1 2 (by omega)) (h.1 3 (by omega)) (h.1 4 (by omega)) (h.1 5 (by omega)) (Nat.zero_le _) (Nat.zero_le _), .inr (h.2.resolve_left h2)⟩
open Classical in
theorem loc_back (sh : Nat) (f : List Nat) (na : Nat) (h : IR sh f) (hna : na ≤ 999999999) : locT (locF (rd (canL sh f na))) = mkB (canL sh f na) ∧ (locF (rd (canL sh f na))).2.2.2 = 0 := by
  by_cases h1 : sh = 1
  · subst h1
    have e : locF (rd (canL 1 f na)) = (1, f3 f, 0, 0) := by
      rw [rd_date f na h.small]; unfold locF
      rw [if_pos ⟨rfl, rfl⟩, if_pos (f3_ir f h)]
    rw [e]
    refine ⟨?_, rfl⟩
    unfold locT
    rw [if_pos rfl]
    show mkB (canL 1 (f3 f) 0) = _
    unfold canL; rw [if_pos rfl, if_pos rfl]; rfl
  by_cases h2 : sh = 2
  · subst h2
    have e : locF (rd (canL 2 f na)) = (2, f2 f, na, 0) := by
      rw [rd_time f na h.small hna]; unfold locF
      rw [if_pos ⟨rfl, rfl⟩, if_pos (f2_ir f h)]
    rw [e]
    refine ⟨?_, rfl⟩
    unfold locT
    rw [if_pos rfl]
    show mkB (canL 2 (f2 f) na) = _
    unfold canL; rw [if_neg (by omega), if_pos rfl, if_neg (by omega), if_pos rfl]; rfl
  · have e : locF (rd (canL sh f na)) = (3, f6 f, na, 0) := by
      have hr := rd_both f na [] h.small hna (.inl rfl) sh h1 h2
      rw [List.append_nil] at hr
      rw [hr]; unfold locF
      rw [if_pos ⟨rfl, rfl⟩, if_pos (f6_ir sh f h h2)]
    rw [e]
    refine ⟨?_, rfl⟩
    unfold locT
    rw [if_pos rfl]
    show mkB (canL 3 (f6 f) na) = _
    unfold canL; rw [if_neg (by omega), if_neg (by omega), if_neg h1, if_neg h2]; rfl
open Classical in
theorem loc_ok (r : Rd) (hG : Good r) (h : (locF r).2.2.2 = 0) : locT (locF (rd (locT (locF r)).data.toList)) = locT (locF r) ∧ (locF (rd (locT (locF r)).data.toList)).2.2.2 = 0 ∧ (locT (locF r)).size ≤ 6000 ∧ momF r = (0, 0, 3) := by
  have hc : r.1 = true ∧ r.2.2.2.2 = 0 ∧ IR r.2.1 r.2.2.1 := by
    unfold locF at h
    split at h
    · rename_i c
      split at h
      · rename_i c2; exact ⟨c.1, c.2, c2⟩
      · exact absurd h (by decide)
    · exact absurd h (by decide)
  have e : locF r = (r.2.1, r.2.2.1, r.2.2.2.1, 0) := by
    unfold locF; rw [if_pos ⟨hc.1, hc.2.1⟩, if_pos hc.2.2]
  have eT : locT (locF r) = mkB (canL r.2.1 r.2.2.1 r.2.2.2.1) := by
    rw [e]; unfold locT; rw [if_pos rfl]
  have hb := loc_back r.2.1 r.2.2.1 r.2.2.2.1 hc.2.2 hG.2.1
  refine ⟨?_, ?_, ?_, ?_⟩
  · rw [eT, mkB_data]; exact hb.1
  · rw [eT, mkB_data]; exact hb.2
  · rw [eT, mkB_size]
    have := canL_len r.2.1 r.2.2.1 r.2.2.2.1 hG.1.2 hG.2.1
    omega
  · unfold momF; rw [if_neg (fun g => g.2.2 hc.2.1)]
theorem loc_no (x : Lc) (h : x.2.2.2 ≠ 0) : locT x = ⟨#[]⟩ := by unfold locT; rw [if_neg h]
end Go.Proofs.YtckeefjmamggmaaDoor
