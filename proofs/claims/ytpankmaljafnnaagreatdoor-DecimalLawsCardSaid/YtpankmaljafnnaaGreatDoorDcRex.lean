/-
  Helper: the walk of decimal.readExponent.
-/
import Derived.Test.YtpankmaljafnnaaGreatDoorDcInt
namespace Go.Proofs.YtpankmaljafnnaaGreatDoor
open Go.RowKit
set_option linter.unusedVariables false
set_option linter.unusedSimpArgs false

/-- the size of an exponent, cut to a limit -/
def satE (L : Int) (l : List UInt8) : Int := l.foldl (fun s c => min (10 * s + ((c.toNat - 48 : Nat) : Int)) L) 0
/-- what stands behind the letter and the sign -/
def expT (l : List UInt8) : List UInt8 := if l.tail.head? = some 45 then l.tail.tail else if l.tail.head? = some 43 then l.tail.tail else l.tail
def rexF (l : List UInt8) (L : Int) : Int × Bool :=
  if l = [] then (0, true)
  else if l.head? ≠ some 101 ∧ l.head? ≠ some 69 then (0, false)
  else if cutD (expT l) = 0 ∨ cutD (expT l) < (expT l).length then (0, false)
  else (if l.tail.head? = some 45 then - satE L (expT l) else satE L (expT l), true)
theorem satE_snoc (L : Int) (l : List UInt8) (k : Nat) (h : k < l.length) : satE L (l.take (k + 1)) = min (10 * satE L (l.take k) + (((l.getD k 0).toNat - 48 : Nat) : Int)) L := by
  unfold satE
  rw [List.take_add_one, List.getElem?_eq_getElem h, List.getD_eq_getElem?_getD, List.getElem?_eq_getElem h]
  show List.foldl _ 0 (_ ++ [l[k]]) = _
  rw [List.foldl_append]; rfl
theorem satE_bd (L : Int) (hL : 0 ≤ L) (l : List UInt8) : 0 ≤ satE L l ∧ satE L l ≤ L := by
  suffices h : ∀ r : List UInt8, 0 ≤ satE L r.reverse ∧ satE L r.reverse ≤ L by
    have := h l.reverse
    rwa [List.reverse_reverse] at this
  intro r
  induction r with
  | nil => exact ⟨Int.le_refl _, hL⟩
  | cons c r ih =>
    unfold satE at ih ⊢
    rw [List.reverse_cons, List.foldl_append]
    simp only [List.foldl_cons, List.foldl_nil]
    omega
/-- the call of TrimPrefix at '+' -/
theorem trim_plus (s : ByteArray) (w : World) : Calls Tryz.prog 82 #[.string s, .string ⟨#[43]⟩] w fun e w' => e = .returned (.string (mkB (if s.data.toList.head? = some 43 then s.data.toList.tail else s.data.toList))) ∧ w = w' :=
  (Tryz.strings_TrimPrefix s ⟨#[43]⟩ w).mono fun e w' ⟨he, hw⟩ => ⟨by rw [he, (pre_char s.data.toList 43).2]; rfl, hw.symm⟩
theorem tw_take : ∀ (l : List UInt8), l.takeWhile isD = l.take (cutD l)
  | [] => rfl
  | c :: l => by
    unfold cutD
    rw [List.takeWhile_cons]
    split
    · have ih := tw_take l
      unfold cutD at ih
      rw [List.length_cons, List.take_succ_cons, ← ih]
    · rfl
theorem tw_all : ∀ (l : List UInt8) (c : UInt8), c ∈ l.takeWhile isD → isD c = true
  | [], c, h => by simp at h
  | d :: l, c, h => by
    rw [List.takeWhile_cons] at h
    split at h
    · rename_i hd
      rcases List.mem_cons.1 h with rfl | h
      · exact hd
      · exact tw_all l c h
    · simp at h
theorem empty_no (t : ByteArray) (h : 0 < t.size) : t.toList.isEmpty = false := by
  cases h2 : t.toList.isEmpty with
  | false => rfl
  | true => exact absurd (by rw [List.isEmpty_iff, Lib.toList_data] at h2; have := congrArg List.length h2; rw [← Lib.size_eq] at this; exact this) (show ¬ t.size = 0 by omega)
theorem empty_yes (t : ByteArray) (h : t.size = 0) : t.toList = [] := by
  rw [Lib.toList_data]; exact List.eq_nil_of_length_eq_zero (by rw [← Lib.size_eq]; exact h)
def ReP (r : Int × Bool) (w : World) (en : Ending) (w' : World) : Prop := en = .returned (.tuple #[.int .i64 r.1, .bool r.2]) ∧ Below w.heap.size w w'
set_option maxRecDepth 100000 in
set_option maxHeartbeats 4000000 in
theorem rex_any (s : ByteArray) (L : Int) (hL0 : 0 ≤ L) (hL1 : L ≤ 1000000) (hs : s.size ≤ 100000) (w : World) :
    Calls Tryz.prog 64 #[.string s, .int .i64 L] w (ReP (rexF s.data.toList L) w) := by
  have hlen : s.data.toList.length = s.size := by simp
  have HF : Hid (∀ v b w', rexF s.data.toList L = (v, b) → Below w.heap.size w w' → ReP (rexF s.data.toList L) w (Ending.returned (.tuple #[.int .i64 v, .bool b])) w') := fun v b w' h1 h2 => by rw [h1]; exact ⟨rfl, h2⟩
  generalize ReP (rexF s.data.toList L) w = Po at *
  by_cases h0 : s.size = 0
  · have hn : s.data.toList = [] := List.eq_nil_of_length_eq_zero (by omega)
    have hte := empty_yes s h0
    have hfin := Lib.hid (HF.out 0 true w (by unfold rexF; rw [if_pos hn]) (Below.refl _ _))
    clear HF hn
    go_enter Tryz.func64, Tryz.ntmps64
    go_wp2
    exact hfin.out
  · have hte := empty_no s (by omega)
    have hpos : 0 < s.size := by omega
    have hcons : s.data.toList = s[0] :: s.data.toList.drop 1 := by
      rw [← List.drop_zero (l := s.data.toList), List.drop_eq_getElem_cons (by omega)]; rfl
    have hhead : s.data.toList.head? = some s[0] := by rw [hcons]; rfl
    have hne : s.data.toList ≠ [] := by rw [hcons]; simp
    have hi : ∀ c : UInt8, s[0] = c ↔ (s[0].toNat : Int) = (c.toNat : Int) := fun c => ⟨fun h => by rw [h], fun h => UInt8.toNat_inj.1 (by omega)⟩
    by_cases hx : s[0] ≠ 101 ∧ s[0] ≠ 69
    · have hfin := Lib.hid (HF.out 0 false w (by unfold rexF; rw [if_neg hne, if_pos ⟨by rw [hhead]; simpa using hx.1, by rw [hhead]; simpa using hx.2⟩]) (Below.refl _ _))
      have d1 : ((s[0].toNat : Int) != 101) = true := by rw [bne_iff_ne]; intro g; exact hx.1 ((hi 101).2 g)
      have d2 : ((s[0].toNat : Int) != 69) = true := by rw [bne_iff_ne]; intro g; exact hx.2 ((hi 69).2 g)
      clear HF hcons hhead hne hi hx h0
      go_enter Tryz.func64, Tryz.ntmps64
      go_wp2
      exact hfin.out
    · -- the letter
      have hlet : Hid (((s[0].toNat : Int) != 101) = false ∨ (((s[0].toNat : Int) != 101) = true ∧ ((s[0].toNat : Int) != 69) = false)) := by
        show _ ∨ _
        by_cases g : s[0] = 101
        · left; rw [g]; rfl
        · right
          have g2 : s[0] = 69 := Classical.byContradiction fun g2 => hx ⟨g, g2⟩
          exact ⟨by rw [bne_iff_ne]; intro g3; exact g ((hi 101).2 g3), by rw [g2]; rfl⟩
      have hn2 : ¬ (s.data.toList.head? ≠ some 101 ∧ s.data.toList.head? ≠ some 69) := by
        rw [hhead]; intro g; exact hx ⟨by simpa using g.1, by simpa using g.2⟩
      obtain ⟨r0, hr0⟩ : ∃ r0, s.extract 1 s.size = r0 := ⟨_, rfl⟩
      have hrl : r0.data.toList = s.data.toList.tail := by rw [← hr0, ext_end, List.drop_one]
      have hrs : r0.size = s.size - 1 := by rw [← hr0, ByteArray.size_extract]; omega
      have hcm : Hid (∀ W, Calls Tryz.prog 52 #[.string r0, .string ⟨#[45]⟩] W fun e w' => e = .returned (.tuple #[.string (cutT r0), .bool (decide (r0.data.toList.head? = some 45))]) ∧ W = w') := fun W => cut_minus r0 W
      have HF2 : Hid (∀ v b w', (if cutD (expT s.data.toList) = 0 ∨ cutD (expT s.data.toList) < (expT s.data.toList).length then (0, false) else (if s.data.toList.tail.head? = some 45 then - satE L (expT s.data.toList) else satE L (expT s.data.toList), true)) = (v, b) → Below w.heap.size w w' → Po (Ending.returned (.tuple #[.int .i64 v, .bool b])) w') := fun v b w' h1 h2 => HF.out v b w' (by unfold rexF; rw [if_neg hne, if_neg hn2]; exact h1) h2
      rw [← hrl] at HF2
      -- the text behind the sign
      have HR : Hid (∃ R : ByteArray, R.data.toList = expT s.data.toList ∧ R.size ≤ 100000 ∧ ((r0.data.toList.head? = some 45 ∧ cutT r0 = R) ∨ (r0.data.toList.head? ≠ some 45 ∧ cutT r0 = r0 ∧ mkB (if r0.data.toList.head? = some 43 then r0.data.toList.tail else r0.data.toList) = R))) := by
        show ∃ _, _
        have hrz : r0.data.toList.length = r0.size := by simp
        by_cases g : r0.data.toList.head? = some 45
        · refine ⟨cutT r0, ?_, by have := cutT_le r0; omega, .inl ⟨g, rfl⟩⟩
          rw [cutT_list]; unfold strip expT; rw [← hrl, if_pos g, if_pos g]
        · have hc0 : cutT r0 = r0 := ba_ext _ _ (by rw [cutT_list]; unfold strip; rw [if_neg g])
          refine ⟨mkB (if r0.data.toList.head? = some 43 then r0.data.toList.tail else r0.data.toList), ?_, ?_, .inr ⟨g, hc0, rfl⟩⟩
          · rw [mkB_data]; unfold expT; rw [← hrl, if_neg g]
          · rw [mkB_size]; split
            · rw [List.length_tail]; omega
            · omega
      obtain ⟨R, hR1, hR2, hR3⟩ := HR.out
      rw [← hR1] at HF2
      have hRz : R.data.toList.length = R.size := by simp
      obtain ⟨k, hk⟩ : ∃ k, cutD R.data.toList = k := ⟨_, rfl⟩
      have hkl := cutD_le R.data.toList
      have HCD := Lib.hid (fun W => cutDigits_any R (by omega) W)
      rw [hk] at HCD
      rw [hk, hRz] at HF2
      rw [hk, hRz] at hkl
      obtain ⟨D, hD⟩ : ∃ D, R.extract 0 k = D := ⟨_, rfl⟩
      obtain ⟨Q, hQ⟩ : ∃ Q, R.extract k R.size = Q := ⟨_, rfl⟩
      rw [hD, hQ] at HCD
      have hDz : D.size = k := by rw [← hD, ByteArray.size_extract]; omega
      have hQz : Q.size = R.size - k := by rw [← hQ, ByteArray.size_extract]; omega
      have hDl : D.data.toList = R.data.toList.take k := by rw [← hD, ext_list]; simp
      have hDA : ∀ i (h : i < D.size), 48 ≤ D[i].toNat ∧ D[i].toNat ≤ 57 := fun i h => by
        have hm : D[i] ∈ R.data.toList.takeWhile isD := by
          have e : R.data.toList.takeWhile isD = D.data.toList := by
            rw [hDl, ← hk]
            exact tw_take _
          rw [e]
          exact List.getElem_mem (by simpa using h)
        exact (isD_iff _).1 (tw_all _ _ hm)
      have HDA := Lib.hid hDA
      have HSN : Hid (∀ i, (h : i < D.size) → satE L (D.data.toList.take (i + 1)) = min (10 * satE L (D.data.toList.take i) + ((D[i].toNat - 48 : Nat) : Int)) L) := fun i h => by
        rw [satE_snoc L _ i (by rw [← Lib.size_eq]; exact h), getD_byte D i h]
      have HBD := Lib.hid (fun l => satE_bd L hL0 l)
      have HEnd : Hid (¬ (k = 0 ∨ k < R.size) → D.data.toList.take D.size = R.data.toList) := fun g => by
        rw [List.take_of_length_le (by rw [← Lib.size_eq]; omega), hDl, List.take_of_length_le (by omega)]
      clear hDA hD hQ hDl hR1 hn2 hne hhead hcons hi hx HF hk hRz h0 HR
      rcases hR3 with ⟨hsg, hcT⟩ | ⟨hsg, hcT, hmk⟩
      · rw [hcT, decide_eq_true hsg] at hcm
        rcases hlet.out with d1 | ⟨d1, d2⟩
        · clear hlet hcT
          go_enter Tryz.func64, Tryz.ntmps64
          go_wp2_with fail
          refine (hcm.out _).mono ?_
          rintro en w1 ⟨rfl, rfl⟩
          go_wp2_with fail
          refine (HCD.out _).mono ?_
          rintro en w2 ⟨rfl, q2⟩
          have Q2 := Lib.hid q2
          clear q2 HCD
          by_cases hk0 : k = 0
          · have hte2 := empty_yes D (by omega)
            have hfin := Lib.hid (HF2.out 0 false w2 (if_pos (.inl hk0)) Q2.out)
            clear HF2 HSN HBD HEnd HDA
            go_wp2
            exact hfin.out
          · have hte2 := empty_no D (by omega)
            by_cases hkR : k < R.size
            · have hte3 := empty_no Q (by omega)
              have hfin := Lib.hid (HF2.out 0 false w2 (if_pos (.inr hkR)) Q2.out)
              clear HF2 HSN HBD HEnd HDA
              go_wp2
              exact hfin.out
            · have hte3 := empty_yes Q (by omega)
              have hno : ¬ (k = 0 ∨ k < R.size) := by omega
              have HE2 := Lib.hid (HEnd.out hno)
              have HF3 : Hid (∀ v w', - satE L R.data.toList = v → Below w.heap.size w w' → Po (Ending.returned (.tuple #[.int .i64 v, .bool true])) w') := fun v w' h1 h2 => HF2.out v true w' (by rw [if_neg hno, if_pos hsg, h1]) h2
              rw [← HE2.out] at HF3
              clear HF2 hno HE2 HEnd
              go_wp2_with fail
              go_loop [44, 9] (fun iv sv => ∃ (i : Nat) (z : Int), i ≤ D.size ∧ iv = .int .i64 i ∧ sv = .int .i64 z ∧ 0 ≤ z ∧ z ≤ L ∧ Hid (satE L (D.data.toList.take i) = z)) (fun iv _ => D.size - (intOf iv).toNat)
              case atStart => exact ⟨0, 0, Nat.zero_le _, rfl, rfl, Int.le_refl _, hL0, rfl⟩
              case round =>
                obtain ⟨i, z, hi, rfl, rfl, hz0, hz1, hz⟩ := hrel
                by_cases hlt : i < D.size
                · obtain ⟨a1, a2⟩ := HDA.out i hlt
                  have hs2 := HSN.out i hlt
                  rw [hz.out] at hs2
                  obtain ⟨x, hx⟩ : ∃ x, D[i].toNat = x + 48 := ⟨D[i].toNat - 48, by omega⟩
                  rw [hx, Nat.add_sub_cancel] at hs2
                  have hxm : (x : Int) % 256 = (x : Int) := by omega
                  have hbd2 := HBD.out (D.data.toList.take (i + 1))
                  rw [hs2] at hbd2
                  have HS2 := Lib.hid hs2
                  have HB2 := Lib.hid hbd2
                  clear hs2 hbd2 hz a1 a2 HF3
                  go_wp2
                  go_round
                  case rel => exact ⟨i + 1, _, by omega, by go_num, rfl, HB2.out.1, HB2.out.2, HS2⟩
                  case measure => simp [intOf]; omega
                · obtain rfl : i = D.size := by omega
                  have hfin := Lib.hid (HF3.out _ w2 (by rw [hz.out]) Q2.out)
                  clear HF3 hz
                  go_wp2
                  exact hfin.out
        · clear hlet hcT
          go_enter Tryz.func64, Tryz.ntmps64
          go_wp2_with fail
          refine (hcm.out _).mono ?_
          rintro en w1 ⟨rfl, rfl⟩
          go_wp2_with fail
          refine (HCD.out _).mono ?_
          rintro en w2 ⟨rfl, q2⟩
          have Q2 := Lib.hid q2
          clear q2 HCD
          by_cases hk0 : k = 0
          · have hte2 := empty_yes D (by omega)
            have hfin := Lib.hid (HF2.out 0 false w2 (if_pos (.inl hk0)) Q2.out)
            clear HF2 HSN HBD HEnd HDA
            go_wp2
            exact hfin.out
          · have hte2 := empty_no D (by omega)
            by_cases hkR : k < R.size
            · have hte3 := empty_no Q (by omega)
              have hfin := Lib.hid (HF2.out 0 false w2 (if_pos (.inr hkR)) Q2.out)
              clear HF2 HSN HBD HEnd HDA
              go_wp2
              exact hfin.out
            · have hte3 := empty_yes Q (by omega)
              have hno : ¬ (k = 0 ∨ k < R.size) := by omega
              have HE2 := Lib.hid (HEnd.out hno)
              have HF3 : Hid (∀ v w', - satE L R.data.toList = v → Below w.heap.size w w' → Po (Ending.returned (.tuple #[.int .i64 v, .bool true])) w') := fun v w' h1 h2 => HF2.out v true w' (by rw [if_neg hno, if_pos hsg, h1]) h2
              rw [← HE2.out] at HF3
              clear HF2 hno HE2 HEnd
              go_wp2_with fail
              go_loop [44, 9] (fun iv sv => ∃ (i : Nat) (z : Int), i ≤ D.size ∧ iv = .int .i64 i ∧ sv = .int .i64 z ∧ 0 ≤ z ∧ z ≤ L ∧ Hid (satE L (D.data.toList.take i) = z)) (fun iv _ => D.size - (intOf iv).toNat)
              case atStart => exact ⟨0, 0, Nat.zero_le _, rfl, rfl, Int.le_refl _, hL0, rfl⟩
              case round =>
                obtain ⟨i, z, hi, rfl, rfl, hz0, hz1, hz⟩ := hrel
                by_cases hlt : i < D.size
                · obtain ⟨a1, a2⟩ := HDA.out i hlt
                  have hs2 := HSN.out i hlt
                  rw [hz.out] at hs2
                  obtain ⟨x, hx⟩ : ∃ x, D[i].toNat = x + 48 := ⟨D[i].toNat - 48, by omega⟩
                  rw [hx, Nat.add_sub_cancel] at hs2
                  have hxm : (x : Int) % 256 = (x : Int) := by omega
                  have hbd2 := HBD.out (D.data.toList.take (i + 1))
                  rw [hs2] at hbd2
                  have HS2 := Lib.hid hs2
                  have HB2 := Lib.hid hbd2
                  clear hs2 hbd2 hz a1 a2 HF3
                  go_wp2
                  go_round
                  case rel => exact ⟨i + 1, _, by omega, by go_num, rfl, HB2.out.1, HB2.out.2, HS2⟩
                  case measure => simp [intOf]; omega
                · obtain rfl : i = D.size := by omega
                  have hfin := Lib.hid (HF3.out _ w2 (by rw [hz.out]) Q2.out)
                  clear HF3 hz
                  go_wp2
                  exact hfin.out
      · rw [hcT, decide_eq_false hsg] at hcm
        have HTP := Lib.hid (fun W => trim_plus r0 W)
        rw [hmk] at HTP
        rcases hlet.out with d1 | ⟨d1, d2⟩
        · clear hlet hcT hmk
          go_enter Tryz.func64, Tryz.ntmps64
          go_wp2_with fail
          refine (hcm.out _).mono ?_
          rintro en w1 ⟨rfl, rfl⟩
          go_wp2_with fail
          refine (HTP.out _).mono ?_
          rintro en w1 ⟨rfl, rfl⟩
          go_wp2_with fail
          refine (HCD.out _).mono ?_
          rintro en w2 ⟨rfl, q2⟩
          have Q2 := Lib.hid q2
          clear q2 HCD
          by_cases hk0 : k = 0
          · have hte2 := empty_yes D (by omega)
            have hfin := Lib.hid (HF2.out 0 false w2 (if_pos (.inl hk0)) Q2.out)
            clear HF2 HSN HBD HEnd HDA
            go_wp2
            exact hfin.out
          · have hte2 := empty_no D (by omega)
            by_cases hkR : k < R.size
            · have hte3 := empty_no Q (by omega)
              have hfin := Lib.hid (HF2.out 0 false w2 (if_pos (.inr hkR)) Q2.out)
              clear HF2 HSN HBD HEnd HDA
              go_wp2
              exact hfin.out
            · have hte3 := empty_yes Q (by omega)
              have hno : ¬ (k = 0 ∨ k < R.size) := by omega
              have HE2 := Lib.hid (HEnd.out hno)
              have HF3 : Hid (∀ v w', satE L R.data.toList = v → Below w.heap.size w w' → Po (Ending.returned (.tuple #[.int .i64 v, .bool true])) w') := fun v w' h1 h2 => HF2.out v true w' (by rw [if_neg hno, if_neg hsg, h1]) h2
              rw [← HE2.out] at HF3
              clear HF2 hno HE2 HEnd
              go_wp2_with fail
              go_loop [44, 9] (fun iv sv => ∃ (i : Nat) (z : Int), i ≤ D.size ∧ iv = .int .i64 i ∧ sv = .int .i64 z ∧ 0 ≤ z ∧ z ≤ L ∧ Hid (satE L (D.data.toList.take i) = z)) (fun iv _ => D.size - (intOf iv).toNat)
              case atStart => exact ⟨0, 0, Nat.zero_le _, rfl, rfl, Int.le_refl _, hL0, rfl⟩
              case round =>
                obtain ⟨i, z, hi, rfl, rfl, hz0, hz1, hz⟩ := hrel
                by_cases hlt : i < D.size
                · obtain ⟨a1, a2⟩ := HDA.out i hlt
                  have hs2 := HSN.out i hlt
                  rw [hz.out] at hs2
                  obtain ⟨x, hx⟩ : ∃ x, D[i].toNat = x + 48 := ⟨D[i].toNat - 48, by omega⟩
                  rw [hx, Nat.add_sub_cancel] at hs2
                  have hxm : (x : Int) % 256 = (x : Int) := by omega
                  have hbd2 := HBD.out (D.data.toList.take (i + 1))
                  rw [hs2] at hbd2
                  have HS2 := Lib.hid hs2
                  have HB2 := Lib.hid hbd2
                  clear hs2 hbd2 hz a1 a2 HF3
                  go_wp2
                  go_round
                  case rel => exact ⟨i + 1, _, by omega, by go_num, rfl, HB2.out.1, HB2.out.2, HS2⟩
                  case measure => simp [intOf]; omega
                · obtain rfl : i = D.size := by omega
                  have hfin := Lib.hid (HF3.out _ w2 (by rw [hz.out]) Q2.out)
                  clear HF3 hz
                  go_wp2
                  exact hfin.out
        · clear hlet hcT hmk
          go_enter Tryz.func64, Tryz.ntmps64
          go_wp2_with fail
          refine (hcm.out _).mono ?_
          rintro en w1 ⟨rfl, rfl⟩
          go_wp2_with fail
          refine (HTP.out _).mono ?_
          rintro en w1 ⟨rfl, rfl⟩
          go_wp2_with fail
          refine (HCD.out _).mono ?_
          rintro en w2 ⟨rfl, q2⟩
          have Q2 := Lib.hid q2
          clear q2 HCD
          by_cases hk0 : k = 0
          · have hte2 := empty_yes D (by omega)
            have hfin := Lib.hid (HF2.out 0 false w2 (if_pos (.inl hk0)) Q2.out)
            clear HF2 HSN HBD HEnd HDA
            go_wp2
            exact hfin.out
          · have hte2 := empty_no D (by omega)
            by_cases hkR : k < R.size
            · have hte3 := empty_no Q (by omega)
              have hfin := Lib.hid (HF2.out 0 false w2 (if_pos (.inr hkR)) Q2.out)
              clear HF2 HSN HBD HEnd HDA
              go_wp2
              exact hfin.out
            · have hte3 := empty_yes Q (by omega)
              have hno : ¬ (k = 0 ∨ k < R.size) := by omega
              have HE2 := Lib.hid (HEnd.out hno)
              have HF3 : Hid (∀ v w', satE L R.data.toList = v → Below w.heap.size w w' → Po (Ending.returned (.tuple #[.int .i64 v, .bool true])) w') := fun v w' h1 h2 => HF2.out v true w' (by rw [if_neg hno, if_neg hsg, h1]) h2
              rw [← HE2.out] at HF3
              clear HF2 hno HE2 HEnd
              go_wp2_with fail
              go_loop [44, 9] (fun iv sv => ∃ (i : Nat) (z : Int), i ≤ D.size ∧ iv = .int .i64 i ∧ sv = .int .i64 z ∧ 0 ≤ z ∧ z ≤ L ∧ Hid (satE L (D.data.toList.take i) = z)) (fun iv _ => D.size - (intOf iv).toNat)
              case atStart => exact ⟨0, 0, Nat.zero_le _, rfl, rfl, Int.le_refl _, hL0, rfl⟩
              case round =>
                obtain ⟨i, z, hi, rfl, rfl, hz0, hz1, hz⟩ := hrel
                by_cases hlt : i < D.size
                · obtain ⟨a1, a2⟩ := HDA.out i hlt
                  have hs2 := HSN.out i hlt
                  rw [hz.out] at hs2
                  obtain ⟨x, hx⟩ : ∃ x, D[i].toNat = x + 48 := ⟨D[i].toNat - 48, by omega⟩
                  rw [hx, Nat.add_sub_cancel] at hs2
                  have hxm : (x : Int) % 256 = (x : Int) := by omega
                  have hbd2 := HBD.out (D.data.toList.take (i + 1))
                  rw [hs2] at hbd2
                  have HS2 := Lib.hid hs2
                  have HB2 := Lib.hid hbd2
                  clear hs2 hbd2 hz a1 a2 HF3
                  go_wp2
                  go_round
                  case rel => exact ⟨i + 1, _, by omega, by go_num, rfl, HB2.out.1, HB2.out.2, HS2⟩
                  case measure => simp [intOf]; omega
                · obtain rfl : i = D.size := by omega
                  have hfin := Lib.hid (HF3.out _ w2 (by rw [hz.out]) Q2.out)
                  clear HF3 hz
                  go_wp2
                  exact hfin.out
end Go.Proofs.YtpankmaljafnnaaGreatDoor
