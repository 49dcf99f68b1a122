/-
  Helper: the walk of DecimalLaws.
-/
import Derived.Test.YtpankmaljafnnaaGreatDoorDcLawF
import Derived.Deep.Cut
import Derived.Deep.RegionHeld3
namespace Go.Proofs.YtpankmaljafnnaaGreatDoor
open Go.RowKit
set_option linter.unusedVariables false
set_option linter.unusedSimpArgs false

theorem s3_drew {N : Nat} {x y z : Value} {W0 w : World} (h : w.cell? ⟨N, 0, none⟩ = some x ∧ w.cell? ⟨N, 1, none⟩ = some y ∧ w.cell? ⟨N, 2, none⟩ = some z ∧ Below (N + 1) W0 w) : w.drew.cell? ⟨N, 0, none⟩ = some x ∧ w.drew.cell? ⟨N, 1, none⟩ = some y ∧ w.drew.cell? ⟨N, 2, none⟩ = some z ∧ Below (N + 1) W0 w.drew := ⟨h.1, h.2.1, h.2.2.1, h.2.2.2.drew⟩
theorem s3_keep {N : Nat} {x y z : Value} {W0 w w' : World} (h : w.cell? ⟨N, 0, none⟩ = some x ∧ w.cell? ⟨N, 1, none⟩ = some y ∧ w.cell? ⟨N, 2, none⟩ = some z ∧ Below (N + 1) W0 w) (hN : N + 1 ≤ W0.heap.size) (hb : Below w.heap.size w w') : w'.cell? ⟨N, 0, none⟩ = some x ∧ w'.cell? ⟨N, 1, none⟩ = some y ∧ w'.cell? ⟨N, 2, none⟩ = some z ∧ Below (N + 1) W0 w' := by
  have hs := h.2.2.2.size
  refine ⟨?_, ?_, ?_, h.2.2.2.trans (hb.mono (by omega))⟩
  · rw [hb.cell (show N < w.heap.size by omega)]; exact h.1
  · rw [hb.cell (show N < w.heap.size by omega)]; exact h.2.1
  · rw [hb.cell (show N < w.heap.size by omega)]; exact h.2.2.1
def S3 (N : Nat) (x y z : ByteArray) (W0 w : World) : Prop := w.cell? ⟨N, 0, none⟩ = some (.string x) ∧ w.cell? ⟨N, 1, none⟩ = some (.string y) ∧ w.cell? ⟨N, 2, none⟩ = some (.string z) ∧ Below (N + 1) W0 w
def tx3 (x y z : ByteArray) : Nat → ByteArray | 0 => x | 1 => y | _ => z
theorem S3.at {N : Nat} {x y z : ByteArray} {W0 w : World} (h : S3 N x y z W0 w) (i : Nat) (hi : i < 3) : w.cell? ⟨N, i, none⟩ = some (.string (tx3 x y z i)) := by
  match i, hi with
  | 0, _ => exact h.1
  | 1, _ => exact h.2.1
  | 2, _ => exact h.2.2.1
set_option maxRecDepth 100000 in
set_option maxHeartbeats 16000000 in
theorem laws_core (W : World) (x y z : ByteArray) (hx : x.size ≤ maxLen) (hy : y.size ≤ maxLen) (hz : z.size ≤ maxLen) (ok : Nat → Bool)
    (HAw : Hid (Ret W 11 #[] (.bool true)))
    (HV : Hid (∀ i, i < 3 → (tx3 x y z i).size ≤ 200 → Ret W 18 #[.string (tx3 x y z i)] (.bool (ok i))))
    (HL : Hid ((∀ i, i < 3 → (tx3 x y z i).size ≤ 200 ∧ ok i = true) → LF W x y z)) :
    Calls Tryz.prog 9 #[.agg #[.string x, .string y, .string z]] W (TrueP W) := by
  have HF0 : Hid (∀ w', Below W.heap.size W w' → TrueP W (.returned (.bool true)) w') := fun w' h => ⟨rfl, h⟩
  have hmx : ∀ i, (tx3 x y z i).size ≤ 9223372036854775807 := fun i => by
    unfold maxLen at hx hy hz
    match i with
    | 0 => exact hx
    | 1 => exact hy
    | i + 2 => exact hz
  obtain ⟨N, hN⟩ : ∃ N, W.heap.size = N := ⟨_, rfl⟩
  obtain ⟨W0, hW0⟩ : ∃ W0, W.alloc (.cells #[.string x, .string y, .string z] 55) = W0 := ⟨_, rfl⟩
  have hB0 : Below N W W0 := by rw [← hW0, ← hN]; exact (Below.refl _ W).alloc (Nat.le_refl _) _
  have hNS : Hid (N + 1 ≤ W0.heap.size) := by show _ ≤ _; rw [← hW0, ← hN]; simp
  have hcell : W0.heap[N]? = some (.cells #[.string x, .string y, .string z] 55 (0, 0)) := by rw [← hW0, ← hN]; exact heap_alloc_new W _
  have hS0 : Hid (S3 N x y z W0 W0) := ⟨cell_of_row _ _ 0 _ _ (0, 0) hcell, cell_of_row _ _ 1 _ _ (0, 0) hcell, cell_of_row _ _ 2 _ _ (0, 0) hcell, Below.refl _ _⟩
  -- from what holds behind the box to what the calls ask
  have HB : Hid (∀ w', S3 N x y z W0 w' → Below W.heap.size W w') := fun w' h => by rw [hN]; exact hB0.trans (h.2.2.2.mono (by omega))
  have HF : Hid (∀ w', S3 N x y z W0 w' → TrueP W (.returned (.bool true)) w') := fun w' h => HF0.out w' (HB.out w' h)
  have HK : Hid (∀ w w', S3 N x y z W0 w → Below w.heap.size w w' → S3 N x y z W0 w') := fun w w' h hb => s3_keep h hNS.out hb
  generalize TrueP W = Po at *
  clear HF0 hB0 hcell hx hy hz
  obtain ⟨c0, c1, c2, cB⟩ := hS0.out
  go_enter Tryz.func9, Tryz.ntmps9
  go_wp2_with fail
  refine (HAw.out _ (HB.out _ hS0.out)).mono ?_
  rintro en w1 ⟨rfl, q⟩
  have S1 := Lib.hid (HK.out _ _ hS0.out q)
  clear q hS0 HAw c0 c1 c2 cB
  go_wp2_with fail
  go_loopw [3] (fun v wr => ∃ i : Nat, i ≤ 3 ∧ v = .int .i64 i ∧ Hid (∀ m, m < i → (tx3 x y z m).size ≤ 200 ∧ ok m = true) ∧ Hid (S3 N x y z W0 wr)) (fun v _ => 3 - (intOf v).toNat)
  case atStart => exact ⟨0, Nat.zero_le _, rfl, fun m hm => absurd hm (Nat.not_lt_zero _), S1⟩
  case round =>
    clear S1
    obtain ⟨i, hi, rfl, hgood, hS⟩ := hrel
    by_cases hlt : i < 3
    · have hii : (i : Int) < 3 := by omega
      have ci := hS.out.at i hlt
      have hm := hmx i
      by_cases hl : 200 < (tx3 x y z i).size
      · have hli : (200 : Int) < ((tx3 x y z i).size : Int) := by omega
        have hfin := Lib.hid (HF.out _ hS.out)
        clear HF HL HV HK HB hgood hS hmx
        generalize tx3 x y z i = t at *
        go_wp2
        exact hfin.out
      · have hli : ¬ (200 : Int) < ((tx3 x y z i).size : Int) := by omega
        have HVi := Lib.hid (HV.out i hlt (by omega) _ (HB.out _ hS.out))
        cases hok : ok i with
        | false =>
          rw [hok] at HVi
          clear HL HV HB hgood hmx
          generalize tx3 x y z i = t at *
          go_wp2_with fail
          refine HVi.out.mono ?_
          rintro en w2 ⟨rfl, q⟩
          have hfin := Lib.hid (HF.out _ (HK.out _ _ hS.out q))
          clear q HF HK hS HVi ci
          go_wp2
          exact hfin.out
        | true =>
          rw [hok] at HVi
          have hgood2 : Hid (∀ m, m < i + 1 → (tx3 x y z m).size ≤ 200 ∧ ok m = true) := fun m hm2 => by
            by_cases e : m = i
            · rw [e]; exact ⟨by omega, hok⟩
            · exact hgood.out m (by omega)
          clear HL HV HB HF hgood hmx
          obtain ⟨t, ht⟩ : ∃ t, tx3 x y z i = t := ⟨_, rfl⟩
          rw [ht] at ci HVi hm hl hli
          clear ht
          go_wp2_with fail
          refine HVi.out.mono ?_
          rintro en w2 ⟨rfl, q⟩
          have hS2 := Lib.hid (HK.out _ _ hS.out q)
          clear q HK hS HVi ci
          go_wp2
          go_roundw
          case rel => exact ⟨i + 1, by omega, by go_num, hgood2, hS2⟩
          case measure => simp [intOf]; omega
    · have hi3 : i = 3 := by omega
      have hkn : ¬ (i : Int) < 3 := by omega
      have hLF := HL.out (fun m hm => hgood.out m (by omega))
      obtain ⟨ab, e, bc, g, ac, h, c, hc, hcq, r1, r2, r3, r4, r5, r6, HN⟩ := hLF
      obtain ⟨d, hd⟩ : ∃ d, -c = d := ⟨_, rfl⟩
      rw [hd] at r6
      have hd2 : -d = c := by omega
      have hd3 : IntKind.i64.wrap (-d) = c := by rw [hd2]; exact wrapI _ (by omega) (by omega)
      have hd4 : IntKind.i64.wrap c = c := wrapI _ (by omega) (by omega)
      obtain ⟨bq, hbq⟩ : ∃ bq, (c == 0) = bq := ⟨_, rfl⟩
      have hq2 : (x.toList == y.toList) = bq := by rw [← hcq, hbq]
      have hcc : (c != c) = false := by simp
      have hcc2 : (c == c) = true := by simp
      have hbb : (bq != bq) = false := by simp
      have hbb2 : (bq == bq) = true := by simp
      have hbb3 : (ab.toList == ab.toList) = true := by simp
      have A1 := Lib.hid r1
      have A2 := Lib.hid r2
      have A3 := Lib.hid r3
      have A4 := Lib.hid r4
      have C1 := Lib.hid r5
      have C2 := Lib.hid r6
      have HNh := Lib.hid HN
      have hch := Lib.hid hc
      clear r1 r2 r3 r4 r5 r6 hd hc
      clear HL HV hgood HN hmx hcq hlt hi
      obtain ⟨c0, c1, c2, cB⟩ := hS.out
      go_wp2_with fail
      refine (A1.out _ (HB.out _ hS.out)).mono ?_
      rintro en v1 ⟨rfl, q⟩
      have T1 := Lib.hid (HK.out _ _ hS.out q)
      clear q c0 c1 c2 cB hS A1
      obtain ⟨c0, c1, c2, cB⟩ := T1.out
      go_wp2_with fail
      refine (A2.out _ (HB.out _ T1.out)).mono ?_
      rintro en v2 ⟨rfl, q⟩
      have T2 := Lib.hid (HK.out _ _ T1.out q)
      clear q c0 c1 c2 cB T1 A2
      obtain ⟨c0, c1, c2, cB⟩ := T2.out
      go_wp2_with fail
      refine (A3.out _ (HB.out _ T2.out)).mono ?_
      rintro en v3 ⟨rfl, q⟩
      have T3 := Lib.hid (HK.out _ _ T2.out q)
      clear q c0 c1 c2 cB T2 A3
      obtain ⟨c0, c1, c2, cB⟩ := T3.out
      go_wp2_with fail
      refine (A4.out _ (HB.out _ T3.out)).mono ?_
      rintro en v4 ⟨rfl, q⟩
      have T4 := Lib.hid (HK.out _ _ T3.out q)
      clear q c0 c1 c2 cB T3 A4
      have hS4 : v4.cell? ⟨N, 0, none⟩ = some (Value.string x) ∧ v4.cell? ⟨N, 1, none⟩ = some (Value.string y) ∧ v4.cell? ⟨N, 2, none⟩ = some (Value.string z) ∧ Below (N + 1) W0 v4 := T4.out
      clear T4
      go_wp2_with fail
      go_region_held3 (fun w' => w'.cell? ⟨N, 0, none⟩ = some (Value.string x) ∧ w'.cell? ⟨N, 1, none⟩ = some (Value.string y) ∧ w'.cell? ⟨N, 2, none⟩ = some (Value.string z) ∧ Below (N + 1) W0 w')
        (first | (with_reducible assumption) | (with_reducible exact s3_drew (by assumption)) | (with_reducible exact s3_keep (by assumption) hNS.out (by assumption)))
        (first | (go_at_call 27; (with_reducible show Calls _ _ #[.string x, .string y] _ _); refine (C1.out _ ?_).mono ?_; exact HB.out _ (by unfold S3; assumption); rintro en u1 ⟨rfl, g1⟩) | (go_at_call 27; (with_reducible show Calls _ _ #[.string y, .string x] _ _); refine (C2.out _ ?_).mono ?_; exact HB.out _ (by unfold S3; assumption); rintro en u2 ⟨rfl, g2⟩))
      have S5 : Hid (S3 N x y z W0 u1) := by show S3 _ _ _ _ _ _; unfold S3; assumption
      clear hS4 C2
      by_cases he : e = 0
      · by_cases hg : g = 0
        · by_cases hh : h = 0
          · obtain ⟨u, i2, B1, B2, C3, HM⟩ := HNh.out he hg hh
            subst he hg hh
            have B1h := Lib.hid B1
            have B2h := Lib.hid B2
            have C3h := Lib.hid C3
            obtain ⟨p, k, q, m, r, n, m1, m2, m3, hm2⟩ := HM
            have M1 := Lib.hid m1
            have M2 := Lib.hid m2
            have M3 := Lib.hid m3
            have HM2 := Lib.hid hm2
            clear B1 B2 C3 m1 m2 m3 hm2 HNh
            obtain ⟨c0, c1, c2, cB⟩ := S5.out
            go_wp2_with fail
            refine (B1h.out _ (HB.out _ S5.out)).mono ?_
            rintro en v5 ⟨rfl, q⟩
            have T5 := Lib.hid (HK.out _ _ S5.out q)
            clear q c0 c1 c2 cB S5 B1h
            obtain ⟨c0, c1, c2, cB⟩ := T5.out
            go_wp2_with fail
            refine (B2h.out _ (HB.out _ T5.out)).mono ?_
            rintro en v6 ⟨rfl, q⟩
            have T6 := Lib.hid (HK.out _ _ T5.out q)
            clear q c0 c1 c2 cB T5 B2h
            have hS6 : v6.cell? ⟨N, 0, none⟩ = some (Value.string x) ∧ v6.cell? ⟨N, 1, none⟩ = some (Value.string y) ∧ v6.cell? ⟨N, 2, none⟩ = some (Value.string z) ∧ Below (N + 1) W0 v6 := T6.out
            have huu : (u.toList != u.toList) = false := by simp
            by_cases hi0 : i2 = 0
            · subst hi0
              clear T6
              go_wp2_with fail
              go_region_held3 (fun w' => w'.cell? ⟨N, 0, none⟩ = some (Value.string x) ∧ w'.cell? ⟨N, 1, none⟩ = some (Value.string y) ∧ w'.cell? ⟨N, 2, none⟩ = some (Value.string z) ∧ Below (N + 1) W0 w')
                (first | (with_reducible assumption) | (with_reducible exact s3_drew (by assumption)) | (with_reducible exact s3_keep (by assumption) hNS.out (by assumption)))
                (first | (go_at_call 27; (with_reducible show Calls _ _ #[.string ac, .string bc] _ _); refine (C3h.out _ ?_).mono ?_; exact HB.out _ (by unfold S3; assumption); rintro en u3 ⟨rfl, g3⟩) | (go_at_call 27; (with_reducible show Calls _ _ #[.string x, .string y] _ _); refine (C1.out _ ?_).mono ?_; exact HB.out _ (by unfold S3; assumption); rintro en u4 ⟨rfl, g4⟩))
              have S7 : Hid (S3 N x y z W0 u4) := by show S3 _ _ _ _ _ _; unfold S3; assumption
              clear hS6 C1 C3h
              obtain ⟨c0, c1, c2, cB⟩ := S7.out
              go_wp2_with fail
              refine (M1.out _ (HB.out _ S7.out)).mono ?_
              rintro en v7 ⟨rfl, q⟩
              have T7 := Lib.hid (HK.out _ _ S7.out q)
              clear q c0 c1 c2 cB S7 M1
              obtain ⟨c0, c1, c2, cB⟩ := T7.out
              go_wp2_with fail
              refine (M2.out _ (HB.out _ T7.out)).mono ?_
              rintro en v8 ⟨rfl, q⟩
              have T8 := Lib.hid (HK.out _ _ T7.out q)
              clear q c0 c1 c2 cB T7 M2
              obtain ⟨c0, c1, c2, cB⟩ := T8.out
              go_wp2_with fail
              refine (M3.out _ (HB.out _ T8.out)).mono ?_
              rintro en v9 ⟨rfl, q⟩
              have T9 := Lib.hid (HK.out _ _ T8.out q)
              clear q c0 c1 c2 cB T8 M3
              by_cases hk : k = 0
              · by_cases hm : m = 0
                · by_cases hn : n = 0
                  · obtain ⟨s, o, A5, M4, hsp⟩ := HM2.out hk hm hn
                    subst hk hm hn
                    have A5h := Lib.hid A5
                    have M4h := Lib.hid M4
                    clear A5 M4 HM2
                    obtain ⟨c0, c1, c2, cB⟩ := T9.out
                    go_wp2_with fail
                    refine (A5h.out _ (HB.out _ T9.out)).mono ?_
                    rintro en v10 ⟨rfl, q⟩
                    have T10 := Lib.hid (HK.out _ _ T9.out q)
                    clear q c0 c1 c2 cB T9 A5h
                    obtain ⟨c0, c1, c2, cB⟩ := T10.out
                    go_wp2_with fail
                    refine (M4h.out _ (HB.out _ T10.out)).mono ?_
                    rintro en v11 ⟨rfl, q⟩
                    have T11 := Lib.hid (HK.out _ _ T10.out q)
                    clear q c0 c1 c2 cB T10 M4h
                    have hqq : (q.toList == q.toList) = true := by simp
                    have hfin := Lib.hid (HF.out _ T11.out)
                    by_cases ho : o = 0
                    · have hs := hsp ho
                      subst ho hs
                      have hss : (s.toList == s.toList) = true := by simp
                      clear HF HB HK
                      go_wp2
                      exact hfin.out
                    · have ho2 : (o != 0) = true := by simpa using ho
                      clear HF HB HK
                      go_wp2
                      exact hfin.out
                  · subst hk hm
                    have hq := (by simpa using hn : (n != 0) = true)
                    have hfin := Lib.hid (HF.out _ T9.out)
                    go_wp2
                    exact hfin.out
                · subst hk
                  have hq := (by simpa using hm : (m != 0) = true)
                  have hfin := Lib.hid (HF.out _ T9.out)
                  go_wp2
                  exact hfin.out
              · have hq := (by simpa using hk : (k != 0) = true)
                have hfin := Lib.hid (HF.out _ T9.out)
                go_wp2
                exact hfin.out
            · have hi1 : (i2 == 0) = false := by rw [beq_eq_false_iff_ne]; exact hi0
              have hi2 : decide (i2 = 0) = false := decide_eq_false hi0
              clear T6
              go_wp2_with fail
              first | (go_region_held (fun w' => w'.cell? ⟨N, 0, none⟩ = some (Value.string x) ∧ w'.cell? ⟨N, 1, none⟩ = some (Value.string y) ∧ w'.cell? ⟨N, 2, none⟩ = some (Value.string z) ∧ Below (N + 1) W0 w')
                (first | (with_reducible assumption) | (with_reducible exact s3_drew (by assumption)) | (with_reducible exact s3_keep (by assumption) hNS.out (by assumption)))
                (first | (go_at_call 27; (with_reducible show Calls _ _ #[.string ac, .string bc] _ _); refine (C3h.out _ ?_).mono ?_; exact HB.out _ (by unfold S3; assumption); rintro en u3 ⟨rfl, g3⟩) | (go_at_call 27; (with_reducible show Calls _ _ #[.string x, .string y] _ _); refine (C1.out _ ?_).mono ?_; exact HB.out _ (by unfold S3; assumption); rintro en u4 ⟨rfl, g4⟩))) | fail
              all_goals
                have S7 : Hid (S3 N x y z W0 u4) := by show S3 _ _ _ _ _ _; unfold S3; assumption
                clear hS6 C1 C3h
                obtain ⟨c0, c1, c2, cB⟩ := S7.out
                go_wp2_with fail
                refine (M1.out _ (HB.out _ S7.out)).mono ?_
                rintro en v7 ⟨rfl, q⟩
                have T7 := Lib.hid (HK.out _ _ S7.out q)
                clear q c0 c1 c2 cB S7 M1
                obtain ⟨c0, c1, c2, cB⟩ := T7.out
                go_wp2_with fail
                refine (M2.out _ (HB.out _ T7.out)).mono ?_
                rintro en v8 ⟨rfl, q⟩
                have T8 := Lib.hid (HK.out _ _ T7.out q)
                clear q c0 c1 c2 cB T7 M2
                obtain ⟨c0, c1, c2, cB⟩ := T8.out
                go_wp2_with fail
                refine (M3.out _ (HB.out _ T8.out)).mono ?_
                rintro en v9 ⟨rfl, q⟩
                have T9 := Lib.hid (HK.out _ _ T8.out q)
                clear q c0 c1 c2 cB T8 M3
                by_cases hk : k = 0
                · by_cases hm : m = 0
                  · by_cases hn : n = 0
                    · obtain ⟨s, o, A5, M4, hsp⟩ := HM2.out hk hm hn
                      subst hk hm hn
                      have A5h := Lib.hid A5
                      have M4h := Lib.hid M4
                      clear A5 M4 HM2
                      obtain ⟨c0, c1, c2, cB⟩ := T9.out
                      go_wp2_with fail
                      refine (A5h.out _ (HB.out _ T9.out)).mono ?_
                      rintro en v10 ⟨rfl, q⟩
                      have T10 := Lib.hid (HK.out _ _ T9.out q)
                      clear q c0 c1 c2 cB T9 A5h
                      obtain ⟨c0, c1, c2, cB⟩ := T10.out
                      go_wp2_with fail
                      refine (M4h.out _ (HB.out _ T10.out)).mono ?_
                      rintro en v11 ⟨rfl, q⟩
                      have T11 := Lib.hid (HK.out _ _ T10.out q)
                      clear q c0 c1 c2 cB T10 M4h
                      have hqq : (q.toList == q.toList) = true := by simp
                      have hfin := Lib.hid (HF.out _ T11.out)
                      by_cases ho : o = 0
                      · have hs := hsp ho
                        subst ho hs
                        have hss : (s.toList == s.toList) = true := by simp
                        clear HF HB HK
                        go_wp2
                        exact hfin.out
                      · have ho2 : (o != 0) = true := by simpa using ho
                        clear HF HB HK
                        go_wp2
                        exact hfin.out
                    · subst hk hm
                      have hq := (by simpa using hn : (n != 0) = true)
                      have hfin := Lib.hid (HF.out _ T9.out)
                      go_wp2
                      exact hfin.out
                  · subst hk
                    have hq := (by simpa using hm : (m != 0) = true)
                    have hfin := Lib.hid (HF.out _ T9.out)
                    go_wp2
                    exact hfin.out
                · have hq := (by simpa using hk : (k != 0) = true)
                  have hfin := Lib.hid (HF.out _ T9.out)
                  go_wp2
                  exact hfin.out
          · subst he hg
            have hq := (by simpa using hh : (h != 0) = true)
            have hfin := Lib.hid (HF.out _ S5.out)
            go_wp2
            exact hfin.out
        · subst he
          have hq := (by simpa using hg : (g != 0) = true)
          have hfin := Lib.hid (HF.out _ S5.out)
          go_wp2
          exact hfin.out
      · have hq := (by simpa using he : (e != 0) = true)
        have hfin := Lib.hid (HF.out _ S5.out)
        go_wp2
        exact hfin.out
end Go.Proofs.YtpankmaljafnnaaGreatDoor
