/-
  Helper: one date and time with three zones.
-/
import Derived.Test.YtckeefjmamggmaaDoorInForm
namespace Go.Proofs.YtckeefjmamggmaaDoor
open Go.RowKit
set_option linter.unusedVariables false

theorem rdF_fr (l : List UInt8) (sh : Nat) (f : List Nat) (p : Nat) (fr : List UInt8) (na : Nat) (z : UInt8) (r : List UInt8) (h : l.drop p = fr ++ (z :: r)) (hfr : IsFr fr na) (hz : isD z = false) (hz2 : z ≠ 46) : ∃ q, rdF l sh f p = rdZ l sh f na q ∧ l.drop q = z :: r := by
  rcases hfr with ⟨rfl, rfl⟩ | ⟨T, rfl, t0, t9, td, rfl⟩
  · obtain ⟨c1, c2, c3⟩ := at_cons l p z r h
    refine ⟨p, ?_, h⟩
    unfold rdF
    rw [if_neg (by rintro ⟨_, g⟩; rw [c2] at g; exact hz2 (by simpa using g))]
  · obtain ⟨c1, c2, c3⟩ := at_cons l p 46 (T ++ (z :: r)) h
    have hrn : rn l (p + 1) 9 = T.length := rnk_stop l (p + 1) 9 T (z :: r) c3 t9 td (fun c r' e => by rw [← (List.cons.inj e).1]; exact hz)
    have htk : (l.drop (p + 1)).take T.length = T := by rw [c3, List.take_left']; rfl
    refine ⟨p + 1 + T.length, ?_, at_app l (p + 1) T.length T _ c3 rfl⟩
    unfold rdF
    rw [c2, if_pos ⟨c1, by decide⟩, hrn, if_neg t0, htk]
theorem rdZ_z (l : List UInt8) (sh : Nat) (f : List Nat) (na q : Nat) (h : l.drop q = [90]) : rdZ l sh f na q = (true, sh, f, na, 90) :=
  rdZ_back l sh f na q [90] h (Nat.le_of_lt (at_cons l q _ _ h).1) (.inr rfl)
theorem rdZ_o (l : List UInt8) (sh : Nat) (f : List Nat) (na q : Nat) (c : UInt8) (X1 X2 : List UInt8) (v1 v2 : Nat) (h : l.drop q = c :: (X1 ++ 58 :: X2)) (hc : c = 43 ∨ c = 45) (h1 : IsPad X1 2 v1) (h2 : IsPad X2 2 v2) :
    rdZ l sh f na q = (true, sh, (f.set 6 v1).set 7 v2, na, c.toNat) := by
  obtain ⟨c1, c2, c3⟩ := at_cons l q _ _ h
  have d1 := at_app l (q + 1) 2 X1 _ c3 h1.1
  obtain ⟨g1, g2, g3⟩ := at_cons l _ _ _ d1
  have g4 : l.drop (q + 1 + 2 + 1) = X2 ++ [] := by rw [List.append_nil]; exact g3
  have d2 := at_app l (q + 1 + 2 + 1) 2 X2 [] g4 h2.1
  have le2 := at_le l (q + 1 + 2 + 1) 2 X2 [] g4 h2.1 (by omega)
  have hl : l.length ≤ q + 1 + 2 + 1 + 2 := by
    have := congrArg List.length d2
    rw [List.length_drop, List.length_nil] at this; omega
  have d1' : l.drop (q + 1 + wid 6) = 58 :: (X2 ++ []) := by rw [List.append_nil]; exact d1
  have e1 : grpF l 58 6 2 6 (q + 1) f = (true, q + 1 + 2 + 1 + 2, (f.set 6 v1).set 7 v2) := by
    rw [grp_first l 58 6 1 (q + 1) f X1 _ v1 c3 h1, grp_next l 58 6 0 7 _ _ X2 [] v2 (by omega) d1' h2]
    rfl
  have hm : l.getD q 0 ∈ ([90, 43, 45] : List UInt8) := by rw [c2]; rcases hc with rfl | rfl <;> decide
  have hn : ¬ l.getD q 0 = 90 := by rw [c2]; rcases hc with rfl | rfl <;> decide
  unfold rdZ
  rw [if_pos ⟨c1, hm⟩, if_neg hn, e1, if_pos rfl, c2]
  show (decide (q + 1 + 2 + 1 + 2 = l.length), sh, (f.set 6 v1).set 7 v2, na, c.toNat) = _
  rw [decide_eq_true (by omega : q + 1 + 2 + 1 + 2 = l.length)]
theorem rd_body (s : List UInt8) (f : List Nat) (na : Nat) (z : UInt8) (r : List UInt8) (hB : Body s f na) (hz : isD z = false) (hz2 : z ≠ 46) : ∃ q, rd (s ++ z :: r) = rdZ (s ++ z :: r) 3 f na q ∧ (s ++ z :: r).drop q = z :: r := by
  obtain ⟨Y, M, D, c, H, I, S, fr, y, m, d, h, i, k, hs, p1, p2, p3, p4, p5, p6, hc, hfr, hf⟩ := hB
  have hl : s ++ z :: r = Y ++ (45 :: (M ++ (45 :: (D ++ (c :: (H ++ (58 :: (I ++ (58 :: (S ++ (fr ++ z :: r))))))))))) := by
    rw [hs]; simp only [List.append_assoc, List.cons_append]
  have hnc := not_colon Y (45 :: (M ++ (45 :: (D ++ (c :: (H ++ (58 :: (I ++ (58 :: (S ++ (fr ++ z :: r)))))))))))  y p1
  rw [← hl] at hnc
  generalize s ++ z :: r = l at *
  obtain ⟨q, g1, g2, g3, _⟩ := grp_three l 45 0 0 z8 Y M D _ y m d hl p1 p2 p3
  obtain ⟨c1, c2, c3⟩ := at_cons l q _ _ g2
  obtain ⟨q2, t1, t2, t3, _⟩ := grp_three l 58 3 (q + 1) (((z8.set 0 y).set (0 + 1) m).set (0 + 2) d) H I S _ h i k c3 p4 p5 p6
  have e1 : rd l = rdD l := by unfold rd; rw [if_neg hnc]
  have e2 : rdD l = rdT l 1 (((z8.set 0 y).set (0 + 1) m).set (0 + 2) d) (q + 1) := by
    unfold rdD; rw [g1, if_pos rfl]
    show (if q < l.length ∧ l.getD q 0 ∈ [84, 32] then rdT l 1 (((z8.set 0 y).set (0 + 1) m).set (0 + 2) d) (q + 1) else _) = _
    rw [if_pos ⟨c1, by rw [c2]; rcases hc with rfl | rfl <;> decide⟩]
  have e3 : rdT l 1 (((z8.set 0 y).set (0 + 1) m).set (0 + 2) d) (q + 1) = rdF l 3 f q2 := by
    unfold rdT; rw [t1, if_pos rfl, hf]; rfl
  obtain ⟨q3, e4, e5⟩ := rdF_fr l 3 f q2 fr na z r t2 hfr hz hz2
  exact ⟨q3, by rw [e1, e2, e3, e4], e5⟩
theorem len2 (X : List UInt8) (v : Nat) (h : IsPad X 2 v) : ∃ a b, X = [a, b] ∧ isD b = true := by
  have hl := h.1
  match X, hl with
  | [a, b], _ => exact ⟨a, b, rfl, h.2.1 b (by simp)⟩
theorem zone_unique (s s' zn zn' : List UInt8) (hz : IsZone zn) (hz' : IsZone zn') (h : s ++ zn = s' ++ zn') : s = s' := by
  have hlast := congrArg List.getLast? h
  rcases hz with rfl | ⟨c, X1, X2, v1, v2, hc, rfl, h1, h2⟩ <;> rcases hz' with rfl | ⟨c', X1', X2', v1', v2', hc', rfl, h1', h2'⟩
  · exact (List.append_inj' h rfl).1
  · obtain ⟨a, b, rfl, _⟩ := len2 X1' v1' h1'
    obtain ⟨a', b', rfl, hb⟩ := len2 X2' v2' h2'
    simp at hlast
    rw [← hlast] at hb
    exact absurd hb (by decide)
  · obtain ⟨a, b, rfl, _⟩ := len2 X1 v1 h1
    obtain ⟨a', b', rfl, hb⟩ := len2 X2 v2 h2
    simp at hlast
    rw [hlast] at hb
    exact absurd hb (by decide)
  · obtain ⟨a, b, rfl, _⟩ := len2 X1' v1' h1'
    obtain ⟨a', b', rfl, hb⟩ := len2 X2' v2' h2'
    obtain ⟨e, g, rfl, _⟩ := len2 X1 v1 h1
    obtain ⟨e', g', rfl, hb⟩ := len2 X2 v2 h2
    exact (List.append_inj' h rfl).1
open Classical in
theorem mom_form (l : List UInt8) (h : ¬ ∃ s f na zn, l = s ++ zn ∧ Body s f na ∧ IsZone zn) : momF (rd l) = (0, 0, 3) := by
  unfold momF
  rw [if_neg (fun c => h (rd_inv l c.1 c.2.1 c.2.2))]
/-- the seconds of a zone -/
def zsec (v1 v2 : Nat) : Int := 3600 * (v1 : Int) + 60 * (v2 : Int)
open Classical in
theorem trip (s X1 X2 : List UInt8) (v1 v2 : Nat) (h1 : IsPad X1 2 v1) (h2 : IsPad X2 2 v2) (b1 : v1 ≤ 23) (b2 : v2 ≤ 59) :
    (∃ en : Int, en ≠ 0 ∧ momF (rd (s ++ [90])) = (0, 0, en) ∧ momF (rd (s ++ (43 :: (X1 ++ 58 :: X2)))) = (0, 0, en) ∧ momF (rd (s ++ (45 :: (X1 ++ 58 :: X2)))) = (0, 0, en)) ∨
    (∃ (B : Int) (na : Nat), na ≤ 999999999 ∧ -62167219200 ≤ B ∧ B ≤ 253402300799 ∧ momF (rd (s ++ [90])) = (B, na, 0) ∧ momF (rd (s ++ (43 :: (X1 ++ 58 :: X2)))) = (B - zsec v1 v2, na, 0) ∧ momF (rd (s ++ (45 :: (X1 ++ 58 :: X2)))) = (B + zsec v1 v2, na, 0)) := by
  have z1 : IsZone [90] := .inl rfl
  have z2 : IsZone (43 :: (X1 ++ 58 :: X2)) := .inr ⟨43, X1, X2, v1, v2, .inl rfl, rfl, h1, h2⟩
  have z3 : IsZone (45 :: (X1 ++ 58 :: X2)) := .inr ⟨45, X1, X2, v1, v2, .inr rfl, rfl, h1, h2⟩
  by_cases hB : ∃ f na, Body s f na
  · obtain ⟨f, na, hB⟩ := hB
    obtain ⟨q1, a1, a2⟩ := rd_body s f na 90 [] hB (by decide) (by decide)
    obtain ⟨q2, a3, a4⟩ := rd_body s f na 43 (X1 ++ 58 :: X2) hB (by decide) (by decide)
    obtain ⟨q3, a5, a6⟩ := rd_body s f na 45 (X1 ++ 58 :: X2) hB (by decide) (by decide)
    rw [rdZ_z _ 3 f na q1 a2] at a1
    rw [rdZ_o _ 3 f na q2 43 X1 X2 v1 v2 a4 (.inl rfl) h1 h2] at a3
    rw [rdZ_o _ 3 f na q3 45 X1 X2 v1 v2 a6 (.inr rfl) h1 h2] at a5
    have hG := rd_good (s ++ [90])
    rw [a1] at hG
    have hna : na ≤ 999999999 := hG.2.1
    obtain ⟨_, _, _, _, _, _, _, _, y, m, d, h, i, k, _, _, _, _, _, _, _, _, _, rfl⟩ := hB
    replace a3 : rd (s ++ (43 :: (X1 ++ 58 :: X2))) = (true, 3, [y, m, d, h, i, k, v1, v2], na, 43) := a3
    replace a5 : rd (s ++ (45 :: (X1 ++ 58 :: X2))) = (true, 3, [y, m, d, h, i, k, v1, v2], na, 45) := a5
    rw [a1, a3, a5]
    by_cases hI : IR 3 [y, m, d, h, i, k, 0, 0]
    · have hI2 : IR 3 [y, m, d, h, i, k, v1, v2] := ⟨lims _ (hI.1 0 (by omega)) (hI.1 1 (by omega)) (hI.1 2 (by omega)) (hI.1 3 (by omega)) (hI.1 4 (by omega)) (hI.1 5 (by omega)) b1 b2, hI.2⟩
      have hD : IsD (y : Int) (m : Int) (d : Int) := hI.2.resolve_left (by omega)
      have hdb := dn_bound _ _ _ hD
      have l3 : h ≤ 23 := hI.1 3 (by omega)
      have l4 : i ≤ 59 := hI.1 4 (by omega)
      have l5 : k ≤ 59 := hI.1 5 (by omega)
      refine .inr ⟨dn y m d * 86400 + (3600 * (h : Int) + 60 * (i : Int) + (k : Int)), na, hna, by omega, by omega, ?_, ?_, ?_⟩
      · unfold momF
        rw [if_pos ⟨rfl, rfl, by show (90 : Nat) ≠ 0; decide⟩, if_pos hI]
        have e : sec [y, m, d, h, i, k, 0, 0] 90 = dn y m d * 86400 + (3600 * (h : Int) + 60 * (i : Int) + (k : Int)) := by
          unfold sec
          rw [if_neg (by omega)]
          show dn y m d * 86400 + (3600 * (h : Int) + 60 * (i : Int) + (k : Int) - (3600 * ((0 : Nat) : Int) + 60 * ((0 : Nat) : Int))) = _
          omega
        show (sec [y, m, d, h, i, k, 0, 0] 90, na, (0 : Int)) = _
        rw [e]
      · unfold momF
        rw [if_pos ⟨rfl, rfl, by show (43 : Nat) ≠ 0; decide⟩, if_pos hI2]
        have e : sec [y, m, d, h, i, k, v1, v2] 43 = dn y m d * 86400 + (3600 * (h : Int) + 60 * (i : Int) + (k : Int)) - zsec v1 v2 := by
          unfold sec zsec
          rw [if_neg (by omega)]
          show dn y m d * 86400 + (3600 * (h : Int) + 60 * (i : Int) + (k : Int) - (3600 * (v1 : Int) + 60 * (v2 : Int))) = _
          omega
        show (sec [y, m, d, h, i, k, v1, v2] 43, na, (0 : Int)) = _
        rw [e]
      · unfold momF
        rw [if_pos ⟨rfl, rfl, by show (45 : Nat) ≠ 0; decide⟩, if_pos hI2]
        have e : sec [y, m, d, h, i, k, v1, v2] 45 = dn y m d * 86400 + (3600 * (h : Int) + 60 * (i : Int) + (k : Int)) + zsec v1 v2 := by
          unfold sec zsec
          rw [if_pos rfl]
          show dn y m d * 86400 + (3600 * (h : Int) + 60 * (i : Int) + (k : Int) - -(3600 * (v1 : Int) + 60 * (v2 : Int))) = _
          omega
        show (sec [y, m, d, h, i, k, v1, v2] 45, na, (0 : Int)) = _
        rw [e]
    · have hI2 : ¬ IR 3 [y, m, d, h, i, k, v1, v2] := fun g => hI ⟨lims _ (g.1 0 (by omega)) (g.1 1 (by omega)) (g.1 2 (by omega)) (g.1 3 (by omega)) (g.1 4 (by omega)) (g.1 5 (by omega)) (Nat.zero_le _) (Nat.zero_le _), g.2⟩
      refine .inl ⟨13, by omega, ?_, ?_, ?_⟩
      · unfold momF; rw [if_pos ⟨rfl, rfl, by show (90 : Nat) ≠ 0; decide⟩, if_neg hI]
      · unfold momF; rw [if_pos ⟨rfl, rfl, by show (43 : Nat) ≠ 0; decide⟩, if_neg hI2]
      · unfold momF; rw [if_pos ⟨rfl, rfl, by show (45 : Nat) ≠ 0; decide⟩, if_neg hI2]
  · have hno : ∀ zn, IsZone zn → ¬ ∃ s' f na zn', s ++ zn = s' ++ zn' ∧ Body s' f na ∧ IsZone zn' := fun zn hz => by
      rintro ⟨s', f, na, zn', e, hb, hz'⟩
      have := zone_unique s s' zn zn' hz hz' e
      subst this
      exact hB ⟨f, na, hb⟩
    exact .inl ⟨3, by omega, mom_form _ (hno _ z1), mom_form _ (hno _ z2), mom_form _ (hno _ z3)⟩
end Go.Proofs.YtckeefjmamggmaaDoor
