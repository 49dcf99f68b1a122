/-
  Helper: the reference's Read and the program's read agree (plain).
-/
import Derived.Test.YtckeefjmamggmaaDoorInRd5
import Derived.Test.YtckeefjmamggmaaDoorInForm
namespace Go.Proofs.YtckeefjmamggmaaDoor
open Go.RowKit
set_option linter.unusedVariables false
set_option linter.unusedSimpArgs false

theorem isF_iff (l : List UInt8) (p : Nat) (c : UInt8) : isF l p c = true ↔ (p < l.length ∧ l.getD p 0 = c) := by unfold isF; exact decide_eq_true_iff
theorem twoF_iff (l : List UInt8) (p n : Nat) : 0 ≤ twoF l p n ↔ rn l p n = n := by
  unfold twoF
  by_cases h : rn l p n = n
  · rw [if_pos h]; exact ⟨fun _ => h, fun _ => Int.natCast_nonneg _⟩
  · rw [if_neg h]; exact ⟨fun g => absurd g (by decide), fun g => absurd g h⟩
theorem twoF_eq (l : List UInt8) (p n : Nat) (h : rn l p n = n) : twoF l p n = (numv ((l.drop p).take n) : Nat) := by unfold twoF; rw [if_pos h]
theorem num_lt (l : List UInt8) (p n : Nat) (h : rn l p n = n) : numv ((l.drop p).take n) < 10 ^ n := by
  obtain ⟨h1, h2⟩ := (rn_full_iff l p n).1 h
  have h3 := numv_lt _ h2
  rw [h1] at h3
  exact h3
theorem gfirst (l : List UInt8) (mk : UInt8) (first n p : Nat) (f : List Nat) (h : rn l p (wid first) = wid first) :
    grpF l mk first (n + 1) first p f = grpF l mk first n (first + 1) (p + wid first) (f.set first (numv ((l.drop p).take (wid first)))) := by
  rw [grpF, if_neg (Nat.lt_irrefl _), if_neg (by omega)]
theorem gfirst_no (l : List UInt8) (mk : UInt8) (first n p : Nat) (f : List Nat) (h : ¬ rn l p (wid first) = wid first) : (grpF l mk first (n + 1) first p f).1 = false := by
  have h2 := (rn_le l p (wid first)).1
  rw [grpF, if_neg (Nat.lt_irrefl _), if_pos (by omega)]
theorem gnext (l : List UInt8) (mk : UInt8) (first n fd p : Nat) (f : List Nat) (hf : first < fd) (h0 : isF l p mk = true) (h : rn l (p + 1) (wid fd) = wid fd) :
    grpF l mk first (n + 1) fd p f = grpF l mk first n (fd + 1) (p + 1 + wid fd) (f.set fd (numv ((l.drop (p + 1)).take (wid fd)))) := by
  rw [grpF, if_pos hf, if_pos ((isF_iff _ _ _).1 h0), if_neg (by omega)]
theorem gnext_no (l : List UInt8) (mk : UInt8) (first n fd p : Nat) (f : List Nat) (hf : first < fd) (h : ¬ (isF l p mk = true ∧ rn l (p + 1) (wid fd) = wid fd)) : (grpF l mk first (n + 1) fd p f).1 = false := by
  have h2 := (rn_le l (p + 1) (wid fd)).1
  rw [grpF, if_pos hf]
  by_cases h0 : isF l p mk = true
  · rw [if_pos ((isF_iff _ _ _).1 h0), if_pos (by have : ¬ rn l (p + 1) (wid fd) = wid fd := fun g => h ⟨h0, g⟩; omega)]
  · rw [if_neg (fun g => h0 ((isF_iff _ _ _).2 g))]
theorem date_tie (l : List UInt8) (t : RT) :
    ((grpF l 45 0 3 0 0 z8).1 = false ∧ (dateR l 0 t).2 = -1) ∨
    ∃ y m d : Nat, y ≤ 9999 ∧ m ≤ 99 ∧ d ≤ 99 ∧ grpF l 45 0 3 0 0 z8 = (true, 10, [y, m, d, 0, 0, 0, 0, 0]) ∧ dateR l 0 t = ({ t with y := y, mo := m, d := d, dt := true }, 10) ∧ isF l 4 45 = true ∧ rn l 0 4 = 4 := by
  have hd : ∀ a b c : Bool, True := fun _ _ _ => trivial
  by_cases h1 : rn l 0 4 = 4
  · by_cases h2 : isF l 4 45 = true ∧ rn l 5 2 = 2
    · by_cases h3 : isF l 7 45 = true ∧ rn l 8 2 = 2
      · refine .inr ⟨numv ((l.drop 0).take 4), numv ((l.drop 5).take 2), numv ((l.drop 8).take 2), ?_, ?_, ?_, ?_, ?_, h2.1, h1⟩
        · have := num_lt l 0 4 h1; omega
        · have := num_lt l 5 2 h2.2; omega
        · have := num_lt l 8 2 h3.2; omega
        · rw [gfirst l 45 0 2 0 z8 h1, gnext l 45 0 1 (0 + 1) (0 + wid 0) _ (by omega) h2.1 h2.2, gnext l 45 0 0 (0 + 1 + 1) (0 + wid 0 + 1 + wid (0 + 1)) _ (by omega) h3.1 h3.2]
          rfl
        · unfold dateR
          rw [if_pos ⟨(twoF_iff l 0 4).2 h1, (twoF_iff l 5 2).2 h2.2, (twoF_iff l 8 2).2 h3.2, h2.1, h3.1⟩, twoF_eq l 0 4 h1, show twoF l (0 + 5) 2 = _ from twoF_eq l 5 2 h2.2, show twoF l (0 + 8) 2 = _ from twoF_eq l 8 2 h3.2]
          rfl
      · refine .inl ⟨?_, ?_⟩
        · rw [gfirst l 45 0 2 0 z8 h1, gnext l 45 0 1 (0 + 1) (0 + wid 0) _ (by omega) h2.1 h2.2]
          exact gnext_no l 45 0 0 (0 + 1 + 1) (0 + wid 0 + 1 + wid (0 + 1)) _ (by omega) h3
        · unfold dateR
          rw [if_neg (fun g => h3 ⟨g.2.2.2.2, (twoF_iff l 8 2).1 g.2.2.1⟩)]
    · refine .inl ⟨?_, ?_⟩
      · rw [gfirst l 45 0 2 0 z8 h1]
        exact gnext_no l 45 0 1 (0 + 1) (0 + wid 0) _ (by omega) h2
      · unfold dateR
        rw [if_neg (fun g => h2 ⟨g.2.2.2.1, (twoF_iff l 5 2).1 g.2.1⟩)]
  · refine .inl ⟨gfirst_no l 45 0 2 0 z8 h1, ?_⟩
    unfold dateR
    rw [if_neg (fun g => h1 ((twoF_iff l 0 4).1 g.1))]
/-- the reference's fraction behind a clock's digits -/
def frR (l : List UInt8) (p : Nat) (t : RT) : RT × Int :=
  if isF l p 46 = true then ({ t with na := (frn (digs l (p + 1)) : Nat) }, if (digs l (p + 1)).length < 1 ∨ 9 < (digs l (p + 1)).length then -1 else (p : Int) + 1 + ((digs l (p + 1)).length : Nat))
  else (t, (p : Int))
theorem clock_tie (l : List UInt8) (p : Nat) (t : RT) (a b c : Nat) :
    ((grpF l 58 3 3 3 p [a, b, c, 0, 0, 0, 0, 0]).1 = false ∧ (clockR l p t).2 = -1) ∨
    ∃ h i k : Nat, h ≤ 99 ∧ i ≤ 99 ∧ k ≤ 99 ∧ grpF l 58 3 3 3 p [a, b, c, 0, 0, 0, 0, 0] = (true, p + 8, [a, b, c, h, i, k, 0, 0]) ∧ clockR l p t = frR l (p + 8) { t with h := h, mi := i, s := k, tm := true } := by
  by_cases h1 : rn l p 2 = 2
  · by_cases h2 : isF l (p + 2) 58 = true ∧ rn l (p + 3) 2 = 2
    · by_cases h3 : isF l (p + 5) 58 = true ∧ rn l (p + 6) 2 = 2
      · refine .inr ⟨numv ((l.drop p).take 2), numv ((l.drop (p + 3)).take 2), numv ((l.drop (p + 6)).take 2), ?_, ?_, ?_, ?_, ?_⟩
        · have := num_lt l p 2 h1; omega
        · have := num_lt l _ 2 h2.2; omega
        · have := num_lt l _ 2 h3.2; omega
        · rw [gfirst l 58 3 2 p _ h1, gnext l 58 3 1 (3 + 1) (p + wid 3) _ (by omega) h2.1 h2.2, gnext l 58 3 0 (3 + 1 + 1) (p + wid 3 + 1 + wid (3 + 1)) _ (by omega) h3.1 h3.2]
          rfl
        · unfold clockR frR
          rw [if_pos ⟨(twoF_iff l p 2).2 h1, (twoF_iff l (p + 3) 2).2 h2.2, (twoF_iff l (p + 6) 2).2 h3.2, h2.1, h3.1⟩, twoF_eq l p 2 h1, twoF_eq l (p + 3) 2 h2.2, twoF_eq l (p + 6) 2 h3.2]
          by_cases h4 : isF l (p + 8) 46 = true
          · rw [if_pos h4, if_pos h4]
            have e : ((p + 8 : Nat) : Int) + 1 = (p : Int) + 9 := by omega
            rw [e]
          · rw [if_neg h4, if_neg h4]
            have e : ((p + 8 : Nat) : Int) = (p : Int) + 8 := by omega
            rw [e]
      · refine .inl ⟨?_, ?_⟩
        · rw [gfirst l 58 3 2 p _ h1, gnext l 58 3 1 (3 + 1) (p + wid 3) _ (by omega) h2.1 h2.2]
          exact gnext_no l 58 3 0 (3 + 1 + 1) (p + wid 3 + 1 + wid (3 + 1)) _ (by omega) h3
        · unfold clockR
          rw [if_neg (fun g => h3 ⟨g.2.2.2.2, (twoF_iff l (p + 6) 2).1 g.2.2.1⟩)]
    · refine .inl ⟨?_, ?_⟩
      · rw [gfirst l 58 3 2 p _ h1]
        exact gnext_no l 58 3 1 (3 + 1) (p + wid 3) _ (by omega) h2
      · unfold clockR
        rw [if_neg (fun g => h2 ⟨g.2.2.2.1, (twoF_iff l (p + 3) 2).1 g.2.1⟩)]
  · refine .inl ⟨gfirst_no l 58 3 2 p _ h1, ?_⟩
    unfold clockR
    rw [if_neg (fun g => h1 ((twoF_iff l p 2).1 g.1))]
theorem tw_take : ∀ (n : Nat) (X : List UInt8), (X.take n).takeWhile isD = (X.takeWhile isD).take n
  | 0, _ => by simp
  | n + 1, [] => by simp
  | n + 1, c :: X => by
    rw [List.take_succ_cons, List.takeWhile_cons, List.takeWhile_cons, tw_take n X]
    split <;> simp
theorem rn_digs (l : List UInt8) (p n : Nat) : rn l p n = min n (digs l p).length := by
  unfold rn digs; rw [tw_take, List.length_take]
theorem tw_pre : ∀ (X : List UInt8), X.take (X.takeWhile isD).length = X.takeWhile isD
  | [] => rfl
  | c :: X => by
    rw [List.takeWhile_cons]
    split
    · rw [List.length_cons, List.take_succ_cons, tw_pre X]
    · rfl
/-- what stands behind the clock's digits -/
theorem frac_tie (l : List UInt8) (p sh : Nat) (f : List Nat) (t : RT) (hp : p ≤ l.length) (hna : t.na = 0) :
    ((rdF l sh f p).1 = false ∧ (frR l p t).2 = -1) ∨
    ∃ na q : Nat, na ≤ 999999999 ∧ q ≤ l.length ∧ rdF l sh f p = rdZ l sh f na q ∧ frR l p t = ({ t with na := na }, (q : Int)) := by
  unfold rdF frR
  by_cases h : isF l p 46 = true
  · have h1 := (isF_iff _ _ _).1 h
    rw [if_pos h, if_pos (⟨h1.1, by rw [h1.2]; decide⟩ : p < l.length ∧ l.getD p 0 ∈ ([46] : List UInt8))]
    have hr := rn_digs l (p + 1) 9
    have hf := digs_fits l (p + 1) (by omega)
    by_cases h0 : (digs l (p + 1)).length = 0
    · refine .inl ⟨?_, ?_⟩
      · rw [if_pos (by omega)]; rfl
      · show (if _ then (-1 : Int) else _) = -1
        rw [if_pos (by omega)]
    · rw [if_neg (by omega)]
      by_cases h9 : (digs l (p + 1)).length ≤ 9
      · have hrn : rn l (p + 1) 9 = (digs l (p + 1)).length := by omega
        have ht : (l.drop (p + 1)).take (digs l (p + 1)).length = digs l (p + 1) := tw_pre _
        have hq : frn (digs l (p + 1)) = numv (digs l (p + 1) ++ List.replicate (9 - (digs l (p + 1)).length) 48) := by
          unfold frn; rw [List.take_of_length_le h9]
        refine .inr ⟨frn (digs l (p + 1)), p + 1 + (digs l (p + 1)).length, frn_le _ (digs_all l (p + 1)), hf, ?_, ?_⟩
        · rw [hrn, ht, hq]
        · rw [if_neg (by omega)]
          have e : (p : Int) + 1 + ((digs l (p + 1)).length : Nat) = ((p + 1 + (digs l (p + 1)).length : Nat) : Int) := by omega
          rw [e]
      · have hrn : rn l (p + 1) 9 = 9 := by omega
        refine .inl ⟨?_, ?_⟩
        · rw [hrn]
          obtain ⟨c, c1, c2, c3, _⟩ := digs_take l (p + 1) 9 (by omega)
          unfold rdZ
          have hcn : ¬ c ∈ ([90, 43, 45] : List UInt8) := by
            intro g
            simp only [List.mem_cons, List.not_mem_nil, or_false] at g
            rcases g with rfl | rfl | rfl <;> exact absurd c3 (by decide)
          rw [if_neg (by rw [c1]; exact fun g => hcn g.2)]
          show decide (p + 1 + 9 = l.length) = false
          exact decide_eq_false (by omega)
        · show (if _ then (-1 : Int) else _) = -1
          rw [if_pos (by omega)]
  · rw [if_neg h, if_neg (by
      rintro ⟨g1, g2⟩
      exact h ((isF_iff _ _ _).2 ⟨g1, by simpa using g2⟩))]
    refine .inr ⟨0, p, by omega, hp, rfl, ?_⟩
    have : ({ t with na := ((0 : Nat) : Int) } : RT) = t := by
      cases t; simp only [RT.mk.injEq]; simp at hna; simp [hna]
    rw [this]
theorem zone_tie (l : List UInt8) (q sh na y m d h i k : Nat) (t : RT) (hq : q < l.length) (h1 : t.late = false) (h2 : t.off = 0) :
    ((rdZ l sh [y, m, d, h, i, k, 0, 0] na q).1 = false ∧ ¬ (zoneR l q t).2 = (l.length : Int)) ∨
    ∃ v1 v2 zo : Nat, zo ≠ 0 ∧ v1 ≤ 99 ∧ v2 ≤ 99 ∧ rdZ l sh [y, m, d, h, i, k, 0, 0] na q = (true, sh, [y, m, d, h, i, k, v1, v2], na, zo) ∧
      zoneR l q t = ({ t with zn := true, late := decide (23 < (v1 : Int) ∨ 59 < (v2 : Int)), off := if zo = 45 then -(3600 * (v1 : Int) + 60 * (v2 : Int)) else 3600 * (v1 : Int) + 60 * (v2 : Int) }, (l.length : Int)) := by
  unfold rdZ zoneR
  by_cases z : isF l q 90 = true
  · have z1 := (isF_iff _ _ _).1 z
    rw [if_pos z, if_pos ⟨z1.1, by rw [z1.2]; decide⟩, if_pos z1.2, z1.2]
    by_cases e : q + 1 = l.length
    · refine .inr ⟨0, 0, 90, by omega, by omega, by omega, by rw [decide_eq_true e]; rfl, ?_⟩
      have e2 : (q : Int) + 1 = (l.length : Int) := by omega
      rw [e2, decide_eq_false (by omega)]
      cases t
      simp at h1 h2
      simp [h1, h2]
    · refine .inl ⟨decide_eq_false e, ?_⟩
      show ¬ (q : Int) + 1 = (l.length : Int)
      omega
  · rw [if_neg z]
    by_cases c : isF l q 43 = true ∨ isF l q 45 = true
    · have c0 : ∃ zo : UInt8, l.getD q 0 = zo ∧ (zo = 43 ∨ zo = 45) ∧ (isF l q 45 = true ↔ zo = 45) := by
        refine ⟨_, rfl, ?_, ?_⟩
        · rcases c with c | c
          · exact .inl ((isF_iff _ _ _).1 c).2
          · exact .inr ((isF_iff _ _ _).1 c).2
        · rw [isF_iff]; exact ⟨fun g => g.2, fun g => ⟨hq, g⟩⟩
      obtain ⟨zo, c1, c2, c3⟩ := c0
      rw [c1, if_pos ⟨hq, by rcases c2 with rfl | rfl <;> decide⟩, if_neg (by rcases c2 with rfl | rfl <;> decide)]
      by_cases g1 : rn l (q + 1) 2 = 2
      · by_cases g2 : isF l (q + 3) 58 = true ∧ rn l (q + 4) 2 = 2
        · have e : grpF l 58 6 2 6 (q + 1) [y, m, d, h, i, k, 0, 0] = (true, q + 6, [y, m, d, h, i, k, numv ((l.drop (q + 1)).take 2), numv ((l.drop (q + 4)).take 2)]) := by
            rw [gfirst l 58 6 1 (q + 1) _ g1, gnext l 58 6 0 (6 + 1) (q + 1 + wid 6) _ (by omega) g2.1 g2.2]
            rfl
          rw [e, if_pos rfl, if_pos ⟨c, (twoF_iff _ _ _).2 g1, (twoF_iff _ _ _).2 g2.2, g2.1⟩, twoF_eq _ _ _ g1, twoF_eq _ _ _ g2.2]
          by_cases e6 : q + 6 = l.length
          · refine .inr ⟨numv ((l.drop (q + 1)).take 2), numv ((l.drop (q + 4)).take 2), zo.toNat, ?_, ?_, ?_, ?_, ?_⟩
            · rcases c2 with rfl | rfl <;> decide
            · have := num_lt l _ 2 g1; omega
            · have := num_lt l _ 2 g2.2; omega
            · show (decide (q + 6 = l.length), _, _, _, _) = _
              rw [decide_eq_true e6]
            · have e2 : (q : Int) + 6 = (l.length : Int) := by omega
              rw [e2]
              by_cases c4 : zo = 45
              · rw [if_pos (c3.2 c4), if_pos (by rw [c4]; rfl)]
              · rw [if_neg (fun g => c4 (c3.1 g)), if_neg (show ¬ zo.toNat = 45 from fun g => c4 (UInt8.toNat_inj.1 g))]
          · refine .inl ⟨decide_eq_false e6, ?_⟩
            show ¬ (q : Int) + 6 = (l.length : Int)
            omega
        · refine .inl ⟨?_, ?_⟩
          · have e : (grpF l 58 6 2 6 (q + 1) [y, m, d, h, i, k, 0, 0]).1 = false := by
              rw [gfirst l 58 6 1 (q + 1) _ g1]
              exact gnext_no l 58 6 0 (6 + 1) (q + 1 + wid 6) _ (by omega) g2
            rw [e, if_neg (by decide)]; rfl
          · rw [if_neg (fun g => g2 ⟨g.2.2.2, (twoF_iff _ _ _).1 g.2.2.1⟩)]
            show ¬ (-1 : Int) = (l.length : Int)
            omega
      · refine .inl ⟨?_, ?_⟩
        · rw [gfirst_no l 58 6 1 (q + 1) _ g1, if_neg (by decide)]; rfl
        · rw [if_neg (fun g => g1 ((twoF_iff _ _ _).1 g.2.1))]
          show ¬ (-1 : Int) = (l.length : Int)
          omega
    · refine .inl ⟨?_, ?_⟩
      · rw [if_neg ?_]
        · exact decide_eq_false (by omega)
        · rintro ⟨_, g⟩
          simp only [List.mem_cons, List.not_mem_nil, or_false] at g
          rcases g with g | g | g
          · exact z ((isF_iff _ _ _).2 ⟨hq, g⟩)
          · exact c (.inl ((isF_iff _ _ _).2 ⟨hq, g⟩))
          · exact c (.inr ((isF_iff _ _ _).2 ⟨hq, g⟩))
      · rw [if_neg (fun g => c g.1)]
        show ¬ (-1 : Int) = (l.length : Int)
        omega
/-- what a text read is to the reference -/
def tOf (sh : Nat) (f : List Nat) (na zo : Nat) : RT :=
  ⟨decide (sh = 1 ∨ sh = 3), decide (2 ≤ sh), decide (zo ≠ 0), (f.getD 0 0 : Nat), (f.getD 1 0 : Nat), (f.getD 2 0 : Nat), (f.getD 3 0 : Nat), (f.getD 4 0 : Nat), (f.getD 5 0 : Nat), (na : Nat),
    if zo = 45 then -(3600 * ((f.getD 6 0 : Nat) : Int) + 60 * ((f.getD 7 0 : Nat) : Int)) else 3600 * ((f.getD 6 0 : Nat) : Int) + 60 * ((f.getD 7 0 : Nat) : Int), decide (23 < ((f.getD 6 0 : Nat) : Int) ∨ 59 < ((f.getD 7 0 : Nat) : Int))⟩
/-- what the reading of a text answers -/
inductive Cls (l : List UInt8) : Prop
  | bad (h : (rd l).1 = false ∨ ((rd l).2.1 = 2 ∧ (rd l).2.2.2.2 ≠ 0)) (h2 : (readR l).2 = false)
  | date (y m d : Nat) (hy : y ≤ 9999) (hm : m ≤ 99) (hd : d ≤ 99) (h : rd l = (true, 1, [y, m, d, 0, 0, 0, 0, 0], 0, 0)) (h2 : readR l = (tOf 1 [y, m, d, 0, 0, 0, 0, 0] 0 0, true))
  | time (h i k na : Nat) (hh : h ≤ 99) (hi : i ≤ 99) (hk : k ≤ 99) (hn : na ≤ 999999999) (h1 : rd l = (true, 2, [0, 0, 0, h, i, k, 0, 0], na, 0)) (h2 : readR l = (tOf 2 [0, 0, 0, h, i, k, 0, 0] na 0, true))
  | both (y m d h i k na : Nat) (hy : y ≤ 9999) (hm : m ≤ 99) (hd : d ≤ 99) (hh : h ≤ 99) (hi : i ≤ 99) (hk : k ≤ 99) (hn : na ≤ 999999999) (h1 : rd l = (true, 3, [y, m, d, h, i, k, 0, 0], na, 0)) (h2 : readR l = (tOf 3 [y, m, d, h, i, k, 0, 0] na 0, true))
  | inst (y m d h i k na v1 v2 zo : Nat) (hy : y ≤ 9999) (hm : m ≤ 99) (hd : d ≤ 99) (hh : h ≤ 99) (hi : i ≤ 99) (hk : k ≤ 99) (hn : na ≤ 999999999) (hz : zo ≠ 0) (hv : v1 ≤ 99) (hv2 : v2 ≤ 99) (h1 : rd l = (true, 3, [y, m, d, h, i, k, v1, v2], na, zo)) (h2 : readR l = (tOf 3 [y, m, d, h, i, k, v1, v2] na zo, true))
theorem cls (l : List UInt8) : Cls l := by
  by_cases hc : 3 ≤ l.length ∧ l.getD 2 0 = 58
  · have e1 : rd l = rdT l 0 z8 0 := by unfold rd; rw [if_pos hc]
    have hcF : isF l 2 58 = true := (isF_iff _ _ _).2 ⟨by omega, hc.2⟩
    have hd : (dateR l 0 RT.zero).2 < 0 := by
      rcases date_tie l RT.zero with ⟨_, g⟩ | ⟨_, _, _, _, _, _, _, _, _, g⟩
      · rw [g]; decide
      · obtain ⟨g1, g2⟩ := (rn_full_iff l 0 4).1 g
        exfalso
        have h4 : l.getD 2 0 ∈ (l.drop 0).take 4 := by
          rw [List.length_take, List.length_drop] at g1
          have : 2 < ((l.drop 0).take 4).length := by rw [List.length_take, List.length_drop]; omega
          have h5 := List.getElem_mem this
          rw [List.getElem_take, List.getElem_drop] at h5
          rw [List.getD_eq_getElem?_getD, List.getElem?_eq_getElem (by omega)]
          exact h5
        have := g2 _ h4
        rw [hc.2] at this
        exact absurd this (by decide)
    have e2 : readR l = ((clockR l 0 RT.zero).1, decide ((clockR l 0 RT.zero).2 = (l.length : Int))) := by unfold readR; rw [if_pos hd]
    rcases clock_tie l 0 RT.zero 0 0 0 with ⟨g1, g2⟩ | ⟨h, i, k, hh, hi, hk, g1, g2⟩
    · refine .bad (.inl ?_) ?_
      · rw [e1]; unfold rdT
        rw [show (grpF l 58 3 3 3 0 z8).1 = false from g1, if_neg (by decide)]; rfl
      · rw [e2]
        show decide _ = false
        exact decide_eq_false (by omega)
    · have e3 : rd l = rdF l 2 [0, 0, 0, h, i, k, 0, 0] 8 := by
        rw [e1]; unfold rdT
        rw [show grpF l 58 3 3 3 0 z8 = _ from g1, if_pos rfl]
      have hl8 : 8 ≤ l.length := by
        by_cases h8 : 8 ≤ l.length
        · exact h8
        · exfalso
          have := grp_three_inv l 58 3 0 z8 (by rw [show grpF l 58 3 3 3 0 z8 = _ from g1])
          obtain ⟨X1, X2, X3, v1, v2, v3, q, b1, b2, b3, b4, _⟩ := this
          have b5 := congrArg List.length b1
          simp only [List.length_append, List.length_cons, List.length_drop] at b5
          have c1 := b2.1
          have c2 := b3.1
          have c3 := b4.1
          simp [wid] at c1 c2 c3
          omega
      rcases frac_tie l 8 2 [0, 0, 0, h, i, k, 0, 0] { RT.zero with h := h, mi := i, s := k, tm := true } hl8 rfl with ⟨f1, f2⟩ | ⟨na, q, hn, hq, f1, f2⟩
      · refine .bad (.inl (by rw [e3]; exact f1)) ?_
        rw [e2, g2]
        show decide ((frR l 8 _).2 = _) = false
        rw [f2]
        exact decide_eq_false (by omega)
      · have e4 : readR l = ({ ({ RT.zero with h := h, mi := i, s := k, tm := true } : RT) with na := na }, decide ((q : Int) = (l.length : Int))) := by
          rw [e2, g2]
          rw [show frR l (0 + 8) { RT.zero with h := h, mi := i, s := k, tm := true } = _ from f2]
        by_cases hql : q = l.length
        · refine .time h i k na hh hi hk hn ?_ ?_
          · rw [e3, f1]; unfold rdZ
            rw [if_neg (by omega), decide_eq_true hql]
          · rw [e4, decide_eq_true (by omega)]
            rfl
        · refine .bad ?_ ?_
          · rcases zone_tie l q 2 na 0 0 0 h i k RT.zero (by omega) rfl rfl with ⟨z1, _⟩ | ⟨v1, v2, zo, z1, _, _, z2, _⟩
            · exact .inl (by rw [e3, f1]; exact z1)
            · exact .inr (by rw [e3, f1, z2]; exact ⟨rfl, z1⟩)
          · rw [e4]
            exact decide_eq_false (by omega)
  · have e1 : rd l = rdD l := by unfold rd; rw [if_neg hc]
    rcases date_tie l RT.zero with ⟨g1, g2⟩ | ⟨y, m, d, hy, hm, hd, g1, g2, g4, _⟩
    · refine .bad (.inl ?_) ?_
      · rw [e1]; unfold rdD
        rw [g1, if_neg (by decide)]; rfl
      · have e2 : readR l = ((clockR l 0 RT.zero).1, decide ((clockR l 0 RT.zero).2 = (l.length : Int))) := by unfold readR; rw [if_pos (by rw [g2]; decide)]
        rw [e2]
        have : (clockR l 0 RT.zero).2 = -1 := by
          unfold clockR
          rw [if_neg]
          rintro ⟨_, _, _, h4, _⟩
          have h5 := (isF_iff _ _ _).1 h4
          exact hc ⟨by omega, h5.2⟩
        show decide _ = false
        exact decide_eq_false (by omega)
    · have hl10 : 10 ≤ l.length := by
        have := grp_three_inv l 45 0 0 z8 (by rw [g1])
        obtain ⟨X1, X2, X3, v1, v2, v3, q, b1, b2, b3, b4, _⟩ := this
        have b5 := congrArg List.length b1
        simp only [List.length_append, List.length_cons, List.length_drop] at b5
        have c1 := b2.1
        have c2 := b3.1
        have c3 := b4.1
        simp [wid] at c1 c2 c3
        omega
      have e2 : readR l = if l.length = 10 then ({ RT.zero with y := y, mo := m, d := d, dt := true }, true)
          else if isF l 10 84 = true ∨ isF l 10 32 = true then
            if (clockR l 11 { RT.zero with y := y, mo := m, d := d, dt := true }).2 = (l.length : Int) then ((clockR l 11 { RT.zero with y := y, mo := m, d := d, dt := true }).1, true)
            else if (clockR l 11 { RT.zero with y := y, mo := m, d := d, dt := true }).2 < 0 then ((clockR l 11 { RT.zero with y := y, mo := m, d := d, dt := true }).1, false)
            else ((zoneR l (clockR l 11 { RT.zero with y := y, mo := m, d := d, dt := true }).2.toNat (clockR l 11 { RT.zero with y := y, mo := m, d := d, dt := true }).1).1, decide ((zoneR l (clockR l 11 { RT.zero with y := y, mo := m, d := d, dt := true }).2.toNat (clockR l 11 { RT.zero with y := y, mo := m, d := d, dt := true }).1).2 = (l.length : Int)))
          else ({ RT.zero with y := y, mo := m, d := d, dt := true }, false) := by
        unfold readR
        rw [g2, if_neg (show ¬ ((10 : Int) < 0) by decide)]
      have e3 : rd l = if 10 < l.length ∧ l.getD 10 0 ∈ ([84, 32] : List UInt8) then rdT l 1 [y, m, d, 0, 0, 0, 0, 0] 11 else (decide (10 = l.length), 1, [y, m, d, 0, 0, 0, 0, 0], 0, 0) := by
        rw [e1]; unfold rdD
        rw [g1, if_pos rfl]
      by_cases h10 : l.length = 10
      · refine .date y m d hy hm hd ?_ ?_
        · rw [e3, if_neg (by omega), decide_eq_true (by omega)]
        · rw [e2, if_pos h10]; rfl
      · rw [if_neg h10] at e2
        by_cases hT : isF l 10 84 = true ∨ isF l 10 32 = true
        · rw [if_pos hT] at e2
          have hT2 : 10 < l.length ∧ l.getD 10 0 ∈ ([84, 32] : List UInt8) := by
            refine ⟨by omega, ?_⟩
            rcases hT with g | g
            · rw [((isF_iff _ _ _).1 g).2]; decide
            · rw [((isF_iff _ _ _).1 g).2]; decide
          rw [if_pos hT2] at e3
          rcases clock_tie l 11 { RT.zero with y := y, mo := m, d := d, dt := true } y m d with ⟨c1, c2⟩ | ⟨h, i, k, hh, hi, hk, c1, c2⟩
          · refine .bad (.inl ?_) ?_
            · rw [e3]; unfold rdT
              rw [c1, if_neg (by decide)]; rfl
            · rw [e2, if_neg (by omega), if_pos (by omega)]
          · have e4 : rd l = rdF l 3 [y, m, d, h, i, k, 0, 0] 19 := by
              rw [e3]; unfold rdT
              rw [c1, if_pos rfl]
            have hl19 : 19 ≤ l.length := by
              have := grp_three_inv l 58 3 11 [y, m, d, 0, 0, 0, 0, 0] (by rw [c1])
              obtain ⟨X1, X2, X3, v1, v2, v3, q, b1, b2, b3, b4, _⟩ := this
              have b5 := congrArg List.length b1
              simp only [List.length_append, List.length_cons, List.length_drop] at b5
              have c1 := b2.1
              have c2 := b3.1
              have c3 := b4.1
              simp [wid] at c1 c2 c3
              omega
            rw [c2] at e2
            rcases frac_tie l 19 3 [y, m, d, h, i, k, 0, 0] { ({ RT.zero with y := y, mo := m, d := d, dt := true } : RT) with h := h, mi := i, s := k, tm := true } hl19 rfl with ⟨f1, f2⟩ | ⟨na, q, hn, hq, f1, f2⟩
            · refine .bad (.inl (by rw [e4]; exact f1)) ?_
              rw [show frR l (11 + 8) _ = frR l 19 _ from rfl] at e2
              rw [e2, if_neg (by rw [f2]; omega), if_pos (by rw [f2]; decide)]
            · rw [show frR l (11 + 8) _ = _ from f2] at e2
              by_cases hql : q = l.length
              · refine .both y m d h i k na hy hm hd hh hi hk hn ?_ ?_
                · rw [e4, f1]; unfold rdZ
                  rw [if_neg (by omega), decide_eq_true hql]
                · rw [e2, if_pos (by show (q : Int) = _; omega)]
                  rfl
              · rw [if_neg (by show ¬ (q : Int) = _; omega), if_neg (by show ¬ (q : Int) < 0; omega)] at e2
                rw [show ((q : Int)).toNat = q by omega] at e2
                rcases zone_tie l q 3 na y m d h i k { ({ ({ RT.zero with y := y, mo := m, d := d, dt := true } : RT) with h := h, mi := i, s := k, tm := true } : RT) with na := na } (by omega) rfl rfl with ⟨z1, z2⟩ | ⟨v1, v2, zo, z1, zv, zv2, z2, z3⟩
                · refine .bad (.inl (by rw [e4, f1]; exact z1)) ?_
                  rw [e2]
                  exact decide_eq_false z2
                · refine .inst y m d h i k na v1 v2 zo hy hm hd hh hi hk hn z1 zv zv2 (by rw [e4, f1, z2]) ?_
                  rw [e2, z3]
                  show (_, decide ((l.length : Int) = l.length)) = _
                  rw [decide_eq_true rfl]
                  refine Prod.ext ?_ rfl
                  unfold tOf
                  rw [decide_eq_true z1]
                  rfl
        · rw [if_neg hT] at e2
          have hT2 : ¬ (10 < l.length ∧ l.getD 10 0 ∈ ([84, 32] : List UInt8)) := by
            rintro ⟨g1, g2⟩
            simp only [List.mem_cons, List.not_mem_nil, or_false] at g2
            exact hT (g2.imp (fun g => (isF_iff _ _ _).2 ⟨g1, g⟩) (fun g => (isF_iff _ _ _).2 ⟨g1, g⟩))
          rw [if_neg hT2] at e3
          refine .bad (.inl ?_) (by rw [e2])
          rw [e3]
          exact decide_eq_false (by omega)
end Go.Proofs.YtckeefjmamggmaaDoor
