/-
  Helper: the plain part of the calendar: lengths of years and months, day numbers, their order.
-/
namespace Go.Proofs.YtckeefjmamggmaaDoor
set_option linter.unusedVariables false

def leap (y : Int) : Bool := decide (y % 4 = 0 ∧ (y % 100 ≠ 0 ∨ y % 400 = 0))
def yl (y : Int) : Int := if leap y then 366 else 365
/-- the length of a month from 0 to 12 -/
def ml (b : Bool) (m : Int) : Int := if m = 0 then 0 else if m = 2 then (if b then 29 else 28) else if m = 4 ∨ m = 6 ∨ m = 9 ∨ m = 11 then 30 else 31
/-- the days before a month -/
def mb (b : Bool) (m : Int) : Int :=
  if m ≤ 1 then 0 else if m = 2 then 31 else (if b then 29 else 28) +
    (if m = 3 then 31 else if m = 4 then 62 else if m = 5 then 92 else if m = 6 then 123 else if m = 7 then 153 else if m = 8 then 184 else if m = 9 then 215 else if m = 10 then 245 else if m = 11 then 276 else if m = 12 then 306 else 337)
/-- the days before a year -/
def db (y : Int) : Int := 365 * y + (y + 3) / 4 - (y + 99) / 100 + (y + 399) / 400
def dn (y m d : Int) : Int := db y - 719528 + mb (leap y) m + d - 1
def IsD (y m d : Int) : Prop := 0 ≤ y ∧ y ≤ 9999 ∧ 1 ≤ m ∧ m ≤ 12 ∧ 1 ≤ d ∧ d ≤ ml (leap y) m

theorem mb_step (b : Bool) (m : Int) (h0 : 0 ≤ m) (h1 : m ≤ 12) : mb b (m + 1) = mb b m + ml b m := by
  have h : m = 0 ∨ m = 1 ∨ m = 2 ∨ m = 3 ∨ m = 4 ∨ m = 5 ∨ m = 6 ∨ m = 7 ∨ m = 8 ∨ m = 9 ∨ m = 10 ∨ m = 11 ∨ m = 12 := by omega
  rcases h with rfl | rfl | rfl | rfl | rfl | rfl | rfl | rfl | rfl | rfl | rfl | rfl | rfl <;> cases b <;> decide
theorem ml_pos (b : Bool) (m : Int) (h0 : 1 ≤ m) : 28 ≤ ml b m ∧ ml b m ≤ 31 := by
  unfold ml
  repeat' split
  all_goals omega
theorem ml_bound (b : Bool) (m : Int) : 0 ≤ ml b m ∧ ml b m ≤ 31 := by
  unfold ml
  repeat' split
  all_goals omega
theorem mb_add (b : Bool) (m : Int) (k : Nat) (h0 : 0 ≤ m) (h1 : m + k ≤ 13) : mb b m ≤ mb b (m + k) := by
  induction k with
  | zero => simp
  | succ k ih =>
    have h2 := mb_step b (m + k) (by omega) (by omega)
    have h3 := ml_bound b (m + k)
    have h4 := ih (by omega)
    rw [show m + ((k + 1 : Nat) : Int) = m + k + 1 by omega]
    omega
theorem mb_mono (b : Bool) (m n : Int) (h0 : 0 ≤ m) (h : m ≤ n) (h1 : n ≤ 13) : mb b m ≤ mb b n := by
  have := mb_add b m (n - m).toNat h0 (by omega)
  rwa [show m + ((n - m).toNat : Int) = n by omega] at this
theorem mb_bound (b : Bool) (m : Int) (h0 : 0 ≤ m) (h1 : m ≤ 13) : 0 ≤ mb b m ∧ mb b m ≤ 366 := by
  have h2 := mb_mono b 0 m (by omega) h0 h1
  have h3 := mb_mono b m 13 h0 h1 (by omega)
  have e0 : mb b 0 = 0 := by cases b <;> decide
  have e1 : mb b 13 ≤ 366 := by cases b <;> decide
  omega
theorem mb_13 (y : Int) : mb (leap y) 13 = yl y := by
  unfold yl
  cases leap y <;> decide
theorem leap_iff (y : Int) : leap y = true ↔ (y % 4 = 0 ∧ (y % 100 ≠ 0 ∨ y % 400 = 0)) := by
  unfold leap; exact decide_eq_true_iff
theorem db_step (y : Int) : db (y + 1) = db y + yl y := by
  unfold db yl
  split
  · rename_i h
    rw [leap_iff] at h
    omega
  · rename_i h
    rw [leap_iff] at h
    omega
theorem db_mono (x y : Int) (h : x ≤ y) : db x ≤ db y := by
  unfold db; omega
theorem db_lt (x y : Int) (h : x < y) : db (x + 1) ≤ db y := db_mono _ _ (by omega)
theorem db_bound (y : Int) (h0 : 0 ≤ y) (h1 : y ≤ 10000) : 0 ≤ db y ∧ db y ≤ 3652425 := by
  unfold db; omega
theorem dn_in_year (y m d : Int) (h : IsD y m d) : db y - 719528 ≤ dn y m d ∧ dn y m d < db (y + 1) - 719528 := by
  obtain ⟨_, _, hm, hM, hd, hD⟩ := h
  have h1 := mb_step (leap y) m (by omega) hM
  have h2 := mb_mono (leap y) (m + 1) 13 (by omega) (by omega) (by omega)
  have h3 := mb_bound (leap y) m (by omega) (by omega)
  rw [mb_13] at h2
  rw [db_step]
  unfold dn
  omega
theorem dn_bound (y m d : Int) (h : IsD y m d) : -719528 ≤ dn y m d ∧ dn y m d ≤ 2932896 := by
  have h1 := dn_in_year y m d h
  obtain ⟨hy, hY, _⟩ := h
  have h2 := db_mono 0 y hy
  have h3 := db_mono (y + 1) 10000 (by omega)
  have e0 : db 0 = 0 := by decide
  have e1 : db 10000 = 3652425 := by decide
  omega
/-- a is before b in the order of the three numbers -/
def Before (y m d y' m' d' : Int) : Prop := y < y' ∨ (y = y' ∧ (m < m' ∨ (m = m' ∧ d < d')))
theorem dn_lt (y m d y' m' d' : Int) (h : IsD y m d) (h' : IsD y' m' d') (hb : Before y m d y' m' d') : dn y m d < dn y' m' d' := by
  have a := dn_in_year _ _ _ h
  have b := dn_in_year _ _ _ h'
  rcases hb with hy | ⟨rfl, hm | ⟨rfl, hd⟩⟩
  · have := db_lt y y' hy
    omega
  · obtain ⟨_, _, _, hM, _, hD⟩ := h
    obtain ⟨_, _, _, hM', hd', _⟩ := h'
    have h1 := mb_step (leap y) m (by omega) hM
    have h2 := mb_mono (leap y) (m + 1) m' (by omega) (by omega) (by omega)
    unfold dn
    omega
  · unfold dn
    omega
theorem dn_inj (y m d y' m' d' : Int) (h : IsD y m d) (h' : IsD y' m' d') (e : dn y m d = dn y' m' d') : y = y' ∧ m = m' ∧ d = d' := by
  by_cases h1 : Before y m d y' m' d'
  · have := dn_lt _ _ _ _ _ _ h h' h1; omega
  · by_cases h2 : Before y' m' d' y m d
    · have := dn_lt _ _ _ _ _ _ h' h h2; omega
    · unfold Before at h1 h2; omega
theorem dn_lt_iff (y m d y' m' d' : Int) (h : IsD y m d) (h' : IsD y' m' d') : dn y m d < dn y' m' d' ↔ Before y m d y' m' d' := by
  constructor
  · intro hl
    by_cases h1 : Before y m d y' m' d'
    · exact h1
    · by_cases h2 : Before y' m' d' y m d
      · have := dn_lt _ _ _ _ _ _ h' h h2; omega
      · have : y = y' ∧ m = m' ∧ d = d' := by unfold Before at h1 h2; omega
        obtain ⟨rfl, rfl, rfl⟩ := this
        omega
  · exact dn_lt _ _ _ _ _ _ h h'
theorem leap_400 (y : Int) : leap (y + 400) = leap y := by
  unfold leap
  rw [decide_eq_decide]
  omega
theorem dn_400 (y m d : Int) : dn (y + 400) m d = dn y m d + 146097 := by
  unfold dn db
  rw [leap_400]
  omega
/-- the weekday -/
def wd (n : Int) : Int := (n + 3) % 7
theorem wd_cycle (n : Int) : wd (n + 146097) = wd n := by unfold wd; omega
theorem wd_next (n : Int) : wd (n + 1) = (wd n + 1) % 7 := by unfold wd; omega
end Go.Proofs.YtckeefjmamggmaaDoor
