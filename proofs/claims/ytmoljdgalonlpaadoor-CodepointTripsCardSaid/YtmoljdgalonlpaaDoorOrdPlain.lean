/-
  Helper, plain: valid strings are ordered by their bytes as by their scalars.
-/
import Derived.Test.YtmoljdgalonlpaaDoorScanJoin
import Derived.Lib.Strings
namespace Go.Proofs.YtmoljdgalonlpaaDoor
open Go.RowKit
set_option linter.unusedVariables false

/-- the order of lists of numbers -/
def nless : List Nat → List Nat → Bool
  | _, [] => false
  | [], _ :: _ => true
  | a :: x, b :: y => decide (a < b) || (a == b && nless x y)
theorem nless_lt (a b : Nat) (x y : List Nat) (h : a < b) : nless (a :: x) (b :: y) = true := by simp [nless, h]
theorem nless_gt (a b : Nat) (x y : List Nat) (h : b < a) : nless (a :: x) (b :: y) = false := by
  have h1 : ¬ a < b := by omega
  have h2 : ¬ a = b := by omega
  simp [nless, h1, h2]
theorem nless_eq (a : Nat) (x y : List Nat) : nless (a :: x) (a :: y) = nless x y := by simp [nless]
theorem bytes_nless : ∀ (x y : List UInt8), Op.bytesLess x y = nless (x.map (·.toNat)) (y.map (·.toNat))
  | [], [] => rfl
  | _ :: _, [] => rfl
  | [], _ :: _ => rfl
  | a :: x, b :: y => by
    have ih := bytes_nless x y
    have e1 : (a < b) = (a.toNat < b.toNat) := propext UInt8.lt_iff_toNat_lt
    have e2 : (a == b) = (a.toNat == b.toNat) := by
      rw [Bool.eq_iff_iff, beq_iff_eq, beq_iff_eq]; exact ⟨fun h => by rw [h], fun h => UInt8.toNat_inj.1 h⟩
    unfold Op.bytesLess
    rw [List.map_cons, List.map_cons]
    unfold nless
    rw [ih, e2]
    simp only [e1]

/-- the forms of a well-formed sequence -/
inductive Form : List Nat → Nat → Nat → Prop
  | one (a : Nat) (t : List Nat) : a < 128 → Form (a :: t) a 1
  | two (a b : Nat) (t : List Nat) (v : Nat) : 192 ≤ a → a < 224 → cont b → v = 64 * (a - 192) + b - 128 → 128 ≤ v → Form (a :: b :: t) v 2
  | three (a b c : Nat) (t : List Nat) (v : Nat) : 224 ≤ a → a < 240 → cont b → cont c → v = 64 * (64 * (a - 224) + b - 128) + c - 128 → 2048 ≤ v → Form (a :: b :: c :: t) v 3
  | four (a b c d : Nat) (t : List Nat) (v : Nat) : 240 ≤ a → a < 248 → cont b → cont c → cont d → v = 64 * (64 * (64 * (a - 240) + b - 128) + c - 128) + d - 128 → 65536 ≤ v → Form (a :: b :: c :: d :: t) v 4
theorem form2 (a b : Nat) (t : List Nat) (r : Nat × Nat) (h : (arm2 a b r).2 ≠ 0) : Form (a :: b :: t) (arm2 a b r).1 (arm2 a b r).2 ∨ arm2 a b r = r := by
  by_cases g : (192 ≤ a ∧ a < 224) ∧ cont b
  · unfold arm2 at h ⊢
    rw [if_pos g] at h ⊢
    by_cases k : 128 ≤ 64 * (a - 192) + b - 128
    · rw [if_pos k]; exact .inl (.two a b t _ g.1.1 g.1.2 g.2 rfl k)
    · rw [if_neg k] at h; exact absurd rfl h
  · exact .inr (arm2_no a b r g)
theorem form3 (a b c : Nat) (t : List Nat) (r : Nat × Nat) (h : (arm3 a b c r).2 ≠ 0) : Form (a :: b :: c :: t) (arm3 a b c r).1 (arm3 a b c r).2 ∨ arm3 a b c r = r := by
  by_cases g : (224 ≤ a ∧ a < 240) ∧ cont b ∧ cont c
  · unfold arm3 at h ⊢
    rw [if_pos g] at h ⊢
    split at h
    · rename_i k
      rw [if_pos k]; exact .inl (.three a b c t _ g.1.1 g.1.2 g.2.1 g.2.2 rfl k.1)
    · exact absurd rfl h
  · exact .inr (arm3_no a b c r g)
theorem form4 (a b c d : Nat) (t : List Nat) (h : (arm4 a b c d).2 ≠ 0) : Form (a :: b :: c :: d :: t) (arm4 a b c d).1 (arm4 a b c d).2 := by
  unfold arm4 at h ⊢
  by_cases g : (240 ≤ a ∧ a < 248) ∧ cont b ∧ cont c ∧ cont d
  · rw [if_pos g] at h ⊢
    split at h
    · rename_i k
      rw [if_pos k]; exact .four a b c d t _ g.1.1 g.1.2 g.2.1 g.2.2.1 g.2.2.2 rfl k.1
    · exact absurd rfl h
  · rw [if_neg g] at h; exact absurd rfl h
theorem form1 (a : Nat) (t : List Nat) (r : Nat × Nat) : Form (a :: t) (arm1 a r).1 (arm1 a r).2 ∨ arm1 a r = r := by
  by_cases g : a < 128
  · unfold arm1; rw [if_pos g]; exact .inl (.one a t g)
  · exact .inr (arm1_out a r g)
theorem seq_form (l : List Nat) (h : (seq l).2 ≠ 0) : Form l (seq l).1 (seq l).2 := by
  match l, h with
  | [], h => exact absurd rfl h
  | [a], h =>
    rcases form1 a [] (0, 0) with g | g
    · exact g
    · exact absurd (by show (arm1 a (0, 0)).2 = 0; rw [g]) h
  | [a, b], h =>
    rcases form1 a [b] (arm2 a b (0, 0)) with g | g
    · exact g
    · have e : seq [a, b] = arm2 a b (0, 0) := g
      rw [e] at h ⊢
      rcases form2 a b [] _ h with k | k
      · exact k
      · rw [k] at h; exact absurd rfl h
  | [a, b, c], h =>
    rcases form1 a [b, c] (arm2 a b (arm3 a b c (0, 0))) with g | g
    · exact g
    · have e : seq [a, b, c] = arm2 a b (arm3 a b c (0, 0)) := g
      rw [e] at h ⊢
      rcases form2 a b [c] _ h with k | k
      · exact k
      · rw [k] at h ⊢
        rcases form3 a b c [] _ h with m | m
        · exact m
        · rw [m] at h; exact absurd rfl h
  | a :: b :: c :: d :: t, h =>
    rcases form1 a (b :: c :: d :: t) (arm2 a b (arm3 a b c (arm4 a b c d))) with g | g
    · exact g
    · have e : seq (a :: b :: c :: d :: t) = arm2 a b (arm3 a b c (arm4 a b c d)) := g
      rw [e] at h ⊢
      rcases form2 a b (c :: d :: t) _ h with k | k
      · exact k
      · rw [k] at h ⊢
        rcases form3 a b c (d :: t) _ h with m | m
        · exact m
        · rw [m] at h ⊢
          exact form4 a b c d t h

/-- two sequences: where the scalars are equal, so are the bytes; else the smaller scalar's bytes are smaller -/
def Cmp (l m : List Nat) (v k v' k' : Nat) : Prop := (v = v' → k = k' ∧ nless l m = nless (l.drop k) (m.drop k)) ∧ (v < v' → nless l m = true) ∧ (v' < v → nless l m = false)
theorem cmp1 (a a' : Nat) (t t' : List Nat) (v k v' k' : Nat) (h : a < a') (hv : v < v') : Cmp (a :: t) (a' :: t') v k v' k' :=
  ⟨fun e => by omega, fun _ => nless_lt _ _ _ _ h, fun e => by omega⟩
theorem cmp2 (a a' : Nat) (t t' : List Nat) (v k v' k' : Nat) (h : a' < a) (hv : v' < v) : Cmp (a :: t) (a' :: t') v k v' k' :=
  ⟨fun e => by omega, fun e => by omega, fun _ => nless_gt _ _ _ _ h⟩
theorem cmp_lead (a a' : Nat) (t t' : List Nat) (v v' k : Nat) (h1 : a < a' → v < v') (h2 : a' < a → v' < v) (h3 : a = a' → Cmp t t' v k v' k) : Cmp (a :: t) (a' :: t') v (k + 1) v' (k + 1) := by
  rcases Nat.lt_trichotomy a a' with h | h | h
  · exact cmp1 _ _ _ _ _ _ _ _ h (h1 h)
  · subst h
    obtain ⟨g1, g2, g3⟩ := h3 rfl
    unfold Cmp
    rw [nless_eq, List.drop_succ_cons, List.drop_succ_cons]
    exact ⟨fun e => ⟨rfl, (g1 e).2⟩, g2, g3⟩
  · exact cmp2 _ _ _ _ _ _ _ _ h (h2 h)
theorem cmp_nil (t t' : List Nat) (v : Nat) : Cmp t t' v 0 v 0 := ⟨fun _ => ⟨rfl, rfl⟩, fun h => absurd h (Nat.lt_irrefl _), fun h => absurd h (Nat.lt_irrefl _)⟩
theorem cmp_end (t t' : List Nat) (v v' : Nat) (h : v = v') : Cmp t t' v 0 v' 0 := by subst h; exact cmp_nil t t' v
theorem form_cmp (l m : List Nat) (v k v' k' : Nat) (h : Form l v k) (h' : Form m v' k') : Cmp l m v k v' k' := by
  cases h with
  | one _ t ha =>
    cases h' with
    | one _ t' ha' => exact cmp_lead _ _ _ _ _ _ 0 (fun h => h) (fun h => h) (fun h => cmp_end _ _ _ _ h)
    | two a b t v h1 h2 hb hv hl => exact cmp1 _ _ _ _ _ _ _ _ (by omega) (by omega)
    | three a b c t v h1 h2 hb hc hv hl => exact cmp1 _ _ _ _ _ _ _ _ (by omega) (by omega)
    | four a b c d t v h1 h2 hb hc hd hv hl => exact cmp1 _ _ _ _ _ _ _ _ (by omega) (by omega)
  | two a b t v h1 h2 hb hv hl =>
    unfold cont at hb
    cases h' with
    | one a' t' ha' => exact cmp2 _ _ _ _ _ _ _ _ (by omega) (by omega)
    | two a' b' t' v' h1' h2' hb' hv' hl' =>
      unfold cont at hb'
      exact cmp_lead _ _ _ _ _ _ 1 (fun h => by omega) (fun h => by omega) (fun e => cmp_lead _ _ _ _ _ _ 0 (fun h => by omega) (fun h => by omega) (fun e' => cmp_end _ _ _ _ (by omega)))
    | three a' b' c' t' v' h1' h2' hb' hc' hv' hl' => exact cmp1 _ _ _ _ _ _ _ _ (by omega) (by omega)
    | four a' b' c' d' t' v' h1' h2' hb' hc' hd' hv' hl' => exact cmp1 _ _ _ _ _ _ _ _ (by omega) (by omega)
  | three a b c t v h1 h2 hb hc hv hl =>
    unfold cont at hb hc
    cases h' with
    | one a' t' ha' => exact cmp2 _ _ _ _ _ _ _ _ (by omega) (by omega)
    | two a' b' t' v' h1' h2' hb' hv' hl' =>
      unfold cont at hb'
      exact cmp2 _ _ _ _ _ _ _ _ (by omega) (by omega)
    | three a' b' c' t' v' h1' h2' hb' hc' hv' hl' =>
      unfold cont at hb' hc'
      exact cmp_lead _ _ _ _ _ _ 2 (fun h => by omega) (fun h => by omega) (fun e => cmp_lead _ _ _ _ _ _ 1 (fun h => by omega) (fun h => by omega) (fun e' => cmp_lead _ _ _ _ _ _ 0 (fun h => by omega) (fun h => by omega) (fun e'' => cmp_end _ _ _ _ (by omega))))
    | four a' b' c' d' t' v' h1' h2' hb' hc' hd' hv' hl' =>
      unfold cont at hb' hc' hd'
      exact cmp1 _ _ _ _ _ _ _ _ (by omega) (by omega)
  | four a b c d t v h1 h2 hb hc hd hv hl =>
    unfold cont at hb hc hd
    cases h' with
    | one a' t' ha' => exact cmp2 _ _ _ _ _ _ _ _ (by omega) (by omega)
    | two a' b' t' v' h1' h2' hb' hv' hl' =>
      unfold cont at hb'
      exact cmp2 _ _ _ _ _ _ _ _ (by omega) (by omega)
    | three a' b' c' t' v' h1' h2' hb' hc' hv' hl' =>
      unfold cont at hb' hc'
      exact cmp2 _ _ _ _ _ _ _ _ (by omega) (by omega)
    | four a' b' c' d' t' v' h1' h2' hb' hc' hd' hv' hl' =>
      unfold cont at hb' hc' hd'
      exact cmp_lead _ _ _ _ _ _ 3 (fun h => by omega) (fun h => by omega) (fun e => cmp_lead _ _ _ _ _ _ 2 (fun h => by omega) (fun h => by omega) (fun e' => cmp_lead _ _ _ _ _ _ 1 (fun h => by omega) (fun h => by omega) (fun e'' => cmp_lead _ _ _ _ _ _ 0 (fun h => by omega) (fun h => by omega) (fun e''' => cmp_end _ _ _ _ (by omega)))))
theorem from_drop (s : ByteArray) (p k : Nat) : (bytesFrom s p).drop k = bytesFrom s (p + k) := by
  unfold bytesFrom; rw [← List.map_drop, List.drop_drop]
/-- behind places from which on two strings are valid, their bytes are ordered as their scalars -/
theorem ord_from (s t : ByteArray) : ∀ (n p p' : Nat), p ≤ s.size → p' ≤ t.size → s.size - p ≤ n → stop s p = s.size → stop t p' = t.size → nless (bytesFrom s p) (bytesFrom t p') = nless (scalars s p) (scalars t p') := by
  intro n
  induction n with
  | zero =>
    intro p p' hp hp' hn hv hv'
    obtain rfl : p = s.size := by omega
    rw [scalars_end, bytesFrom_end s _ (by omega)]
    by_cases g : p' = t.size
    · rw [g, scalars_end, bytesFrom_end t _ (by omega)]
    · rw [bytesFrom_cons t p' (by omega), (scalars_go t p' hp' (valid_step t p' (by omega) hv')).1]; rfl
  | succ n ih =>
    intro p p' hp hp' hn hv hv'
    by_cases g0 : p = s.size
    · rw [g0, scalars_end, bytesFrom_end s _ (by omega)]
      by_cases g : p' = t.size
      · rw [g, scalars_end, bytesFrom_end t _ (by omega)]
      · rw [bytesFrom_cons t p' (by omega), (scalars_go t p' hp' (valid_step t p' (by omega) hv')).1]; rfl
    · have k1 := valid_step s p (by omega) hv
      have h1 := scalars_go s p hp k1
      by_cases g : p' = t.size
      · rw [g, scalars_end, bytesFrom_end t _ (by omega), h1.1, bytesFrom_cons s p (by omega)]; rfl
      · have k2 := valid_step t p' (by omega) hv'
        have h2 := scalars_go t p' hp' k2
        have l1 := sq_le s p hp
        have l2 := sq_le t p' hp'
        obtain ⟨c1, c2, c3⟩ := form_cmp _ _ _ _ _ _ (seq_form (bytesFrom s p) k1) (seq_form (bytesFrom t p') k2)
        rw [h1.1, h2.1]
        rcases Nat.lt_trichotomy (sq s p).1 (sq t p').1 with h | h | h
        · rw [nless_lt _ _ _ _ h]; exact c2 h
        · have hk : (sq s p).2 = (sq t p').2 := (c1 h).1
          have hd := (c1 h).2
          rw [from_drop, from_drop] at hd
          rw [hd, h, nless_eq]
          have hi := ih (p + (sq s p).2) (p' + (sq t p').2) l1.1 l2.1 (by omega) (by rw [← h1.2]; exact hv) (by rw [← h2.2]; exact hv')
          rw [← hi, ← hk]; rfl
        · rw [nless_gt _ _ _ _ h]; exact c3 h
theorem ord_valid (s t : ByteArray) (hv : stop s 0 = s.size) (hv' : stop t 0 = t.size) : Op.bytesLess s.toList t.toList = nless (scalars s 0) (scalars t 0) := by
  rw [Lib.toList_data, Lib.toList_data, bytes_nless, ← ord_from s t _ 0 0 (Nat.zero_le _) (Nat.zero_le _) (Nat.le_refl _) hv hv']
  unfold bytesFrom; rw [List.drop_zero, List.drop_zero]
/-- the order of two lists that are equal up to place i -/
theorem nless_at : ∀ (x y : List Nat) (i : Nat), i < x.length → i < y.length → (∀ j, j < i → x.getD j 0 = y.getD j 0) → x.getD i 0 ≠ y.getD i 0 → nless x y = decide (x.getD i 0 < y.getD i 0)
  | a :: x, b :: y, 0, _, _, _, h => by
    simp only [List.getD_cons_zero] at h ⊢
    by_cases g : a < b
    · rw [nless_lt _ _ _ _ g, decide_eq_true g]
    · rw [nless_gt _ _ _ _ (by omega), decide_eq_false g]
  | a :: x, b :: y, i + 1, h1, h2, he, h => by
    have e0 := he 0 (by omega)
    simp only [List.getD_cons_zero] at e0
    subst e0
    simp only [List.getD_cons_succ] at h ⊢
    rw [nless_eq]
    exact nless_at x y i (by simpa using h1) (by simpa using h2) (fun j hj => by have := he (j + 1) (by omega); simpa using this) h
  | [], _, _, h1, _, _, _ => by simp at h1
  | _ :: _, [], _, _, h2, _, _ => by simp at h2
theorem nless_len : ∀ (x y : List Nat), (∀ j, j < x.length → j < y.length → x.getD j 0 = y.getD j 0) → nless x y = decide (x.length < y.length)
  | [], [], _ => rfl
  | _ :: _, [], _ => by simp [nless]
  | [], _ :: _, _ => by simp [nless]
  | a :: x, b :: y, he => by
    have e0 := he 0 (by simp) (by simp)
    simp only [List.getD_cons_zero] at e0
    subst e0
    rw [nless_eq, nless_len x y (fun j h1 h2 => by have := he (j + 1) (by simpa using h1) (by simpa using h2); simpa using this)]
    simp
end Go.Proofs.YtmoljdgalonlpaaDoor
