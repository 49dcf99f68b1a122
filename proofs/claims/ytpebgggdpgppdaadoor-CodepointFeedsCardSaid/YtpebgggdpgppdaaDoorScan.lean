/-
  Helper (plain): the scalars of a string up to the first place at which no sequence begins, and that place.
-/
import Derived.Test.YtpebgggdpgppdaaDoorU8
namespace Go.Proofs.YtpebgggdpgppdaaDoor
set_option linter.unusedVariables false

/-- the sequence at a place of a string -/
def sq (s : ByteArray) (p : Nat) : Nat × Nat := seq (bytesFrom s p)
theorem sq_end (s : ByteArray) (p : Nat) (h : ¬ p < s.size) : sq s p = (0, 0) := by unfold sq; rw [bytesFrom_end s p h]; rfl
theorem bytesFrom_len (s : ByteArray) (p : Nat) : (bytesFrom s p).length = s.size - p := by unfold bytesFrom; simp
theorem sq_le (s : ByteArray) (p : Nat) (h : p ≤ s.size) : p + (sq s p).2 ≤ s.size ∧ (sq s p).2 ≤ 4 := by
  have := seq_len_le (bytesFrom s p)
  rw [bytesFrom_len] at this
  unfold sq; omega
theorem decode_good (s : ByteArray) (p : Nat) (h : p < s.size) (g : (sq s p).2 ≠ 0) : Utf8.decode s p = sq s p := by
  rw [decode_seq s p h]; unfold orBad; exact if_neg g
theorem decode_bad (s : ByteArray) (p : Nat) (h : p < s.size) (g : (sq s p).2 = 0) : Utf8.decode s p = (65533, 1) := by
  rw [decode_seq s p h]; unfold orBad; exact if_pos g

/-- the scalars from a place on, and where it stops -/
def scan (s : ByteArray) : Nat → Nat → List Nat × Nat
  | 0, p => ([], p)
  | f + 1, p => if (sq s p).2 = 0 then ([], p) else ((sq s p).1 :: (scan s f (p + (sq s p).2)).1, (scan s f (p + (sq s p).2)).2)
theorem scan_stop (s : ByteArray) (f p : Nat) (h : (sq s p).2 = 0) : scan s f p = ([], p) := by cases f <;> simp [scan, h]
theorem scan_go (s : ByteArray) (f p : Nat) (h : (sq s p).2 ≠ 0) : scan s (f + 1) p = ((sq s p).1 :: (scan s f (p + (sq s p).2)).1, (scan s f (p + (sq s p).2)).2) := by simp [scan, h]
/-- a scan that has fuel for all bytes -/
theorem scan_fuel (s : ByteArray) : ∀ (f g p : Nat), p ≤ s.size → s.size ≤ p + f → s.size ≤ p + g → scan s f p = scan s g p := by
  intro f
  induction f with
  | zero =>
    intro g p hp hf hg
    have : (sq s p).2 = 0 := by rw [sq_end s p (by omega)]
    rw [scan_stop s 0 p this, scan_stop s g p this]
  | succ f ih =>
    intro g p hp hf hg
    by_cases h : (sq s p).2 = 0
    · rw [scan_stop s _ p h, scan_stop s g p h]
    · have hle := sq_le s p hp
      obtain ⟨g', rfl⟩ : ∃ g', g = g' + 1 := ⟨g - 1, by omega⟩
      rw [scan_go s f p h, scan_go s g' p h, ih g' _ hle.1 (by omega) (by omega)]
def scalars (s : ByteArray) (p : Nat) : List Nat := (scan s (s.size - p) p).1
def stop (s : ByteArray) (p : Nat) : Nat := (scan s (s.size - p) p).2
theorem scalars_stop (s : ByteArray) (p : Nat) (h : (sq s p).2 = 0) : scalars s p = [] ∧ stop s p = p := by
  unfold scalars stop; rw [scan_stop s _ p h]; exact ⟨rfl, rfl⟩
theorem scalars_go (s : ByteArray) (p : Nat) (hp : p ≤ s.size) (h : (sq s p).2 ≠ 0) : scalars s p = (sq s p).1 :: scalars s (p + (sq s p).2) ∧ stop s p = stop s (p + (sq s p).2) := by
  have hle := sq_le s p hp
  have hlt : p < s.size := by
    by_cases g : p < s.size
    · exact g
    · exact absurd (by rw [sq_end s p g]) h
  have e := scan_fuel s (s.size - p - 1) (s.size - (p + (sq s p).2)) (p + (sq s p).2) hle.1 (by omega) (by omega)
  unfold scalars stop
  rw [show s.size - p = s.size - p - 1 + 1 from by omega, scan_go s _ p h, e]
  exact ⟨rfl, rfl⟩
theorem stop_le (s : ByteArray) (p : Nat) (hp : p ≤ s.size) : p ≤ stop s p ∧ stop s p ≤ s.size ∧ (sq s (stop s p)).2 = 0 := by
  have key : ∀ n p, p ≤ s.size → s.size - p ≤ n → p ≤ stop s p ∧ stop s p ≤ s.size ∧ (sq s (stop s p)).2 = 0 := by
    intro n
    induction n with
    | zero =>
      intro p hp hn
      have h0 : (sq s p).2 = 0 := by rw [sq_end s p (by omega)]
      rw [(scalars_stop s p h0).2]; exact ⟨Nat.le_refl _, hp, h0⟩
    | succ n ih =>
      intro p hp hn
      by_cases h : (sq s p).2 = 0
      · rw [(scalars_stop s p h).2]; exact ⟨Nat.le_refl _, hp, h⟩
      · have hle := sq_le s p hp
        have := ih (p + (sq s p).2) hle.1 (by omega)
        rw [(scalars_go s p hp h).2]
        exact ⟨by omega, this.2.1, this.2.2⟩
  exact key _ p hp (Nat.le_refl _)
theorem stop_end (s : ByteArray) : stop s s.size = s.size := (scalars_stop s s.size (by rw [sq_end s _ (by omega)])).2
theorem scalars_end (s : ByteArray) : scalars s s.size = [] := (scalars_stop s s.size (by rw [sq_end s _ (by omega)])).1
theorem scalars_len (s : ByteArray) (p : Nat) (hp : p ≤ s.size) : (scalars s p).length ≤ s.size - p := by
  have key : ∀ n p, p ≤ s.size → s.size - p ≤ n → (scalars s p).length ≤ s.size - p := by
    intro n
    induction n with
    | zero => intro p hp hn; rw [(scalars_stop s p (by rw [sq_end s p (by omega)])).1]; simp
    | succ n ih =>
      intro p hp hn
      by_cases h : (sq s p).2 = 0
      · rw [(scalars_stop s p h).1]; simp
      · have hle := sq_le s p hp
        have := ih (p + (sq s p).2) hle.1 (by omega)
        rw [(scalars_go s p hp h).1]; simp; omega
  exact key _ p hp (Nat.le_refl _)

/-- what codepoint.begins asks at a place: the rune that the loop yields, and the three bytes of U+FFFD -/
def fffd : List UInt8 := [239, 191, 189]
theorem drop_three (s : ByteArray) (p : Nat) : Lib.hasPrefix (s.data.toList.drop p) fffd = true ↔ ∃ t, bytesFrom s p = 239 :: 191 :: 189 :: t := by
  unfold bytesFrom Lib.hasPrefix fffd
  generalize s.data.toList.drop p = l
  constructor
  · intro h
    obtain ⟨t, ht⟩ := List.isPrefixOf_iff_prefix.1 h
    subst ht
    exact ⟨t.map (·.toNat), rfl⟩
  · rintro ⟨t, ht⟩
    match l, ht with
    | a :: b :: c :: u, ht =>
      simp only [List.map_cons, List.cons.injEq] at ht
      have ha : a = 239 := UInt8.toNat_inj.1 ht.1
      have hb : b = 191 := UInt8.toNat_inj.1 ht.2.1
      have hc : c = 189 := UInt8.toNat_inj.1 ht.2.2.1
      subst ha hb hc
      exact List.isPrefixOf_iff_prefix.2 ⟨u, rfl⟩
    | [], ht => simp at ht
    | [a], ht => simp at ht
    | [a, b], ht => simp at ht
theorem seq_fffd (t : List Nat) : seq (239 :: 191 :: 189 :: t) = (65533, 3) := by
  cases t with
  | nil => rfl
  | cons d t => simp only [seq]; rfl
/-- U+FFFD is read out of its three bytes alone -/
theorem seq_is_fffd (l : List Nat) (hb : ∀ x ∈ l, x < 256) (h1 : (seq l).1 = 65533) (h2 : (seq l).2 ≠ 0) : ∃ t, l = 239 :: 191 :: 189 :: t := by
  have A1 : ∀ a r, arm1 a r = if a < 128 then (a, 1) else r := fun a r => rfl
  match l with
  | [] => simp [seq] at h2
  | [a] =>
    simp only [seq, A1] at h1 h2
    by_cases h : a < 128
    · rw [if_pos h] at h1; simp at h1; omega
    · rw [if_neg h] at h2; simp at h2
  | [a, b] =>
    have hb1 : b < 256 := hb b (by simp)
    simp only [seq, A1] at h1 h2
    by_cases h : a < 128
    · rw [if_pos h] at h1; simp at h1; omega
    · rw [if_neg h] at h1
      unfold arm2 at h1
      by_cases g : (192 ≤ a ∧ a < 224) ∧ cont b
      · rw [if_pos g] at h1
        by_cases k : 128 ≤ 64 * (a - 192) + b - 128
        · rw [if_pos k] at h1; simp at h1; omega
        · rw [if_neg k] at h1; simp at h1
      · rw [if_neg g] at h1; simp at h1
  | a :: b :: c :: t =>
    have hb1 : b < 256 := hb b (by simp)
    have hb2 : c < 256 := hb c (by simp)
    have e : ∃ r, seq (a :: b :: c :: t) = arm1 a (arm2 a b (arm3 a b c r)) ∧ (r = (0, 0) ∨ ∃ d, d < 256 ∧ r = arm4 a b c d) := by
      cases t with
      | nil => exact ⟨_, rfl, .inl rfl⟩
      | cons d t => exact ⟨_, rfl, .inr ⟨d, hb d (by simp), rfl⟩⟩
    obtain ⟨r, e, hr⟩ := e
    rw [e, A1] at h1
    by_cases h : a < 128
    · rw [if_pos h] at h1; simp at h1; omega
    · rw [if_neg h] at h1
      unfold arm2 at h1
      by_cases g : (192 ≤ a ∧ a < 224) ∧ cont b
      · rw [if_pos g] at h1
        by_cases k : 128 ≤ 64 * (a - 192) + b - 128
        · rw [if_pos k] at h1; simp at h1; omega
        · rw [if_neg k] at h1; simp at h1
      · rw [if_neg g] at h1
        unfold arm3 at h1
        by_cases g3 : (224 ≤ a ∧ a < 240) ∧ cont b ∧ cont c
        · rw [if_pos g3] at h1
          by_cases k : 2048 ≤ 64 * (64 * (a - 224) + b - 128) + c - 128 ∧ ¬ (55296 ≤ 64 * (64 * (a - 224) + b - 128) + c - 128 ∧ 64 * (64 * (a - 224) + b - 128) + c - 128 ≤ 57343)
          · rw [if_pos k] at h1
            simp only at h1
            unfold cont at g3
            have e1 : a = 239 := by omega
            have e2 : b = 191 := by omega
            have e3 : c = 189 := by omega
            subst e1 e2 e3
            exact ⟨t, rfl⟩
          · rw [if_neg k] at h1; simp at h1
        · rw [if_neg g3] at h1
          rcases hr with rfl | ⟨d, hd, rfl⟩
          · simp at h1
          · unfold arm4 at h1
            by_cases g4 : (240 ≤ a ∧ a < 248) ∧ cont b ∧ cont c ∧ cont d
            · rw [if_pos g4] at h1
              by_cases k : 65536 ≤ 64 * (64 * (64 * (a - 240) + b - 128) + c - 128) + d - 128 ∧ 64 * (64 * (64 * (a - 240) + b - 128) + c - 128) + d - 128 ≤ 1114111
              · rw [if_pos k] at h1; simp only at h1; omega
              · rw [if_neg k] at h1; simp at h1
            · rw [if_neg g4] at h1; simp at h1
theorem bytes_lt (s : ByteArray) (p : Nat) : ∀ x ∈ bytesFrom s p, x < 256 := by
  intro x hx
  unfold bytesFrom at hx
  obtain ⟨c, _, rfl⟩ := List.mem_map.1 hx
  exact c.toNat_lt
/-- codepoint.begins tells whether a sequence begins at a place -/
theorem begins_iff (s : ByteArray) (p : Nat) (h : p < s.size) : (((Utf8.decode s p).1 : Int) != 65533 || Lib.hasPrefix (s.data.toList.drop p) fffd) = decide ((sq s p).2 ≠ 0) := by
  by_cases g : (sq s p).2 = 0
  · rw [decode_bad s p h g]
    have hp : Lib.hasPrefix (s.data.toList.drop p) fffd = false := by
      rw [← Bool.not_eq_true, drop_three]
      rintro ⟨t, ht⟩
      unfold sq at g
      rw [ht, seq_fffd] at g
      simp at g
    rw [hp, decide_eq_false (by simpa using g)]; rfl
  · rw [decode_good s p h g, decide_eq_true g]
    by_cases e : (sq s p).1 = 65533
    · have := (drop_three s p).2 (seq_is_fffd _ (bytes_lt s p) e g)
      rw [this, Bool.or_true]
    · have : (((sq s p).1 : Int) != 65533) = true := by rw [bne_iff_ne]; omega
      rw [this, Bool.true_or]
end Go.Proofs.YtpebgggdpgppdaaDoor
