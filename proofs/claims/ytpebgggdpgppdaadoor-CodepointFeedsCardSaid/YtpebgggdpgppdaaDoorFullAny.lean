/-
  Helper: utf8.FullRuneInString at every string that is not empty: is it no beginning that more bytes may complete.
-/
import Derived.Test.YtpebgggdpgppdaaDoorFullRune4
namespace Go.Proofs.YtpebgggdpgppdaaDoor
open Go.RowKit
set_option linter.unusedVariables false

/-- the library's table of first bytes -/
def firstV (c : Nat) : Int := if c < 128 then 240 else if c < 194 then 241 else if c < 224 then 2 else if c < 225 then 19 else if c < 237 then 3 else if c < 238 then 35 else if c < 240 then 3 else if c < 241 then 52 else if c < 244 then 4 else if c < 245 then 68 else 241
/-- the two tables that FullRune reads -/
def Tabs (w : World) : Prop := 1 < w.heap.size ∧ (∀ c, c < 256 → w.cell? ⟨0, c, none⟩ = some (.int .u8 (firstV c))) ∧
  (w.cell? ⟨1, 0, none⟩ = some (.int .u8 128) ∧ w.cell? ⟨1, 1, none⟩ = some (.int .u8 191)) ∧ (w.cell? ⟨1, 2, none⟩ = some (.int .u8 160) ∧ w.cell? ⟨1, 3, none⟩ = some (.int .u8 191)) ∧
  (w.cell? ⟨1, 4, none⟩ = some (.int .u8 128) ∧ w.cell? ⟨1, 5, none⟩ = some (.int .u8 159)) ∧ (w.cell? ⟨1, 6, none⟩ = some (.int .u8 144) ∧ w.cell? ⟨1, 7, none⟩ = some (.int .u8 191)) ∧
  (w.cell? ⟨1, 8, none⟩ = some (.int .u8 128) ∧ w.cell? ⟨1, 9, none⟩ = some (.int .u8 143))
theorem Tabs.below {w w' : World} (h : Tabs w) (hb : Below w.heap.size w w') : Tabs w' := by
  obtain ⟨hz, hf, a0, a1, a2, a3, a4⟩ := h
  have k0 : ∀ j, w'.cell? ⟨0, j, none⟩ = w.cell? ⟨0, j, none⟩ := fun j => hb.cell (p := ⟨0, j, none⟩) (by show 0 < _; omega)
  have k1 : ∀ j, w'.cell? ⟨1, j, none⟩ = w.cell? ⟨1, j, none⟩ := fun j => hb.cell (p := ⟨1, j, none⟩) hz
  refine ⟨Nat.lt_of_lt_of_le hz hb.size, fun c hc => by rw [k0]; exact hf c hc, ?_, ?_, ?_, ?_, ?_⟩
  all_goals rw [k1, k1]
  · exact a0
  · exact a1
  · exact a2
  · exact a3
  · exact a4

theorem bytes0 (s : ByteArray) (i : Nat) (h : i < s.size) : (bytesFrom s 0).getD i 0 = s[i].toNat := by
  unfold bytesFrom
  rw [List.drop_zero, List.getD_eq_getElem?_getD, List.getElem?_map, List.getElem?_eq_getElem (by simpa using h)]; rfl

theorem full_of (n c b d : Nat) (h : full n c b d) (l : List Nat) (hl : full n c b d ↔ ¬ incomplete l) : decide (incomplete l) = false := decide_eq_false (hl.1 h)
theorem notfull_of (n c b d : Nat) (h : ¬ full n c b d) (l : List Nat) (hl : full n c b d ↔ ¬ incomplete l) : decide (incomplete l) = true := decide_eq_true (Decidable.byContradiction fun g => h (hl.2 g))

theorem frune_any (s : ByteArray) (w : World) (hs : s.size ≤ 1000000) (h0 : 0 < s.size) (hT : Tabs w) :
    Calls Tryd.prog 14 #[.string s] w fun e w' => e = .returned (.bool (!decide (incomplete (bytesFrom s 0)))) ∧ Below w.heap.size w w' := by
  obtain ⟨hz, hf, ⟨a0, b0⟩, ⟨a1, b1⟩, ⟨a2, b2⟩, ⟨a3, b3⟩, ⟨a4, b4⟩⟩ := hT
  have hlt := s[0].toNat_lt
  have hx := hf s[0].toNat hlt
  have hinc := full_inc (bytesFrom s 0) (bytes_lt s 0) (by rw [bytesFrom_len]; omega)
  rw [bytesFrom_len, Nat.sub_zero, bytes0 s 0 h0] at hinc
  have hN := need_eq s[0].toNat
  have hLo := acc_lo s[0].toNat
  have hHi := acc_hi s[0].toNat
  unfold firstV at hx
  by_cases k0 : s[0].toNat < 128
  · rw [if_pos k0] at hx
    rw [full_of _ _ _ _ (by unfold full; omega) _ hinc]
    exact frune_240_ge s w hs h0 (by omega) hx
  by_cases k1 : s[0].toNat < 194
  · rw [if_neg k0, if_pos k1] at hx
    rw [full_of _ _ _ _ (by unfold full; omega) _ hinc]
    exact frune_241_ge s w hs h0 (by omega) hx
  by_cases k2 : s[0].toNat < 224
  · rw [if_neg k0, if_neg k1, if_pos k2] at hx
    by_cases n1 : 2 ≤ s.size
    · rw [full_of _ _ _ _ (by unfold full; omega) _ hinc]
      exact frune_2_ge s w hs h0 n1 hx
    · by_cases n2 : s.size = 1
      · rw [notfull_of _ _ _ _ (by unfold full; omega) _ hinc]
        exact frune_2_n1 s w hs n2 hx a0 b0
      · omega
  by_cases k3 : s[0].toNat < 225
  · rw [if_neg k0, if_neg k1, if_neg k2, if_pos k3] at hx
    by_cases n1 : 3 ≤ s.size
    · rw [full_of _ _ _ _ (by unfold full; omega) _ hinc]
      exact frune_19_ge s w hs h0 n1 hx
    · by_cases n2 : s.size = 1
      · rw [notfull_of _ _ _ _ (by unfold full; omega) _ hinc]
        exact frune_19_n1 s w hs n2 hx a1 b1
      · have hb1 := bytes0 s 1 (by omega)
        rw [hb1] at hinc
        have n3 : s.size = 2 := by omega
        by_cases n4 : s[1].toNat < 160 ∨ 191 < s[1].toNat
        · rw [full_of _ _ _ _ (by unfold full; omega) _ hinc]
          exact frune_19_n2out s w hs n3 hx a1 b1 n4
        · rw [notfull_of _ _ _ _ (by unfold full; omega) _ hinc]
          exact frune_19_n2in s w hs n3 hx a1 b1 (by omega)
  by_cases k4 : s[0].toNat < 237
  · rw [if_neg k0, if_neg k1, if_neg k2, if_neg k3, if_pos k4] at hx
    by_cases n1 : 3 ≤ s.size
    · rw [full_of _ _ _ _ (by unfold full; omega) _ hinc]
      exact frune_3_ge s w hs h0 n1 hx
    · by_cases n2 : s.size = 1
      · rw [notfull_of _ _ _ _ (by unfold full; omega) _ hinc]
        exact frune_3_n1 s w hs n2 hx a0 b0
      · have hb1 := bytes0 s 1 (by omega)
        rw [hb1] at hinc
        have n3 : s.size = 2 := by omega
        by_cases n4 : s[1].toNat < 128 ∨ 191 < s[1].toNat
        · rw [full_of _ _ _ _ (by unfold full; omega) _ hinc]
          exact frune_3_n2out s w hs n3 hx a0 b0 n4
        · rw [notfull_of _ _ _ _ (by unfold full; omega) _ hinc]
          exact frune_3_n2in s w hs n3 hx a0 b0 (by omega)
  by_cases k5 : s[0].toNat < 238
  · rw [if_neg k0, if_neg k1, if_neg k2, if_neg k3, if_neg k4, if_pos k5] at hx
    by_cases n1 : 3 ≤ s.size
    · rw [full_of _ _ _ _ (by unfold full; omega) _ hinc]
      exact frune_35_ge s w hs h0 n1 hx
    · by_cases n2 : s.size = 1
      · rw [notfull_of _ _ _ _ (by unfold full; omega) _ hinc]
        exact frune_35_n1 s w hs n2 hx a2 b2
      · have hb1 := bytes0 s 1 (by omega)
        rw [hb1] at hinc
        have n3 : s.size = 2 := by omega
        by_cases n4 : s[1].toNat < 128 ∨ 159 < s[1].toNat
        · rw [full_of _ _ _ _ (by unfold full; omega) _ hinc]
          exact frune_35_n2out s w hs n3 hx a2 b2 n4
        · rw [notfull_of _ _ _ _ (by unfold full; omega) _ hinc]
          exact frune_35_n2in s w hs n3 hx a2 b2 (by omega)
  by_cases k6 : s[0].toNat < 240
  · rw [if_neg k0, if_neg k1, if_neg k2, if_neg k3, if_neg k4, if_neg k5, if_pos k6] at hx
    by_cases n1 : 3 ≤ s.size
    · rw [full_of _ _ _ _ (by unfold full; omega) _ hinc]
      exact frune_3_ge s w hs h0 n1 hx
    · by_cases n2 : s.size = 1
      · rw [notfull_of _ _ _ _ (by unfold full; omega) _ hinc]
        exact frune_3_n1 s w hs n2 hx a0 b0
      · have hb1 := bytes0 s 1 (by omega)
        rw [hb1] at hinc
        have n3 : s.size = 2 := by omega
        by_cases n4 : s[1].toNat < 128 ∨ 191 < s[1].toNat
        · rw [full_of _ _ _ _ (by unfold full; omega) _ hinc]
          exact frune_3_n2out s w hs n3 hx a0 b0 n4
        · rw [notfull_of _ _ _ _ (by unfold full; omega) _ hinc]
          exact frune_3_n2in s w hs n3 hx a0 b0 (by omega)
  by_cases k7 : s[0].toNat < 241
  · rw [if_neg k0, if_neg k1, if_neg k2, if_neg k3, if_neg k4, if_neg k5, if_neg k6, if_pos k7] at hx
    by_cases n1 : 4 ≤ s.size
    · rw [full_of _ _ _ _ (by unfold full; omega) _ hinc]
      exact frune_52_ge s w hs h0 n1 hx
    · by_cases n2 : s.size = 1
      · rw [notfull_of _ _ _ _ (by unfold full; omega) _ hinc]
        exact frune_52_n1 s w hs n2 hx a3 b3
      · have hb1 := bytes0 s 1 (by omega)
        rw [hb1] at hinc
        by_cases n3 : s.size = 2
        · by_cases n4 : s[1].toNat < 144 ∨ 191 < s[1].toNat
          · rw [full_of _ _ _ _ (by unfold full; omega) _ hinc]
            exact frune_52_n2out s w hs n3 hx a3 b3 n4
          · rw [notfull_of _ _ _ _ (by unfold full; omega) _ hinc]
            exact frune_52_n2in s w hs n3 hx a3 b3 (by omega)
        · have n5 : s.size = 3 := by omega
          have hb2 := bytes0 s 2 (by omega)
          rw [hb2] at hinc
          by_cases n4 : s[1].toNat < 144 ∨ 191 < s[1].toNat
          · rw [full_of _ _ _ _ (by unfold full; omega) _ hinc]
            exact frune_52_n3b s w hs n5 hx a3 b3 n4
          · by_cases n6 : s[2].toNat < 128 ∨ 191 < s[2].toNat
            · rw [full_of _ _ _ _ (by unfold full; omega) _ hinc]
              exact frune_52_n3d s w hs n5 hx a3 b3 (by omega) n6
            · rw [notfull_of _ _ _ _ (by unfold full; omega) _ hinc]
              exact frune_52_n3in s w hs n5 hx a3 b3 (by omega) (by omega)
  by_cases k8 : s[0].toNat < 244
  · rw [if_neg k0, if_neg k1, if_neg k2, if_neg k3, if_neg k4, if_neg k5, if_neg k6, if_neg k7, if_pos k8] at hx
    by_cases n1 : 4 ≤ s.size
    · rw [full_of _ _ _ _ (by unfold full; omega) _ hinc]
      exact frune_4_ge s w hs h0 n1 hx
    · by_cases n2 : s.size = 1
      · rw [notfull_of _ _ _ _ (by unfold full; omega) _ hinc]
        exact frune_4_n1 s w hs n2 hx a0 b0
      · have hb1 := bytes0 s 1 (by omega)
        rw [hb1] at hinc
        by_cases n3 : s.size = 2
        · by_cases n4 : s[1].toNat < 128 ∨ 191 < s[1].toNat
          · rw [full_of _ _ _ _ (by unfold full; omega) _ hinc]
            exact frune_4_n2out s w hs n3 hx a0 b0 n4
          · rw [notfull_of _ _ _ _ (by unfold full; omega) _ hinc]
            exact frune_4_n2in s w hs n3 hx a0 b0 (by omega)
        · have n5 : s.size = 3 := by omega
          have hb2 := bytes0 s 2 (by omega)
          rw [hb2] at hinc
          by_cases n4 : s[1].toNat < 128 ∨ 191 < s[1].toNat
          · rw [full_of _ _ _ _ (by unfold full; omega) _ hinc]
            exact frune_4_n3b s w hs n5 hx a0 b0 n4
          · by_cases n6 : s[2].toNat < 128 ∨ 191 < s[2].toNat
            · rw [full_of _ _ _ _ (by unfold full; omega) _ hinc]
              exact frune_4_n3d s w hs n5 hx a0 b0 (by omega) n6
            · rw [notfull_of _ _ _ _ (by unfold full; omega) _ hinc]
              exact frune_4_n3in s w hs n5 hx a0 b0 (by omega) (by omega)
  by_cases k9 : s[0].toNat < 245
  · rw [if_neg k0, if_neg k1, if_neg k2, if_neg k3, if_neg k4, if_neg k5, if_neg k6, if_neg k7, if_neg k8, if_pos k9] at hx
    by_cases n1 : 4 ≤ s.size
    · rw [full_of _ _ _ _ (by unfold full; omega) _ hinc]
      exact frune_68_ge s w hs h0 n1 hx
    · by_cases n2 : s.size = 1
      · rw [notfull_of _ _ _ _ (by unfold full; omega) _ hinc]
        exact frune_68_n1 s w hs n2 hx a4 b4
      · have hb1 := bytes0 s 1 (by omega)
        rw [hb1] at hinc
        by_cases n3 : s.size = 2
        · by_cases n4 : s[1].toNat < 128 ∨ 143 < s[1].toNat
          · rw [full_of _ _ _ _ (by unfold full; omega) _ hinc]
            exact frune_68_n2out s w hs n3 hx a4 b4 n4
          · rw [notfull_of _ _ _ _ (by unfold full; omega) _ hinc]
            exact frune_68_n2in s w hs n3 hx a4 b4 (by omega)
        · have n5 : s.size = 3 := by omega
          have hb2 := bytes0 s 2 (by omega)
          rw [hb2] at hinc
          by_cases n4 : s[1].toNat < 128 ∨ 143 < s[1].toNat
          · rw [full_of _ _ _ _ (by unfold full; omega) _ hinc]
            exact frune_68_n3b s w hs n5 hx a4 b4 n4
          · by_cases n6 : s[2].toNat < 128 ∨ 191 < s[2].toNat
            · rw [full_of _ _ _ _ (by unfold full; omega) _ hinc]
              exact frune_68_n3d s w hs n5 hx a4 b4 (by omega) n6
            · rw [notfull_of _ _ _ _ (by unfold full; omega) _ hinc]
              exact frune_68_n3in s w hs n5 hx a4 b4 (by omega) (by omega)
  rw [if_neg k0, if_neg k1, if_neg k2, if_neg k3, if_neg k4, if_neg k5, if_neg k6, if_neg k7, if_neg k8, if_neg k9] at hx
  rw [full_of _ _ _ _ (by unfold full; omega) _ hinc]
  exact frune_241_ge s w hs h0 (by omega) hx
end Go.Proofs.YtpebgggdpgppdaaDoor
