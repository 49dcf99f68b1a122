/-
  Helper: texts read back into bytes: the bits of a text's digits, and the bytes of bits.
-/
import Derived.Test.YtaapmndfefjdcaaDoorArNum
namespace Go.Proofs.YtaapmndfefjdcaaDoor
set_option linter.unusedVariables false

def bitE (e v : Nat) : List Nat := (List.range e).map fun j => v / (2 ^ (e - 1) / 2 ^ j) % 2
/-- the bits of a text's digits; what is no digit is left out -/
def dgE (al : List UInt8) (e : Nat) (c : UInt8) : List Nat := if fnd al c < al.length then bitE e (fnd al c) else []
def stream (al : List UInt8) (e : Nat) (s : List UInt8) : List Nat := s.flatMap (dgE al e)
/-- the first k bytes of bits -/
def bytesR (b : List Nat) (k : Nat) : List UInt8 := (List.range k).map fun j => UInt8.ofNat (numB b (8 * j) 8)
def bytesOf (b : List Nat) : List UInt8 := bytesR b (b.length / 8)
theorem bytesR_succ (b : List Nat) (k : Nat) : bytesR b (k + 1) = bytesR b k ++ [UInt8.ofNat (numB b (8 * k) 8)] := by
  unfold bytesR; rw [List.range_succ, List.map_append]; rfl
theorem bytesR_len (b : List Nat) (k : Nat) : (bytesR b k).length = k := by unfold bytesR; simp
theorem bitE_len (e v : Nat) : (bitE e v).length = e := by unfold bitE; simp
theorem bitE_take (e v j : Nat) (h : j < e) : (bitE e v).take (j + 1) = (bitE e v).take j ++ [v / (2 ^ (e - 1) / 2 ^ j) % 2] := by
  rw [List.take_succ_eq_append_getElem (by rw [bitE_len]; exact h)]
  unfold bitE; simp
theorem b01_bitE (e v : Nat) : B01 (bitE e v) := by
  intro x hx
  unfold bitE at hx
  obtain ⟨j, _, rfl⟩ := List.mem_map.1 hx
  omega
theorem dgE_len (al : List UInt8) (e : Nat) (c : UInt8) : (dgE al e c).length ≤ e := by
  unfold dgE; split
  · rw [bitE_len]; exact Nat.le_refl _
  · simp
theorem b01_stream (al : List UInt8) (e : Nat) (s : List UInt8) : B01 (stream al e s) := by
  induction s with
  | nil => intro x hx; cases hx
  | cons c s ih =>
    unfold stream at *; rw [List.flatMap_cons]
    refine b01_app ?_ ih
    unfold dgE; split
    · exact b01_bitE _ _
    · intro x hx; cases hx
theorem stream_len (al : List UInt8) (e : Nat) (s : List UInt8) : (stream al e s).length ≤ e * s.length := by
  induction s with
  | nil => simp [stream]
  | cons c s ih =>
    have := dgE_len al e c
    unfold stream at *; rw [List.flatMap_cons, List.length_append, List.length_cons, Nat.mul_succ]; omega
theorem stream_take (al : List UInt8) (e : Nat) (s : List UInt8) (k : Nat) (h : k < s.length) : stream al e (s.take (k + 1)) = stream al e (s.take k) ++ dgE al e (s.getD k 0) := by
  rw [List.take_succ_eq_append_getElem h]
  unfold stream
  rw [List.flatMap_append, List.flatMap_singleton, List.getD_eq_getElem?_getD, List.getElem?_eq_getElem h]; rfl
theorem stream_app (al : List UInt8) (e : Nat) (s t : List UInt8) : stream al e (s ++ t) = stream al e s ++ stream al e t := by unfold stream; rw [List.flatMap_append]
theorem fnd_at (al : List UInt8) (c : UInt8) (k : Nat) (h : k < al.length) (h1 : ∀ j, j < k → al.getD j 0 ≠ c) (h2 : al.getD k 0 = c) : fnd al c = k := by
  unfold fnd
  rw [List.findIdx_eq h]
  have e : ∀ j (hj : j < al.length), al.getD j 0 = al[j] := fun j hj => by rw [List.getD_eq_getElem?_getD, List.getElem?_eq_getElem hj]; rfl
  refine ⟨?_, fun j hj => ?_⟩
  · rw [← e k h]; simpa using h2
  · have := h1 j hj
    rw [e j (by omega)] at this
    simpa using this
theorem fnd_no (al : List UInt8) (c : UInt8) (h1 : ∀ j, j < al.length → al.getD j 0 ≠ c) : fnd al c = al.length := by
  unfold fnd
  rw [List.findIdx_eq_length]
  intro x hx
  obtain ⟨j, hj, rfl⟩ := List.getElem_of_mem hx
  have := h1 j hj
  rw [List.getD_eq_getElem?_getD, List.getElem?_eq_getElem hj] at this
  simpa using this
theorem bit8_byte : ∀ v, v < 256 → numB (bit8 v) 0 8 = v := by decide +kernel
theorem bytes_step (v : Nat) (h : v < 256) (r : List Nat) : bytesOf (bit8 v ++ r) = UInt8.ofNat v :: bytesOf r := by
  unfold bytesOf
  rw [List.length_append, bit8_len, show (8 + r.length) / 8 = 1 + r.length / 8 by omega]
  unfold bytesR
  rw [range_add, List.map_append, List.map_map]
  have e1 : (List.range 1).map (fun j => UInt8.ofNat (numB (bit8 v ++ r) (8 * j) 8)) = [UInt8.ofNat v] := by
    show [UInt8.ofNat (numB (bit8 v ++ r) 0 8)] = _
    rw [numB_pre _ _ 0 8 (by rw [bit8_len]; omega), bit8_byte v h]
  rw [e1]
  show UInt8.ofNat v :: _ = _
  congr 1
  apply List.map_congr_left
  intro i _
  show UInt8.ofNat (numB (bit8 v ++ r) (8 * (1 + i)) 8) = _
  rw [show 8 * (1 + i) = (bit8 v).length + 8 * i by rw [bit8_len]; omega, numB_app]
theorem bytes_short (r : List Nat) (h : r.length < 8) : bytesOf r = [] := by
  unfold bytesOf; rw [show r.length / 8 = 0 by omega]; rfl

/-- hexadecimal -/
theorem hx_fnd : ∀ v, v < 16 → fnd HX (hx v) = v := by decide +kernel
theorem fnd_back (al : List UInt8) (c : UInt8) (h : fnd al c < al.length) : al.getD (fnd al c) 0 = c := by
  have h2 : (al[fnd al c]'h == c) = true := List.findIdx_getElem (p := (· == c)) (w := h)
  rw [List.getD_eq_getElem?_getD, List.getElem?_eq_getElem h]
  exact eq_of_beq h2
theorem hx_back (c : UInt8) (h : fnd HX c < 16) : hx (fnd HX c) = c := fnd_back HX c h
def unhexA : List UInt8 → List UInt8
  | a :: b :: r => UInt8.ofNat (fnd HX a * 16 + fnd HX b) :: unhexA r
  | _ => []
def HexOk (s : List UInt8) : Prop := s.length % 2 = 0 ∧ ∀ c ∈ s, fnd HX c < 16
theorem two4 (x y : Nat) (hx : x < 16) (hy : y < 16) : bitE 4 x ++ bitE 4 y = bit8 (x * 16 + y) := by
  have h : ∀ x, x < 16 → ∀ y, y < 16 → bitE 4 x ++ bitE 4 y = bit8 (x * 16 + y) := by decide +kernel
  exact h x hx y hy
theorem unhex_stream : ∀ s : List UInt8, HexOk s → bytesOf (stream HX 4 s) = unhexA s
  | [], _ => by simp [stream, bytesOf, bytesR, unhexA]
  | [a], h => by have := h.1; simp at this
  | a :: b :: r, h => by
    have ha := h.2 a (by simp)
    have hb := h.2 b (by simp)
    have ih := unhex_stream r ⟨by have := h.1; simp only [List.length_cons] at this; omega, fun c hc => h.2 c (by simp [hc])⟩
    have e : stream HX 4 (a :: b :: r) = bit8 (fnd HX a * 16 + fnd HX b) ++ stream HX 4 r := by
      show dgE HX 4 a ++ (dgE HX 4 b ++ stream HX 4 r) = _
      unfold dgE
      rw [if_pos (show fnd HX a < HX.length from ha), if_pos (show fnd HX b < HX.length from hb), ← List.append_assoc, two4 _ _ ha hb]
    rw [e, bytes_step _ (by omega), ih, unhexA]
theorem hex_unhex : ∀ s : List UInt8, HexOk s → hexA (unhexA s) = s
  | [], _ => rfl
  | [a], h => by have := h.1; simp at this
  | a :: b :: r, h => by
    have ha := h.2 a (by simp)
    have hb := h.2 b (by simp)
    have ih := hex_unhex r ⟨by have := h.1; simp only [List.length_cons] at this; omega, fun c hc => h.2 c (by simp [hc])⟩
    show [hx ((UInt8.ofNat (fnd HX a * 16 + fnd HX b)).toNat / 16), hx ((UInt8.ofNat (fnd HX a * 16 + fnd HX b)).toNat % 16)] ++ hexA (unhexA r) = _
    rw [ih, UInt8.toNat_ofNat', show (fnd HX a * 16 + fnd HX b) % 2 ^ 8 = fnd HX a * 16 + fnd HX b by omega, show (fnd HX a * 16 + fnd HX b) / 16 = fnd HX a by omega, show (fnd HX a * 16 + fnd HX b) % 16 = fnd HX b by omega, hx_back a ha, hx_back b hb]; rfl
theorem hex_ok (t : List UInt8) : HexOk (hexA t) := by
  refine ⟨by rw [hexA_len]; omega, ?_⟩
  intro c hc
  unfold hexA at hc
  obtain ⟨d, _, hd⟩ := List.mem_flatMap.1 hc
  have hlt : d.toNat < 256 := UInt8.toNat_lt d
  simp only [List.mem_cons, List.not_mem_nil, or_false] at hd
  rcases hd with rfl | rfl
  · rw [hx_fnd _ (by omega)]; omega
  · rw [hx_fnd _ (by omega)]; omega
theorem unhex_hex : ∀ s : List UInt8, unhexA (hexA s) = s
  | [] => rfl
  | a :: r => by
    have hlt : a.toNat < 256 := UInt8.toNat_lt a
    show UInt8.ofNat (fnd HX (hx (a.toNat / 16)) * 16 + fnd HX (hx (a.toNat % 16))) :: unhexA (hexA r) = _
    rw [unhex_hex r, hx_fnd _ (by omega), hx_fnd _ (by omega), show a.toNat / 16 * 16 + a.toNat % 16 = a.toNat by omega]
    simp
/-- what the reference's Unhex says, by the program's own words -/
theorem refhex_yes (s : List UInt8) (h : HexOk s) : hexA (bytesOf (stream HX 4 s)) = s := by rw [unhex_stream s h, hex_unhex s h]
theorem refhex_no (s : List UInt8) (h : ¬ HexOk s) : hexA (bytesOf (stream HX 4 s)) ≠ s := fun e => h (by rw [← e]; exact hex_ok _)

/-- Base64 -/
theorem sx_fnd : ∀ v, v < 64 → fnd SX (sx v) = v := by decide +kernel
theorem eq_fnd : fnd SX 61 = 64 := by decide +kernel
theorem dg_sx (v : Nat) (h : v < 64) : dgE SX 6 (sx v) = bitE 6 v := by
  unfold dgE; rw [sx_fnd v h, if_pos (show v < SX.length from h)]
theorem dg_eq : dgE SX 6 61 = [] := by decide +kernel
theorem three6 (a b c : Nat) (ha : a < 256) (hb : b < 256) (hc : c < 256) : bitE 6 (a / 4) ++ (bitE 6 (a % 4 * 16 + b / 16) ++ (bitE 6 (b % 16 * 4 + c / 64) ++ bitE 6 (c % 64))) = bit8 a ++ (bit8 b ++ bit8 c) := by
  show [a / 4 / 32 % 2, a / 4 / 16 % 2, a / 4 / 8 % 2, a / 4 / 4 % 2, a / 4 / 2 % 2, a / 4 / 1 % 2, (a % 4 * 16 + b / 16) / 32 % 2, (a % 4 * 16 + b / 16) / 16 % 2, (a % 4 * 16 + b / 16) / 8 % 2, (a % 4 * 16 + b / 16) / 4 % 2, (a % 4 * 16 + b / 16) / 2 % 2, (a % 4 * 16 + b / 16) / 1 % 2, (b % 16 * 4 + c / 64) / 32 % 2, (b % 16 * 4 + c / 64) / 16 % 2, (b % 16 * 4 + c / 64) / 8 % 2, (b % 16 * 4 + c / 64) / 4 % 2, (b % 16 * 4 + c / 64) / 2 % 2, (b % 16 * 4 + c / 64) / 1 % 2, c % 64 / 32 % 2, c % 64 / 16 % 2, c % 64 / 8 % 2, c % 64 / 4 % 2, c % 64 / 2 % 2, c % 64 / 1 % 2] = [a / 128 % 2, a / 64 % 2, a / 32 % 2, a / 16 % 2, a / 8 % 2, a / 4 % 2, a / 2 % 2, a / 1 % 2, b / 128 % 2, b / 64 % 2, b / 32 % 2, b / 16 % 2, b / 8 % 2, b / 4 % 2, b / 2 % 2, b / 1 % 2, c / 128 % 2, c / 64 % 2, c / 32 % 2, c / 16 % 2, c / 8 % 2, c / 4 % 2, c / 2 % 2, c / 1 % 2]
  simp only [List.cons.injEq, and_true]
  refine ⟨?_, ?_, ?_, ?_, ?_, ?_, ?_, ?_, ?_, ?_, ?_, ?_, ?_, ?_, ?_, ?_, ?_, ?_, ?_, ?_, ?_, ?_, ?_, ?_⟩ <;> omega
theorem unb_b64 : ∀ s : List UInt8, bytesOf (stream SX 6 (b64A s)) = s
  | [] => by simp [b64A, stream, bytesOf, bytesR]
  | [a] => by
    have ha : a.toNat < 256 := UInt8.toNat_lt a
    have e : stream SX 6 (b64A [a]) = bit8 a.toNat ++ [0, 0, 0, 0] := by
      have h3 := three6 a.toNat 0 0 ha (by omega) (by omega)
      simp only [Nat.zero_div, Nat.add_zero, Nat.zero_mod, Nat.zero_mul] at h3
      have h4 := congrArg (List.take 12) h3
      show dgE SX 6 (sx _) ++ (dgE SX 6 (sx _) ++ (dgE SX 6 61 ++ (dgE SX 6 61 ++ []))) = _
      rw [dg_sx _ (by omega), dg_sx _ (by omega), dg_eq]
      exact h4
    rw [e, bytes_step _ ha, bytes_short _ (by simp)]; simp
  | [a, b] => by
    have ha : a.toNat < 256 := UInt8.toNat_lt a
    have hb : b.toNat < 256 := UInt8.toNat_lt b
    have e : stream SX 6 (b64A [a, b]) = bit8 a.toNat ++ (bit8 b.toNat ++ [0, 0]) := by
      have h3 := three6 a.toNat b.toNat 0 ha hb (by omega)
      simp only [Nat.zero_div, Nat.add_zero, Nat.zero_mod] at h3
      have h4 := congrArg (List.take 18) h3
      rw [b64A]
      show dgE SX 6 (sx _) ++ (dgE SX 6 (sx _) ++ (dgE SX 6 (sx _) ++ (dgE SX 6 61 ++ []))) = _
      rw [dg_sx _ (by omega), dg_sx _ (by omega), dg_sx _ (by omega), dg_eq]
      exact h4
    rw [e, bytes_step _ ha, bytes_step _ hb, bytes_short _ (by simp)]; simp
  | a :: b :: c :: r => by
    have ha : a.toNat < 256 := UInt8.toNat_lt a
    have hb : b.toNat < 256 := UInt8.toNat_lt b
    have hc : c.toNat < 256 := UInt8.toNat_lt c
    have ih := unb_b64 r
    have e : stream SX 6 (b64A (a :: b :: c :: r)) = bit8 a.toNat ++ (bit8 b.toNat ++ (bit8 c.toNat ++ stream SX 6 (b64A r))) := by
      show stream SX 6 (g4 _ _ _ ++ b64A r) = _
      rw [stream_app, ← List.append_assoc (bit8 b.toNat), ← List.append_assoc, ← three6 _ _ _ ha hb hc]
      congr 1
      show dgE SX 6 (sx _) ++ (dgE SX 6 (sx _) ++ (dgE SX 6 (sx _) ++ (dgE SX 6 (sx _) ++ []))) = _
      rw [dg_sx _ (by omega), dg_sx _ (by omega), dg_sx _ (by omega), dg_sx _ (by omega), List.append_nil]
    rw [e, bytes_step _ ha, bytes_step _ hb, bytes_step _ hc, ih]; simp
end Go.Proofs.YtaapmndfefjdcaaDoor
