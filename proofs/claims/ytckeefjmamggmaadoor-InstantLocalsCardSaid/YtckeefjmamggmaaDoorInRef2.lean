/-
  Helper: the reference's pad.
-/
import Derived.Test.YtckeefjmamggmaaDoorInRef1
import Derived.Test.YtckeefjmamggmaaDoorInLawT
namespace Go.Proofs.YtckeefjmamggmaaDoor
open Go.RowKit
set_option linter.unusedVariables false

def rp : Nat → Nat → List UInt8
  | 0, _ => []
  | n + 1, x => rp n (x / 10) ++ [D8 (x % 10)]
theorem rp_len : ∀ (n x : Nat), (rp n x).length = n
  | 0, _ => rfl
  | n + 1, x => by rw [rp, List.length_append, rp_len n]; rfl
theorem rp_zero : ∀ n, rp n 0 = List.replicate n 48
  | 0 => rfl
  | n + 1 => by
    rw [rp, show 0 / 10 = 0 from rfl, rp_zero n, List.replicate_succ']; rfl
theorem rp_pad : ∀ (n x : Nat), 0 < n → x < 10 ^ n → rp n x = padL x n
  | 0, _, h, _ => absurd h (by omega)
  | n + 1, x, _, hx => by
    by_cases h10 : x < 10
    · rw [rp, show x / 10 = 0 by omega, rp_zero, show x % 10 = x by omega, pd, Lib.decDigits_one h10]; rfl
    · have hn : 0 < n := by
        rcases Nat.eq_zero_or_pos n with rfl | h
        · omega
        · exact h
      have hx2 : x / 10 < 10 ^ n := by rw [Nat.pow_succ] at hx; omega
      rw [rp, rp_pad n (x / 10) hn hx2, pd, pd, dd1 x, if_neg h10, List.length_append, List.length_singleton, ← List.append_assoc, show n + 1 - ((Lib.decDigits (x / 10)).length + 1) = n - (Lib.decDigits (x / 10)).length by omega]
      rfl
theorem conv1 (w1 : World) (k : Nat) (hk : k < 10) : (convert 71 9 (.slice (some ⟨w1.heap.size, 0, none⟩) 1 1)).run Tryd.prog (w1.alloc (.cells #[.int .u8 (48 + (k : Int))] 5)) =
    .ok (.string ⟨[D8 k].toArray⟩) (w1.alloc (.cells #[.int .u8 (48 + (k : Int))] 5)) := by
  refine run_convert_bytes_back _ _ _ 5 _ 1 [D8 k] Tryd.underlying71 Tryd.underlying5 Tryd.underlying9 ?_
  intro j hj
  have hb := Blk.new w1 5 [.int .u8 (48 + (k : Int))]
  have e1 := D8_nat k hk
  have hj1 : j < 1 := hj
  obtain rfl : j = 0 := by omega
  exact (hb.cell 0 _ rfl).trans (congrArg (fun x => some (Value.int .u8 x)) (by show 48 + (k : Int) = ((D8 k).toNat : Int); omega))
set_option maxHeartbeats 1000000 in
theorem rpad_any (x n : Nat) (hn : n ≤ 20) (hx : x ≤ 2000000000) (w : World) : Calls Tryd.prog 33 #[.int .i64 x, .int .i64 n] w (StrP (rp n x) w) := by
  have HF : Hid (∀ t w', t = mkB (rp n x) → Below w.heap.size w w' → StrP (rp n x) w (.returned (.string t)) w') := fun t w' h1 h2 => by subst h1; exact ⟨rfl, h2⟩
  have HS : Hid (∀ (i v : Nat) (t : List UInt8), i < n → rp (n - i) v ++ t = rp n x → rp (n - (i + 1)) (v / 10) ++ (D8 (v % 10) :: t) = rp n x) := fun i v t hi h => by
    rw [← h, show n - i = (n - (i + 1)) + 1 by omega, rp]; simp
  have HC := Lib.hid (fun W (v : Nat) => conv1 W (v % 10) (by omega))
  have HE : Hid (∀ (v : Nat) (t : List UInt8), rp 0 v ++ t = rp n x → mkB t = mkB (rp n x)) := fun v t h => by rw [← h]; rfl
  have HL : Hid (∀ (c : UInt8) (t : List UInt8), (⟨[c].toArray⟩ : ByteArray) ++ mkB t = mkB (c :: t)) := fun c t => (mk_app [c] t).symm
  generalize StrP (rp n x) w = Po at *
  obtain ⟨R, hR⟩ : ∃ R, Hid (R = rp n x) := ⟨_, rfl⟩
  rw [← hR.out] at HS HE HF
  have hRR : Hid (R = rp (n - 0) x) := hR
  clear hR
  go_enter Tryd.func33, Tryd.ntmps33
  go_wp2
  go_loopw [0, 5, 6] (fun xv sv iv wr => ∃ (i v : Nat) (t : List UInt8), i ≤ n ∧ v ≤ 2000000000 ∧ xv = .int .i64 v ∧ sv = .string (mkB t) ∧ iv = .int .i64 i ∧ Hid (t.length = i) ∧ Hid (rp (n - i) v ++ t = R) ∧ Hid (Below w.heap.size w wr)) (fun _ _ iv _ => n - (intOf iv).toNat)
  case atStart => exact ⟨0, x, [], by omega, hx, rfl, rfl, rfl, rfl, Lib.hid (by rw [hRR.out, List.append_nil]), Below.refl _ _⟩
  case round =>
    obtain ⟨i, v, t, hi, hv, rfl, rfl, rfl, htl, ht, hb⟩ := hrel
    by_cases hlt : i < n
    · have hli : (i : Int) < (n : Int) := by omega
      have hs := Lib.hid (HS.out i v t hlt ht.out)
      have hcv : (convert 71 9 (.slice (some ⟨wr.heap.size, 0, none⟩) 1 1)).run Tryd.prog (wr.alloc (.cells #[.int .u8 (48 + (v : Int) % 10)] 5)) = .ok (.string ⟨[D8 (v % 10)].toArray⟩) (wr.alloc (.cells #[.int .u8 (48 + (v : Int) % 10)] 5)) := by
        have h9 := HC.out wr v
        rw [show ((v % 10 : Nat) : Int) = (v : Int) % 10 by omega] at h9
        exact h9
      have hba : Hid (Below w.heap.size w (wr.alloc (.cells #[.int .u8 (48 + (v : Int) % 10)] 5))) := hb.out.alloc hb.out.size _
      have hl := Lib.hid (HL.out (D8 (v % 10)) t)
      have hsz : (mkB t).size ≤ 20 := by rw [mkB_size, htl.out]; omega
      have hq : Hid (((v / 10 : Nat) : Int) = (v : Int) / 10) := by show _ = _; omega
      have hlen : Hid ((D8 (v % 10) :: t).length = i + 1) := by show _ = _; rw [List.length_cons, htl.out]
      have z1 : (⟨[D8 (v % 10)].toArray⟩ : ByteArray).size = 1 := rfl
      clear HS HE HL HC ht hb
      generalize (⟨[D8 (v % 10)].toArray⟩ : ByteArray) = cb at *
      generalize hcc : D8 (v % 10) = cc at *
      generalize htb : mkB t = tb at *
      have htbh := Lib.hid htb
      clear htb hcc
      go_wp2
      go_roundw
      case rel => exact ⟨i + 1, v / 10, cc :: t, by omega, by omega, by rw [hq.out], by rw [hl.out], by go_num, hlen, hs, hba⟩
      case measure => simp [intOf]; omega
    · obtain rfl : i = n := by omega
      have he := Lib.hid (HE.out v t (by have := ht.out; rw [Nat.sub_self] at this; exact this))
      have hfin := Lib.hid (HF.out _ wr he.out hb.out)
      clear HS HE HL HC ht hb HF htl
      generalize mkB t = tb at *
      go_wp2
      exact hfin.out
end Go.Proofs.YtckeefjmamggmaaDoor
