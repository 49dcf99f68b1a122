/-
  Helper: the walk of DigestEdges.
-/
import Derived.Test.YtnngadbmfdfmfaaDoorDgLawA
import Derived.Deep.RegionLaw
import Derived.Deep.Cut
namespace Go.Proofs.YtnngadbmfdfmfaaDoor
open Go.RowKit
set_option linter.unusedVariables false
set_option linter.unusedSimpArgs false

/-- the bytes of the loop -/
def edg (x s : UInt8) : Nat → List UInt8
  | 0 => []
  | k + 1 => edg x s k ++ [x + UInt8.ofNat k * s]
theorem edg_len (x s : UInt8) (k : Nat) : (edg x s k).length = k := by
  induction k with
  | zero => rfl
  | succ k ih => simp [edg, ih]
theorem edg_next (x s : UInt8) (k : Nat) : x + UInt8.ofNat k * s + s = x + UInt8.ofNat (k + 1) * s := by
  rw [UInt8.ofNat_add, UInt8.add_mul, show UInt8.ofNat 1 = 1 from rfl, UInt8.one_mul, UInt8.add_assoc]
theorem add_u8 (x y : UInt8) : (((x.toNat : Nat) : Int) + ((y.toNat : Nat) : Int)) % 256 = (((x + y).toNat : Nat) : Int) := by
  rw [UInt8.toNat_add]; omega
set_option maxRecDepth 100000 in
set_option maxHeartbeats 8000000 in
theorem walkDigestEdges (w : World) (hT : Tabs w) (n : Int) (hn : (Lit.int .u8 n).wf = true) (x : Int) (hx : (Lit.int .u8 x).wf = true) (s : Int) (hs : (Lit.int .u8 s).wf = true) :
    Calls Tryd.prog 4 #[.int .u8 n, .int .u8 x, .int .u8 s] w fun e w' => e = .returned (.bool true) ∧ Below w.heap.size w w' := by
  have u8 : ∀ z : Int, (Lit.int .u8 z).wf = true → ∃ c : UInt8, z = ((c.toNat : Nat) : Int) := fun z hz => by
    have h2 : 0 ≤ z ∧ z < 256 := by
      simp [Lit.wf, IntKind.min, IntKind.max, IntKind.signed, IntKind.bits] at hz
      omega
    refine ⟨UInt8.ofNat z.toNat, ?_⟩
    rw [toNat_ofNat _ (by omega)]; omega
  obtain ⟨n, rfl⟩ := u8 n hn
  obtain ⟨x, rfl⟩ := u8 x hx
  obtain ⟨s, rfl⟩ := u8 s hs
  obtain ⟨N, hNn⟩ : ∃ N, n.toNat = N := ⟨_, rfl⟩
  have hN : N < 256 := by rw [← hNn]; exact UInt8.toNat_lt n
  rw [hNn]
  have hTh := Lib.hid hT
  have hl := Lib.hid (edg_len x s N)
  clear u8 hn hx hs hNn hT
  go_enter Tryd.func4, Tryd.ntmps4
  go_wp2
  go_loopw [1, 7, 9] (fun xv v i wr => ∃ k : Nat, k ≤ N ∧ i = .int .u8 (k : Int) ∧ xv = .int .u8 (((x + UInt8.ofNat k * s).toNat : Nat) : Int) ∧ Hid (wr.ownsRow w.heap.size 5 1 v k (bytes (edg x s k))) ∧ Hid (Below w.heap.size w wr)) (fun _ _ i _ => N - (intOf i).toNat)
  case atStart => exact ⟨0, Nat.zero_le _, rfl, by simp, World.ownsRow_nil w _ _ _, Below.refl _ _⟩
  case round =>
    obtain ⟨k, hk, rfl, rfl, hown, hbel⟩ := hrel
    by_cases hlt : k < N
    · have hst : Hid (edg x s (k + 1) = edg x s k ++ [x + UInt8.ofNat k * s]) := rfl
      have hnx := Lib.hid (edg_next x s k)
      have had := add_u8 (x + UInt8.ofNat k * s) s
      have hbs := hbel.out.size
      have hkI : (k : Int) < (N : Int) := by omega
      have hk1 : (k : Int) + 1 < 256 := by omega
      rw [hnx.out] at had
      have hadh := Lib.hid had
      clear had
      generalize x + UInt8.ofNat k * s = c at *
      generalize hc2 : x + UInt8.ofNat (k + 1) * s = c2 at *
      have hc2h := Lib.hid hc2
      clear hc2
      go_wp2_with (at_builtin; refine append_byte rfl (.tmp 11) (.tmp 13) 26 rfl Tryd.underlying26 _ w.heap.size _ k (edg x s k) c rfl rfl hown.out w hbel.out ?c1 ?c2 rfl ?_)
      case c1 => exact hbs
      case c2 => omega
      intro v' w3 hown3 hb3 hsp
      rw [← hst.out] at hown3
      have hown3h := Lib.hid hown3
      have hb3h := Lib.hid hb3
      clear hsp hown3 hb3 hown
      go_wp2
      go_roundw
      case rel => exact ⟨k + 1, by omega, by go_num, by rw [hadh.out, hc2h.out], hown3h, hb3h⟩
      case measure => simp [intOf]; omega
    · obtain rfl : k = N := by omega
      obtain ⟨a2, cap2, rfl, hq1, hq2, hrb⟩ := rb_of_row hown.out
      have hcvF := Lib.hid (fun W (hW : Below wr.heap.size wr W) => conv_rb (hrb.go hW) k hl.out cap2)
      have hbl := Lib.hid hbel.out
      have hP : Hid (∀ W, Below wr.heap.size wr W → Below w.heap.size w W) := fun W hW => hbl.out.trans (hW.mono hbl.out.size)
      have hTr : Tabs wr := hTh.out.go hbl.out
      have HA := Lib.hid (fun W (hW : Below wr.heap.size wr W) => awake_at W wr hTr hW)
      have HF := Lib.hid (fun W (hW : Below wr.heap.size wr W) => sum_one (mkS (edg x s k)) W wr hTr hW (by show (edg x s k).toArray.size ≤ _; simp [edg_len]; omega))
      have HR := Lib.hid (fun W (hW : Below wr.heap.size wr W) => ref_at (mkS (edg x s k)) W wr hW (by show (edg x s k).toArray.size ≤ _; simp [edg_len]; omega))
      have hbd : Hid (Below wr.heap.size wr wr.drew) := (Below.refl _ _).drew
      clear hown hrb hq1 hq2 hlt hTr hTh hbel hl
      generalize hbb : (⟨(edg x s k).toArray⟩ : ByteArray) = bb at *
      rw [show mkS (edg x s k) = bb from hbb] at HF HR
      clear hbb
      generalize mkS (sumF bb.data.toList) = r at *
      go_upto_region 7 with fail
      go_region_law (first
        | (go_simp; go_at_call 9; (with_reducible refine (HA.out _ hbd.out).mono ?_); rintro e w4 ⟨rfl, hb4⟩; have hcv4 := hcvF.out w4 hb4; have hcv4a := hcvF.out _ (hb4.alloc hb4.size (.cells #[.string bb] 9)))
        | (go_simp; go_at_call 10; (with_reducible refine (HF.out _ hb4).mono ?_); rintro e w5 ⟨rfl, hb5⟩; have hcv5 := hcvF.out w5 hb5)
        | (go_simp; go_at_call 11; (with_reducible refine (HR.out _ hb5).mono ?_); rintro e w6 ⟨rfl, hb6⟩))
      all_goals
        have h9 := Lib.hid (hP.out _ hb6)
        clear hb6 hb5 hb4 hcv4 hcv4a hcv5 HA HF HR hcvF
        go_wp2
        go_ret
        exact ⟨rfl, h9.out⟩
end Go.Proofs.YtnngadbmfdfmfaaDoor
