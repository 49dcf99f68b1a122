/-
  Helper: what the calls of DecimalLaws answer.
-/
import Derived.Test.YtpankmaljafnnaaGreatDoorDcLawN2
namespace Go.Proofs.YtpankmaljafnnaaGreatDoor
open Go.RowKit
set_option linter.unusedVariables false
set_option linter.unusedSimpArgs false

/-- the products' part, behind sums without an error -/
def LFm (W : World) (x y z bc : ByteArray) : Prop := ∃ p k q m r n, Txt W 26 #[.string x, .string bc] (p, k) ∧ Txt W 26 #[.string x, .string y] (q, m) ∧ Txt W 26 #[.string x, .string z] (r, n) ∧
  (k = 0 → m = 0 → n = 0 → ∃ s o, Txt W 25 #[.string q, .string r] (s, o) ∧ Txt W 26 #[.string y, .string x] (q, 0) ∧ (o = 0 → s = p))
/-- the sums' part -/
def LFs (W : World) (x y z ab ac bc : ByteArray) (c : Int) : Prop := ∃ u i, Txt W 25 #[.string ab, .string z] (u, i) ∧ Txt W 25 #[.string x, .string bc] (u, i) ∧ Ret W 27 #[.string ac, .string bc] (.int .i64 c) ∧ LFm W x y z bc
def LF (W : World) (x y z : ByteArray) : Prop := ∃ ab e bc g ac h c, (c = -1 ∨ c = 0 ∨ c = 1) ∧ (c == 0) = (x.toList == y.toList) ∧ Txt W 25 #[.string x, .string y] (ab, e) ∧ Txt W 25 #[.string y, .string x] (ab, e) ∧ Txt W 25 #[.string y, .string z] (bc, g) ∧ Txt W 25 #[.string x, .string z] (ac, h) ∧
  Ret W 27 #[.string x, .string y] (.int .i64 c) ∧ Ret W 27 #[.string y, .string x] (.int .i64 (-c)) ∧ (e = 0 → g = 0 → h = 0 → LFs W x y z ab ac bc c)
theorem laws_mul {W : World} (hT : Tabs W) {x y z bc : ByteArray} {z0 x0 z1 x1 z2 x2 zb xb : Int} (h0 : Dec x z0 x0) (h1 : Dec y z1 x1) (h2 : Dec z z2 x2) (hb : Dec bc zb xb) (hv : VV zb xb = VV z1 x1 + VV z2 x2) : LFm W x y z bc := by
  have b0 := h0.1.2.2.1
  have b1 := h1.1.2.2.1
  have b2 := h2.1.2.2.1
  have b3 := hb.1.2.2.1
  obtain ⟨p, hp⟩ : ∃ p, (outD (z0 * zb) (x0 + xb)).1 = p := ⟨_, rfl⟩
  obtain ⟨k, hk⟩ : ∃ k, (outD (z0 * zb) (x0 + xb)).2 = k := ⟨_, rfl⟩
  have hpk : outD (z0 * zb) (x0 + xb) = (p, k) := by rw [← hp, ← hk]
  obtain ⟨q, hq⟩ : ∃ p, (outD (z0 * z1) (x0 + x1)).1 = p := ⟨_, rfl⟩
  obtain ⟨m, hm⟩ : ∃ k, (outD (z0 * z1) (x0 + x1)).2 = k := ⟨_, rfl⟩
  have hqm : outD (z0 * z1) (x0 + x1) = (q, m) := by rw [← hq, ← hm]
  obtain ⟨r, hr⟩ : ∃ p, (outD (z0 * z2) (x0 + x2)).1 = p := ⟨_, rfl⟩
  obtain ⟨n, hn⟩ : ∃ k, (outD (z0 * z2) (x0 + x2)).2 = k := ⟨_, rfl⟩
  have hrn : outD (z0 * z2) (x0 + x2) = (r, n) := by rw [← hr, ← hn]
  refine ⟨p, k, q, m, r, n, Txt.of hT fun V hV => by rw [← hpk]; exact mul_D h0 hb V hV, Txt.of hT fun V hV => by rw [← hqm]; exact mul_D h0 h1 V hV, Txt.of hT fun V hV => by rw [← hrn]; exact mul_D h0 h2 V hV, fun k0 m0 n0 => ?_⟩
  rw [k0] at hpk
  rw [m0] at hqm
  rw [n0] at hrn
  obtain ⟨zp, xp, dp, vp⟩ := out_dec (by omega) hpk
  obtain ⟨zq, xq, dq, vq⟩ := out_dec (by omega) hqm
  obtain ⟨zr, xr, dr, vr⟩ := out_dec (by omega) hrn
  obtain ⟨s, hs⟩ : ∃ s, (oV (VV zq xq + VV zr xr)).1 = s := ⟨_, rfl⟩
  obtain ⟨o, ho⟩ : ∃ o, (oV (VV zq xq + VV zr xr)).2 = o := ⟨_, rfl⟩
  have hso : oV (VV zq xq + VV zr xr) = (s, o) := by rw [← hs, ← ho]
  refine ⟨s, o, Txt.of hT fun V hV => by rw [← hso]; exact add_D dq dr V hV, Txt.of hT fun V hV => by
    have := mul_D h1 h0 V hV
    rw [Int.mul_comm, Int.add_comm, hqm] at this
    exact this, fun o0 => ?_⟩
  rw [o0] at hso
  obtain ⟨zs, xs, ds, vs⟩ := oV_dec hso
  refine ds.inj dp ?_
  have e1 := mul_VV z0 x0 zb xb (by omega) (by omega)
  have e2 := mul_VV z0 x0 z1 x1 (by omega) (by omega)
  have e3 := mul_VV z0 x0 z2 x2 (by omega) (by omega)
  rw [hv, Int.mul_add] at e1
  refine Int.eq_of_mul_eq_mul_right (by have := U5_pos; omega) (?_ : VV zs xs * U5 = VV zp xp * U5)
  rw [vs, vp, vq, vr, Int.add_mul, e1, e2, e3]
theorem laws_facts {W : World} (hT : Tabs W) {x y z : ByteArray} {z0 x0 z1 x1 z2 x2 : Int} (h0 : Dec x z0 x0) (h1 : Dec y z1 x1) (h2 : Dec z z2 x2) : LF W x y z := by
  obtain ⟨ab, hab⟩ : ∃ s, (oV (VV z0 x0 + VV z1 x1)).1 = s := ⟨_, rfl⟩
  obtain ⟨e, he⟩ : ∃ s, (oV (VV z0 x0 + VV z1 x1)).2 = s := ⟨_, rfl⟩
  have hs1 : oV (VV z0 x0 + VV z1 x1) = (ab, e) := by rw [← hab, ← he]
  obtain ⟨bc, hbc⟩ : ∃ s, (oV (VV z1 x1 + VV z2 x2)).1 = s := ⟨_, rfl⟩
  obtain ⟨g, hg⟩ : ∃ s, (oV (VV z1 x1 + VV z2 x2)).2 = s := ⟨_, rfl⟩
  have hs2 : oV (VV z1 x1 + VV z2 x2) = (bc, g) := by rw [← hbc, ← hg]
  obtain ⟨ac, hac⟩ : ∃ s, (oV (VV z0 x0 + VV z2 x2)).1 = s := ⟨_, rfl⟩
  obtain ⟨h, hh⟩ : ∃ s, (oV (VV z0 x0 + VV z2 x2)).2 = s := ⟨_, rfl⟩
  have hs3 : oV (VV z0 x0 + VV z2 x2) = (ac, h) := by rw [← hac, ← hh]
  refine ⟨ab, e, bc, g, ac, h, sgI (VV z0 x0 - VV z1 x1), sgI_vals _, ?_, Txt.of hT fun V hV => by rw [← hs1]; exact add_D h0 h1 V hV, Txt.of hT fun V hV => by rw [← hs1, Int.add_comm]; exact add_D h1 h0 V hV, Txt.of hT fun V hV => by rw [← hs2]; exact add_D h1 h2 V hV, Txt.of hT fun V hV => by rw [← hs3]; exact add_D h0 h2 V hV, Ret.of hT fun V hV => cmp_D h0 h1 V hV, Ret.of hT fun V hV => by rw [← sgI_opp, Int.neg_sub]; exact cmp_D h1 h0 V hV, fun e0 g0 h0' => ?_⟩
  · by_cases hq : VV z0 x0 = VV z1 x1
    · have := h0.inj h1 hq
      rw [hq, Int.sub_self, this]; simp [sgI]
    · have hne : x.toList ≠ y.toList := fun g => hq (by
        have hxy : x = y := ba_ext _ _ (by rw [Lib.toList_data, Lib.toList_data] at g; exact g)
        have h3 := h0.2
        rw [hxy, h1.2] at h3
        have h4 := congrArg (fun b : ByteArray => b.data.toList) h3
        obtain ⟨rfl, rfl⟩ := tD_inj h4
        rfl)
      have e1 : (x.toList == y.toList) = false := by rw [beq_eq_false_iff_ne]; exact hne
      rw [e1, beq_eq_false_iff_ne]
      rcases Int.lt_trichotomy (VV z0 x0 - VV z1 x1) 0 with c | c | c
      · rw [sgI_neg c]; decide
      · omega
      · rw [sgI_pos c]; decide
  · rw [e0] at hs1
    rw [g0] at hs2
    rw [h0'] at hs3
    obtain ⟨za, xa, da, va⟩ := oV_dec hs1
    obtain ⟨zb, xb, db, vb⟩ := oV_dec hs2
    obtain ⟨zc, xc, dc, vc⟩ := oV_dec hs3
    obtain ⟨u, hu⟩ : ∃ s, (oV (VV z0 x0 + VV z1 x1 + VV z2 x2)).1 = s := ⟨_, rfl⟩
    obtain ⟨i, hi⟩ : ∃ s, (oV (VV z0 x0 + VV z1 x1 + VV z2 x2)).2 = s := ⟨_, rfl⟩
    have hui : oV (VV z0 x0 + VV z1 x1 + VV z2 x2) = (u, i) := by rw [← hu, ← hi]
    refine ⟨u, i, Txt.of hT fun V hV => by rw [← hui, ← va]; exact add_D da h2 V hV, Txt.of hT fun V hV => by rw [← hui, Int.add_assoc, ← vb]; exact add_D h0 db V hV, Ret.of hT fun V hV => ?_, laws_mul hT h0 h1 h2 db vb⟩
    have := cmp_D dc db V hV
    rw [vc, vb, show VV z0 x0 + VV z2 x2 - (VV z1 x1 + VV z2 x2) = VV z0 x0 - VV z1 x1 by omega] at this
    exact this
end Go.Proofs.YtpankmaljafnnaaGreatDoor
