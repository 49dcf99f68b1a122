/-
  Helper: the walk of canonical.
-/
import Derived.Test.YtckeefjmamggmaaDoorInWr
import Derived.Deep.DeepCutAuto
namespace Go.Proofs.YtckeefjmamggmaaDoor
open Go.RowKit
set_option linter.unusedVariables false

/-- a canonical text, without the zone -/
def canL (sh : Nat) (f : List Nat) (na : Nat) : List UInt8 := if sh = 1 then wrL f 0 3 [45] else if sh = 2 then wrL f 3 3 [58] ++ frL na else wrL f 0 3 [45] ++ [84] ++ wrL f 3 3 [58] ++ frL na
theorem mkB_app (x y : List UInt8) : mkB (x ++ y) = mkB x ++ mkB y := mk_app x y
theorem mkB_size (x : List UInt8) : (mkB x).size = x.length := by simp [mkB, ByteArray.size]
theorem wrL_len (f : List Nat) (first k : Nat) (mk : UInt8) (hf2 : ∀ k, f.getD k 0 ≤ 1000000000) (hk : k ≤ 8) : (wrL f first k [mk]).length ≤ 1000 := by
  have := join_len (grpT f first k) [mk] 40 (fun x hx => by
    obtain ⟨j, _, rfl⟩ := List.mem_map.1 hx
    exact padL_len _ _ (by have := hf2 (first + j); omega) (by have := wid_le (first + j); omega))
  rw [grpT_len] at this
  have h41 : k * (40 + [mk].length) ≤ 8 * 41 := Nat.mul_le_mul (by omega) (by simp)
  unfold wrL; omega
theorem frL_len (na : Nat) (h : na ≤ 999999999) : (frL na).length ≤ 41 := by
  unfold frL
  split
  · simp
  · have h3 : (Lib.trimRightB (padL na 9) 48).length ≤ (padL na 9).length := by
      unfold Lib.trimRightB
      rw [List.length_reverse]
      have := (List.dropWhile_sublist (fun x : UInt8 => x == 48) (l := (padL na 9).reverse)).length_le
      rw [List.length_reverse] at this
      exact this
    have h4 := padL_len na 9 (by omega) (by omega)
    rw [List.length_cons]; omega
set_option maxRecDepth 100000 in
set_option maxHeartbeats 8000000 in
theorem canonical_any (sh : Nat) (f : List Nat) (na zo : Nat) (hf : f.length = 8) (hf2 : ∀ k, f.getD k 0 ≤ 1000000000) (hna : na ≤ 999999999) (w : World) (hT : Tabs w) :
    Calls Tryd.prog 22 #[tv sh f na zo] w (StrP (canL sh f na) w) := by
  have HF : Hid (∀ t w', t = mkB (canL sh f na) → Below w.heap.size w w' → StrP (canL sh f na) w (.returned (.string t)) w') := fun t w' h1 h2 => by subst h1; exact ⟨rfl, h2⟩
  generalize hPo : StrP (canL sh f na) w = Po at *
  clear hPo
  obtain ⟨a0, a1, a2, a3, a4, a5, a6, a7, rfl⟩ : ∃ a0 a1 a2 a3 a4 a5 a6 a7, f = [a0, a1, a2, a3, a4, a5, a6, a7] := by
    match f, hf with
    | [a0, a1, a2, a3, a4, a5, a6, a7], _ => exact ⟨a0, a1, a2, a3, a4, a5, a6, a7, rfl⟩
  have hB : Hid (Blk (w.alloc (.cells (tx sh [a0, a1, a2, a3, a4, a5, a6, a7] na zo).toArray 43)) w.heap.size 43 (tx sh [a0, a1, a2, a3, a4, a5, a6, a7] na zo)) := Blk.new w 43 (tx sh [a0, a1, a2, a3, a4, a5, a6, a7] na zo)
  have hbel : Hid (Below w.heap.size w (w.alloc (.cells (tx sh [a0, a1, a2, a3, a4, a5, a6, a7] na zo).toArray 43))) := (Below.refl _ w).alloc (Nat.le_refl _) _
  have hsz : Hid ((w.alloc (.cells (tx sh [a0, a1, a2, a3, a4, a5, a6, a7] na zo).toArray 43)).heap.size = w.heap.size + 1) := by show _ = _; simp
  have hTb : Hid (Tabs (w.alloc (.cells (tx sh [a0, a1, a2, a3, a4, a5, a6, a7] na zo).toArray 43))) := hT.go hbel.out
  have h4 := hT.1
  have hl1 := wrL_len [a0, a1, a2, a3, a4, a5, a6, a7] 0 3 45 hf2 (by omega)
  have hl2 := wrL_len [a0, a1, a2, a3, a4, a5, a6, a7] 3 3 58 hf2 (by omega)
  have hl3 := frL_len na hna
  have HC : Hid (∀ sh', sh' = sh → mkB (canL sh' [a0, a1, a2, a3, a4, a5, a6, a7] na) = if sh' = 1 then mkB (wrL [a0, a1, a2, a3, a4, a5, a6, a7] 0 3 [45]) else if sh' = 2 then mkB (wrL [a0, a1, a2, a3, a4, a5, a6, a7] 3 3 [58]) ++ mkB (frL na) else mkB (wrL [a0, a1, a2, a3, a4, a5, a6, a7] 0 3 [45]) ++ mkB [84] ++ mkB (wrL [a0, a1, a2, a3, a4, a5, a6, a7] 3 3 [58]) ++ mkB (frL na)) := fun sh' _ => by
    unfold canL
    split
    · rfl
    · split
      · rw [mkB_app]
      · rw [mkB_app, mkB_app, mkB_app]
  unfold tv
  generalize hwb : w.alloc (.cells (tx sh [a0, a1, a2, a3, a4, a5, a6, a7] na zo).toArray 43) = wb at *
  have hwb2 : w.alloc (.cells #[.int .i64 sh, .int .i64 a0, .int .i64 a1, .int .i64 a2, .int .i64 a3, .int .i64 a4, .int .i64 a5, .int .i64 a6, .int .i64 a7, .int .i64 na, .int .u8 zo] 43) = wb := hwb
  obtain ⟨n0, hn0⟩ : ∃ n0, n0 = w.heap.size := ⟨_, rfl⟩
  rw [← hn0] at hB hbel hsz
  have HCell : Hid (∀ W, Below (n0 + 1) wb W → W.cell? ⟨n0, 0, none⟩ = some (.int .i64 sh) ∧ W.cell? ⟨n0, 1, none⟩ = some (.int .i64 a0) ∧ W.cell? ⟨n0, 2, none⟩ = some (.int .i64 a1) ∧ W.cell? ⟨n0, 3, none⟩ = some (.int .i64 a2) ∧ W.cell? ⟨n0, 4, none⟩ = some (.int .i64 a3) ∧ W.cell? ⟨n0, 5, none⟩ = some (.int .i64 a4) ∧ W.cell? ⟨n0, 6, none⟩ = some (.int .i64 a5) ∧ W.cell? ⟨n0, 7, none⟩ = some (.int .i64 a6) ∧ W.cell? ⟨n0, 8, none⟩ = some (.int .i64 a7) ∧ W.cell? ⟨n0, 9, none⟩ = some (.int .i64 na) ∧ W.cell? ⟨n0, 10, none⟩ = some (.int .u8 zo)) := fun W h => by
    have hb := hB.out.go h (Nat.lt_succ_self _)
    exact ⟨hb.cell 0 _ rfl, hb.cell 1 _ rfl, hb.cell 2 _ rfl, hb.cell 3 _ rfl, hb.cell 4 _ rfl, hb.cell 5 _ rfl, hb.cell 6 _ rfl, hb.cell 7 _ rfl, hb.cell 8 _ rfl, hb.cell 9 _ rfl, hb.cell 10 _ rfl⟩
  have HT : Hid (∀ W, Below (n0 + 1) wb W → Tabs W) := fun W h => hTb.out.below h (by omega)
  have H1 : Hid (∀ W, Below (n0 + 1) wb W → Calls Tryd.prog 34 #[.agg #[.int .i64 sh, .int .i64 a0, .int .i64 a1, .int .i64 a2, .int .i64 a3, .int .i64 a4, .int .i64 a5, .int .i64 a6, .int .i64 a7, .int .i64 na, .int .u8 zo], .int .i64 0, .int .i64 2, .string ⟨#[45]⟩] W (StrP (wrL [a0, a1, a2, a3, a4, a5, a6, a7] 0 3 [45]) W)) := fun W h => written_any sh [a0, a1, a2, a3, a4, a5, a6, a7] na zo 0 3 45 rfl hf2 (by omega) (by omega) W (HT.out W h)
  have H2 : Hid (∀ W, Below (n0 + 1) wb W → Calls Tryd.prog 34 #[.agg #[.int .i64 sh, .int .i64 a0, .int .i64 a1, .int .i64 a2, .int .i64 a3, .int .i64 a4, .int .i64 a5, .int .i64 a6, .int .i64 a7, .int .i64 na, .int .u8 zo], .int .i64 3, .int .i64 5, .string ⟨#[58]⟩] W (StrP (wrL [a0, a1, a2, a3, a4, a5, a6, a7] 3 3 [58]) W)) := fun W h => written_any sh [a0, a1, a2, a3, a4, a5, a6, a7] na zo 3 3 58 rfl hf2 (by omega) (by omega) W (HT.out W h)
  have H3 : Hid (∀ W, Below (n0 + 1) wb W → Calls Tryd.prog 35 #[.agg #[.int .i64 sh, .int .i64 a0, .int .i64 a1, .int .i64 a2, .int .i64 a3, .int .i64 a4, .int .i64 a5, .int .i64 a6, .int .i64 a7, .int .i64 na, .int .u8 zo]] W (StrP (frL na) W)) := fun W h => fraction_any sh [a0, a1, a2, a3, a4, a5, a6, a7] na zo rfl hna W (HT.out W h)
  have HN : Hid (∀ a b, Below (n0 + 1) wb a → Below a.heap.size a b → Below (n0 + 1) wb b) := fun a b h1 h2 => h1.trans (h2.mono (by have := h1.size; have := hsz.out; omega))
  have HE : Hid (∀ W, Below (n0 + 1) wb W → Below w.heap.size w W) := fun W h => by rw [← hn0]; exact hbel.out.trans (h.mono (Nat.le_succ _))
  have hs1 : (mkB (wrL [a0, a1, a2, a3, a4, a5, a6, a7] 0 3 [45])).size ≤ 1000 := by rw [mkB_size]; exact hl1
  have hs2 : (mkB (wrL [a0, a1, a2, a3, a4, a5, a6, a7] 3 3 [58])).size ≤ 1000 := by rw [mkB_size]; exact hl2
  have hs3 : (mkB (frL na)).size ≤ 41 := by rw [mkB_size]; exact hl3
  clear hT hf hf2 hl1 hl2 hl3 hbel hB hTb HT h4
  have h84 : mkB [84] = ⟨#[84]⟩ := rfl
  rw [h84] at HC
  clear h84
  have hn0h := Lib.hid hn0
  clear hn0
  unfold StrP at H1 H2 H3
  generalize mkB (wrL [a0, a1, a2, a3, a4, a5, a6, a7] 0 3 [45]) = s1 at *
  generalize mkB (wrL [a0, a1, a2, a3, a4, a5, a6, a7] 3 3 [58]) = s2 at *
  generalize mkB (frL na) = s3 at *
  have l1 : (9223372036854775807 < s1.size + 1) = False := eq_false (by omega)
  have l2 : (9223372036854775807 < s1.size + 1 + s2.size) = False := eq_false (by omega)
  have l3 : (9223372036854775807 < s1.size + 1 + s2.size + s3.size) = False := eq_false (by omega)
  have l4 : (9223372036854775807 < s2.size + s3.size) = False := eq_false (by omega)
  have HC2 := HC.out sh rfl
  obtain ⟨x0, x1, x2, x3, x4, x5, x6, x7, x8, x9, x10⟩ := HCell.out wb (Below.refl _ _)
  have hbd : Hid (Below (n0 + 1) wb wb.drew) := (Below.refl _ wb).drew
  by_cases e1 : sh = 1
  · rw [if_pos e1] at HC2
    have HF2 := Lib.hid (fun w' h => HF.out s1 w' HC2.symm h)
    subst e1
    clear HC HC2 HF
    go_enter Tryd.func22, Tryd.ntmps22
    go_upto_region 1 with fail
    rw [← hn0h.out]
    clear hwb hwb2
    go_wp2_with fail
    refine (H1.out _ (Below.refl _ _)).mono ?_
    rintro e w2 ⟨rfl, hb2⟩
    have hfin := Lib.hid (HF2.out w2 (HE.out _ (HN.out _ _ (Below.refl _ _) hb2)))
    clear hb2
    go_wp2
    exact hfin.out
  · rw [if_neg e1] at HC2
    have he1 : ((sh : Int) == 1) = false := by rw [beq_eq_false_iff_ne]; omega
    by_cases e2 : sh = 2
    · rw [if_pos e2] at HC2
      have HF2 := Lib.hid (fun w' h => HF.out (s2 ++ s3) w' HC2.symm h)
      subst e2
      clear HC HC2 HF e1
      go_enter Tryd.func22, Tryd.ntmps22
      go_upto_region 1 with fail
      rw [← hn0h.out]
      clear hwb hwb2
      go_wp2_with fail
      go_region_law ((first | (go_simp; go_at_call 34; refine (H2.out _ hbd.out).mono ?_; rintro e w2 ⟨rfl, hb2⟩; have hB2 := Lib.hid (HN.out _ _ hbd.out hb2); clear hb2; obtain ⟨y0, y1, y2, y3, y4, y5, y6, y7, y8, y9, y10⟩ := HCell.out w2 hB2.out) | (go_simp; go_at_call 35; refine (H3.out _ hB2.out).mono ?_; rintro e w3 ⟨rfl, hb3⟩; have hB3 := Lib.hid (HN.out _ _ hB2.out hb3); clear hb3)))
      all_goals
        have hfin := Lib.hid (HF2.out w3 (HE.out _ hB3.out))
        first | (go_wp2; exact hfin.out) | (go_simp; go_wp2; exact hfin.out) | (go_simp; exact hfin.out)
    · rw [if_neg e2] at HC2
      have he2 : ((sh : Int) == 2) = false := by rw [beq_eq_false_iff_ne]; omega
      have HF2 := Lib.hid (fun w' h => HF.out (s1 ++ ⟨#[84]⟩ ++ s2 ++ s3) w' HC2.symm h)
      clear HC HC2 HF e1 e2
      go_enter Tryd.func22, Tryd.ntmps22
      go_upto_region 1 with fail
      rw [← hn0h.out]
      clear hwb hwb2
      go_wp2_with fail
      go_region_law ((first | (go_simp; go_at_call 34; (with_reducible refine (H1.out _ hbd.out).mono ?_); rintro e w1 ⟨rfl, hb1⟩; have hB1 := Lib.hid (HN.out _ _ hbd.out hb1); clear hb1; obtain ⟨z0, z1, z2, z3, z4, z5, z6, z7, z8, z9, z10⟩ := HCell.out w1 hB1.out) | (go_simp; go_at_call 34; refine (H2.out _ hB1.out).mono ?_; rintro e w2 ⟨rfl, hb2⟩; have hB2 := Lib.hid (HN.out _ _ hB1.out hb2); clear hb2; obtain ⟨y0, y1, y2, y3, y4, y5, y6, y7, y8, y9, y10⟩ := HCell.out w2 hB2.out) | (go_simp; go_at_call 35; refine (H3.out _ hB2.out).mono ?_; rintro e w3 ⟨rfl, hb3⟩; have hB3 := Lib.hid (HN.out _ _ hB2.out hb3); clear hb3)))
      all_goals
        have hfin := Lib.hid (HF2.out w3 (HE.out _ hB3.out))
        first | (go_wp2; exact hfin.out) | (go_simp; go_wp2; exact hfin.out) | (go_simp; exact hfin.out)
end Go.Proofs.YtckeefjmamggmaaDoor
