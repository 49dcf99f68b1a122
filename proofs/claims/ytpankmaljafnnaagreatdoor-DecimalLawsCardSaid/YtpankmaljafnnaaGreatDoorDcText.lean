/-
  Helper: the walk of number.text.
-/
import Derived.Test.YtpankmaljafnnaaGreatDoorDcRead
import Derived.Laws.IdiomStrings
namespace Go.Proofs.YtpankmaljafnnaaGreatDoor
open Go.RowKit
set_option linter.unusedVariables false
set_option linter.unusedSimpArgs false

theorem conv_str {w : World} {a : Option Addr} {l : List UInt8} (h : Rb w a l) (cap : Nat) (hp : l ≠ []) : (convert 59 9 (.slice a l.length cap)).run Tryz.prog w = .ok (.string (mkB l)) w := by
  rcases h with h | ⟨b, off, rfl, hlt, hc⟩
  · exact absurd h hp
  · refine run_convert_bytes_back w 59 9 5 ⟨b, off, none⟩ cap l Tryz.underlying59 Tryz.underlying5 Tryz.underlying9 (fun j hj => ?_)
    have e : (⟨b, off, none⟩ : Addr).add j = ⟨b, off + j, none⟩ := by cases j <;> simp [Addr.add]
    rw [e, hc j hj, List.getD_eq_getElem?_getD, List.getElem?_eq_getElem hj]; rfl
theorem wrapI (n : Int) (h1 : -9223372036854775808 ≤ n) (h2 : n ≤ 9223372036854775807) : IntKind.i64.wrap n = n := by
  have : IntKind.i64.wrap n = (n + 9223372036854775808) % 18446744073709551616 - 9223372036854775808 := by
    simp [IntKind.wrap, IntKind.bits, IntKind.signed]; omega
  omega
def TxP (r : ByteArray × Int) (w : World) (en : Ending) (w' : World) : Prop := en = .returned (.tuple #[.string r.1, .int .i64 r.2]) ∧ Below w.heap.size w w'
theorem sgnB_T (b : Bool) (m : Nat) (hm : m ≠ 0) : sgnB b (mkB (body 10 m)) = mkB (T (zi b m)) := by
  unfold sgnB T Tb
  rw [zi_abs]
  unfold zi
  cases b with
  | true => rw [if_pos rfl, if_pos rfl, if_pos (by omega)]; apply ba_ext; rfl
  | false =>
    show mkB (body 10 m) = mkB ((if ((m : Nat) : Int) < 0 then [45] else []) ++ body 10 m)
    rw [if_neg (by omega)]; rfl
theorem neg_zi (b : Bool) (n : Nat) (hn : n ≠ 0) : neg (zi b n) = b := by
  unfold neg zi
  cases b with
  | true => rw [if_pos rfl]; exact decide_eq_true (by omega)
  | false => rw [if_neg (by decide)]; exact decide_eq_false (by omega)
theorem mkB_app (x y : List UInt8) : mkB (x ++ y) = mkB x ++ mkB y := by apply ba_ext; simp [mkB]
set_option maxRecDepth 100000 in
set_option maxHeartbeats 8000000 in
theorem text_any (b : Bool) (ds : List UInt8) (hA : AD ds) (hl : ds.length ≤ 100000) (e : Int) (he0 : -9223372036854775808 ≤ e) (he1 : e ≤ 9223372036854775807) (a : Option Addr) (cap : Nat) (hcap : ds.length ≤ cap) (w : World) (hr : Rb w a ds) (hT : Tabs w) :
    Calls Tryz.prog 39 #[.agg (nvl b a ds.length cap e).toArray] w (TxP (outD (zi b (numv ds)) e) w) := by
  obtain ⟨wb, hwb⟩ : ∃ wb, w.alloc (.cells (nvl b a ds.length cap e).toArray 61) = wb := ⟨_, rfl⟩
  obtain ⟨N, hN⟩ : ∃ N, w.heap.size = N := ⟨_, rfl⟩
  have hB : Hid (Blk wb N 61 (nvl b a ds.length cap e)) := by rw [← hwb, ← hN]; exact Blk.new w _ _
  have hbel : Below w.heap.size w wb := by rw [← hwb]; exact (Below.refl _ w).alloc (Nat.le_refl _) _
  have hb : Hid (Below w.heap.size w wb) := hbel
  have hrb : Rb wb a ds := hr.go hbel
  have hTb : Hid (Tabs wb) := hT.go hbel
  have c0 := hB.out.cell 0 (.bool b) rfl
  have c1 := hB.out.cell 1 (.slice a ds.length cap) rfl
  have c2 := hB.out.cell 2 (.int .i64 e) rfl
  have HL := Lib.hid (trimL_any ds a cap wb (by omega) hcap hrb)
  rw [trimL_num ds hA] at HL
  have HF : Hid (∀ t en w', outD (zi b (numv ds)) e = (t, en) → Below w.heap.size w w' → TxP (outD (zi b (numv ds)) e) w (.returned (.tuple #[.string t, .int .i64 en])) w') := fun t en w' h1 h2 => by rw [h1]; exact ⟨rfl, h2⟩
  generalize TxP (outD (zi b (numv ds)) e) w = Po at *
  clear hr hrb hT hbel
  have hlt := numv_lt ds hA
  have hlb : numv ds = 0 ∨ (body 10 (numv ds)).length ≤ ds.length := by
    by_cases h : numv ds = 0
    · exact .inl h
    · right
      have := trimL_len ds
      rw [trimL_num ds hA, if_neg h] at this
      exact this
  generalize numv ds = n at *
  generalize hdl : ds.length = dl at *
  clear hdl hlt
  by_cases hn : n = 0
  · rw [if_pos hn] at HL
    have hout : outD (zi b n) e = (⟨#[48, 101, 48]⟩, 0) := by
      have : zi b n = 0 := by unfold zi; cases b <;> simp [hn]
      rw [this]; rfl
    have HF2 := Lib.hid (fun w' => HF.out _ _ w' hout)
    clear HF hout hlb
    unfold SlP at HL
    go_enter Tryz.func39, Tryz.ntmps39
    go_wp2_with fail
    refine HL.out.mono ?_
    rintro en w' ⟨a2, k2, rfl, h1, h2, rfl⟩
    have hfin := Lib.hid (HF2.out _ hb.out)
    clear HF2 h2 HL
    go_wp2
    exact hfin.out
  · rw [if_neg hn] at HL
    obtain ⟨m1, m2⟩ := mant_spec n (by omega)
    have htr := trimR_body (mant n) (tz n) m2
    rw [← m1] at htr
    obtain ⟨t1, t2⟩ := htr
    have hbl : (body 10 n).length ≤ dl := hlb.resolve_left hn
    have hout : outD (zi b n) e = if 400 < (body 10 (mant n)).length then (⟨#[]⟩, 6) else if e + (tz n : Int) < -2000 ∨ 2000 < e + (tz n : Int) then (⟨#[]⟩, 2) else (sgnB b (mkB (body 10 (mant n))) ++ ⟨#[101]⟩ ++ mkB (T (e + (tz n : Int))), 0) := by
      unfold outD
      have hz : zi b n ≠ 0 := by unfold zi; cases b <;> simp <;> omega
      rw [if_neg hz, zi_abs, neg_zi b n hn, sgnB_T b (mant n) (by omega)]
      congr 2
      have : tD (zi b (mant n)) (e + (tz n : Int)) = T (zi b (mant n)) ++ ([101] ++ T (e + (tz n : Int))) := rfl
      rw [this, mkB_app, mkB_app]
      have e101 : mkB [101] = ⟨#[101]⟩ := rfl
      rw [e101, ByteArray.append_assoc]
    rw [hout] at HF
    have HR : Hid (∀ W a2 c2, (body 10 n).length ≤ c2 → Rb W a2 (body 10 n) → Calls Tryz.prog 66 #[.slice a2 (body 10 n).length c2, .string ⟨#[48]⟩] W (SlP (body 10 (mant n)) W)) := fun W a2 c2 h1 h2 => by
      have := trimR_any (body 10 n) a2 c2 W (by omega) h1 h2
      rw [t1] at this
      exact this
    have HCv : Hid (∀ W a3 c3, Rb W a3 (body 10 (mant n)) → (convert 59 9 (.slice a3 (body 10 (mant n)).length c3)).run Tryz.prog W = .ok (.string (mkB (body 10 (mant n)))) W) := fun W a3 c3 h => conv_str h c3 (body_ne 10 _ (by omega))
    have hsz : (sgnB b (mkB (body 10 (mant n)))).size ≤ 1 + (body 10 (mant n)).length := by
      unfold sgnB
      cases b
      · rw [if_neg (by decide), mkB_size]; omega
      · rw [if_pos rfl, ByteArray.size_append, mkB_size]
        have : (⟨#[45]⟩ : ByteArray).size = 1 := rfl
        omega
    have HSg := Lib.hid (fun W => signed_any b (mkB (body 10 (mant n))) (by rw [mkB_size]; omega) W)
    have hne : 0 < (body 10 n).length := List.length_pos_iff.2 (body_ne 10 n (by omega))
    generalize tz n = k at *
    clear hout m1 m2 t1 hlb hA
    generalize hC : body 10 (mant n) = C at *
    clear hC
    generalize body 10 n = D at *
    have hne2 : ((D.length : Int) == 0) = false := by rw [beq_eq_false_iff_ne]; omega
    have e2 : ((D.length : Int)) - (C.length : Int) = (k : Int) := by omega
    unfold SlP at HL HR
    have hcl : C.length ≤ 100000 := by omega
    have hdl2 : D.length ≤ 100000 := by omega
    have hkl : k ≤ 100000 := by omega
    generalize D.length = dn at *
    generalize C.length = cl at *
    clear t2 hne hn
    go_enter Tryz.func39, Tryz.ntmps39
    go_wp2_with fail
    refine HL.out.mono ?_
    rintro en w' ⟨a2, k2, rfl, h1, h2, rfl⟩
    have HR2 := Lib.hid (HR.out _ a2 k2 h1 h2)
    clear HR HL h1 h2
    go_wp2_with fail
    refine HR2.out.mono ?_
    rintro en w' ⟨a3, k3, rfl, h3, h4, rfl⟩
    have H4 := Lib.hid h4
    clear HR2 h3 h4
    by_cases x1 : 400 < cl
    · have hfin := Lib.hid (HF.out _ _ _ (if_pos x1) hb.out)
      have x1i : (400 : Int) < (cl : Int) := by omega
      clear HF x1
      go_wp2
      exact hfin.out
    · have x1i : ¬ (400 : Int) < (cl : Int) := by omega
      rw [if_neg x1] at HF
      clear x1
      by_cases x2 : e < -2000 - (k : Int)
      · have hfin := Lib.hid (HF.out _ _ _ (if_pos (.inl (by omega))) hb.out)
        clear HF
        go_wp2
        exact hfin.out
      · by_cases x3 : 2000 - (k : Int) < e
        · have hfin := Lib.hid (HF.out _ _ _ (if_pos (.inr (by omega))) hb.out)
          clear HF
          go_wp2
          exact hfin.out
        · rw [if_neg (by omega)] at HF
          have HIt : Hid (∀ W, Below wb.heap.size wb W → Calls Tryz.prog 67 #[.int .i64 (e + (k : Int))] W fun en w' => en = .returned (.string (mkB (T (e + (k : Int))))) ∧ Below W.heap.size W w') := fun W hW => itoa_any (e + (k : Int)) (by omega) (by omega) W (hTb.out.go hW)
          have HX : Hid (∀ W, Below wb.heap.size wb W → (convert 59 9 (.slice a3 cl k3)).run Tryz.prog W = .ok (.string (mkB C)) W ∧ W.cell? ⟨N, 0, none⟩ = some (.bool b) ∧ W.cell? ⟨N, 2, none⟩ = some (.int .i64 e)) := fun W hW => by
            have hb2 := hB.out.go hW hB.out.lt
            exact ⟨HCv.out W a3 k3 (H4.out.go hW), hb2.cell 0 _ rfl, hb2.cell 2 _ rfl⟩
          have hfin := Lib.hid (fun w' h => HF.out _ _ w' rfl (hb.out.trans (Below.mono h hb.out.size)))
          have hs2 : (mkB (T (e + (k : Int)))).size ≤ 100 := by
            have h1 := T_len (e + (k : Int))
            have h2 : (body 10 (e + (k : Int)).natAbs).length ≤ 4 := body_len _ _ ((E_len_le 10 _ 4 (by omega)).2 (by omega)) (by omega)
            rw [mkB_size]; omega
          obtain ⟨y1, y2, y3⟩ := HX.out wb.drew (Below.refl _ wb).drew
          have hbd : Hid (Below wb.heap.size wb wb.drew) := (Below.refl _ wb).drew
          clear HF HCv H4 hTb hB
          generalize sgnB b (mkB C) = s1 at *
          generalize mkB C = sC at *
          generalize mkB (T (e + (k : Int))) = s2 at *
          have l1 : (9223372036854775807 < s1.size + 1) = False := eq_false (by omega)
          have l2 : (9223372036854775807 < s1.size + 1 + s2.size) = False := eq_false (by omega)
          have hwr : IntKind.i64.wrap (e + (k : Int)) = e + (k : Int) := wrapI _ (by omega) (by omega)
          go_wp2_with fail
          go_region_law ((first | (go_simp; go_at_call 44; refine (HSg.out _).mono ?_; rintro en w2 ⟨rfl, rfl⟩) | (go_simp; go_at_call 67; refine (HIt.out _ hbd.out).mono ?_; rintro en w3 ⟨rfl, q3⟩; have hb3 := Lib.hid (hbd.out.trans (q3.mono (Nat.le_refl _))); clear q3; obtain ⟨z1, z2, z3⟩ := HX.out w3 hb3.out)))
          all_goals
            have hfin2 := Lib.hid (hfin.out w3 hb3.out)
            first | (go_wp2; exact hfin2.out) | (go_simp; go_wp2; exact hfin2.out) | (go_simp; exact hfin2.out)
end Go.Proofs.YtpankmaljafnnaaGreatDoor
