/-
  Helper: what read returns; the walks of moment and readLocal.
-/
import Derived.Test.YtckeefjmamggmaaDoorInOf
import Derived.Test.YtckeefjmamggmaaDoorInReadT
namespace Go.Proofs.YtckeefjmamggmaaDoor
open Go.RowKit
set_option linter.unusedVariables false

theorem numv_weak (l : List UInt8) : numv l + 30 ≤ 30 * 10 ^ l.length := by
  suffices h2 : ∀ (r : List UInt8), numv r.reverse + 30 ≤ 30 * 10 ^ r.length by
    have := h2 l.reverse
    simpa using this
  intro r
  induction r with
  | nil => decide
  | cons c r ih =>
    have h2 : c.toNat < 256 := UInt8.toNat_lt c
    rw [List.reverse_cons, numv_snoc, List.length_cons, Nat.pow_succ]; omega
theorem numv_4 (l : List UInt8) (h : l.length ≤ 4) : numv l ≤ 1000000000 := by
  have h1 := numv_weak l
  have h2 : 10 ^ l.length ≤ 10 ^ 4 := Nat.pow_le_pow_right (by omega) h
  omega
theorem set_bd (f : List Nat) (fd v B : Nat) (hf : ∀ k, f.getD k 0 ≤ B) (hv : v ≤ B) : ∀ k, (f.set fd v).getD k 0 ≤ B := by
  intro k
  rw [List.getD_eq_getElem?_getD, List.getElem?_set]
  split
  · split
    · exact hv
    · exact Nat.zero_le _
  · rw [← List.getD_eq_getElem?_getD]; exact hf k
def FG (f : List Nat) : Prop := f.length = 8 ∧ ∀ k, f.getD k 0 ≤ 1000000000
theorem FG.set {f : List Nat} (h : FG f) (fd : Nat) (x : List UInt8) (n : Nat) (hn : n ≤ 4) : FG (f.set fd (numv (x.take n))) :=
  ⟨by rw [List.length_set]; exact h.1, set_bd f fd _ _ h.2 (numv_4 _ (by rw [List.length_take]; omega))⟩
theorem FG.z8 : FG z8 := ⟨rfl, fun k => by
  unfold Go.Proofs.YtckeefjmamggmaaDoor.z8
  rw [List.getD_eq_getElem?_getD, List.getElem?_replicate]
  split <;> exact Nat.zero_le _⟩
theorem grpF_good (l : List UInt8) (mk : UInt8) (first : Nat) : ∀ (n fd p : Nat) (f : List Nat), FG f → FG (grpF l mk first n fd p f).2.2
  | 0, _, _, f, h => h
  | n + 1, fd, p, f, h => by
    have hw := (wid_le fd).1
    unfold grpF
    split
    · split
      · split
        · exact h
        · exact grpF_good l mk first n _ _ _ (h.set _ _ _ hw)
      · exact h
    · split
      · exact h
      · exact grpF_good l mk first n _ _ _ (h.set _ _ _ hw)
def Good (r : Rd) : Prop := FG r.2.2.1 ∧ r.2.2.2.1 ≤ 999999999 ∧ r.2.1 ≤ 3 ∧ r.2.2.2.2 < 256
theorem bad5_good : Good bad5 := ⟨FG.z8, Nat.zero_le _, Nat.zero_le _, by show (0:Nat) < 256; omega⟩
theorem rdZ_good (l : List UInt8) (sh : Nat) (f : List Nat) (na p : Nat) (hf : FG f) (hn : na ≤ 999999999) (hs : sh ≤ 3) : Good (rdZ l sh f na p) := by
  unfold rdZ
  split
  · split
    · exact ⟨hf, hn, hs, UInt8.toNat_lt _⟩
    · split
      · exact ⟨grpF_good l 58 6 2 6 (p + 1) f hf, hn, hs, UInt8.toNat_lt _⟩
      · exact bad5_good
  · exact ⟨hf, hn, hs, by show (0:Nat) < 256; omega⟩
theorem frac_bd (l : List UInt8) (p : Nat) : numv ((l.drop p).take (rn l p 9) ++ List.replicate (9 - rn l p 9) 48) ≤ 999999999 := by
  have hr : rn l p 9 ≤ 9 := by
    unfold rn
    exact Nat.le_trans (tw_len _) (by rw [List.length_take]; omega)
  have h1 := numv_lt ((l.drop p).take (rn l p 9) ++ List.replicate (9 - rn l p 9) 48) (fun c hc => by
    rcases List.mem_append.1 hc with h | h
    · exact ext_digs ⟨l.toArray⟩ p 9 c (by simpa using h)
    · rw [(List.mem_replicate.1 h).2]; decide)
  have h2 : ((l.drop p).take (rn l p 9) ++ List.replicate (9 - rn l p 9) 48).length ≤ 9 := by
    rw [List.length_append, List.length_take, List.length_replicate]; omega
  have h3 := Nat.pow_le_pow_right (n := 10) (by omega) h2
  omega
theorem rdF_good (l : List UInt8) (sh : Nat) (f : List Nat) (p : Nat) (hf : FG f) (hs : sh ≤ 3) : Good (rdF l sh f p) := by
  unfold rdF
  split
  · split
    · exact bad5_good
    · exact rdZ_good _ _ _ _ _ hf (frac_bd l (p + 1)) hs
  · exact rdZ_good _ _ _ _ _ hf (Nat.zero_le _) hs
theorem rdT_good (l : List UInt8) (sh : Nat) (f : List Nat) (p : Nat) (hf : FG f) (hs : sh ≤ 1) : Good (rdT l sh f p) := by
  unfold rdT
  split
  · exact rdF_good _ _ _ _ (grpF_good _ _ _ _ _ _ _ hf) (by omega)
  · exact bad5_good
theorem rd_good (l : List UInt8) : Good (rd l) := by
  unfold rd
  split
  · exact rdT_good _ _ _ _ FG.z8 (by omega)
  · unfold rdD
    split
    · split
      · exact rdT_good _ _ _ _ (grpF_good _ _ _ _ _ _ _ FG.z8) (by omega)
      · exact ⟨grpF_good _ _ _ _ _ _ _ FG.z8, Nat.zero_le _, by show (1:Nat) ≤ 3; omega, by show (0:Nat) < 256; omega⟩
    · exact bad5_good

/-- a box of a text in memory -/
theorem box11 (w1 : World) (sh : Int) (a0 a1 a2 a3 a4 a5 a6 a7 na zo : Nat) : ∃ wa n0, w1.alloc (.cells #[.int .i64 sh, .int .i64 a0, .int .i64 a1, .int .i64 a2, .int .i64 a3, .int .i64 a4, .int .i64 a5, .int .i64 a6, .int .i64 a7, .int .i64 na, .int .u8 zo] 43) = wa ∧ w1.heap.size = n0 ∧ wa.heap.size = n0 + 1 ∧ (∀ B w0, B ≤ n0 → Below B w0 w1 → Below B w0 wa) ∧ (∀ W, Below (n0 + 1) wa W → W.cell? ⟨n0, 0, none⟩ = some (.int .i64 sh) ∧ W.cell? ⟨n0, 1, none⟩ = some (.int .i64 a0) ∧ W.cell? ⟨n0, 2, none⟩ = some (.int .i64 a1) ∧ W.cell? ⟨n0, 3, none⟩ = some (.int .i64 a2) ∧ W.cell? ⟨n0, 4, none⟩ = some (.int .i64 a3) ∧ W.cell? ⟨n0, 5, none⟩ = some (.int .i64 a4) ∧ W.cell? ⟨n0, 6, none⟩ = some (.int .i64 a5) ∧ W.cell? ⟨n0, 7, none⟩ = some (.int .i64 a6) ∧ W.cell? ⟨n0, 8, none⟩ = some (.int .i64 a7) ∧ W.cell? ⟨n0, 9, none⟩ = some (.int .i64 na) ∧ W.cell? ⟨n0, 10, none⟩ = some (.int .u8 zo)) := by
  refine ⟨_, _, rfl, rfl, by simp, fun B w0 h1 h2 => h2.alloc h1 _, fun W h => ?_⟩
  have hb := (Blk.new w1 43 [.int .i64 sh, .int .i64 a0, .int .i64 a1, .int .i64 a2, .int .i64 a3, .int .i64 a4, .int .i64 a5, .int .i64 a6, .int .i64 a7, .int .i64 na, .int .u8 zo]).go h (Nat.lt_succ_self _)
  exact ⟨hb.cell 0 _ rfl, hb.cell 1 _ rfl, hb.cell 2 _ rfl, hb.cell 3 _ rfl, hb.cell 4 _ rfl, hb.cell 5 _ rfl, hb.cell 6 _ rfl, hb.cell 7 _ rfl, hb.cell 8 _ rfl, hb.cell 9 _ rfl, hb.cell 10 _ rfl⟩
open Classical in
noncomputable def momF (r : Rd) : Int × Nat × Int :=
  if r.1 = true ∧ r.2.1 = 3 ∧ r.2.2.2.2 ≠ 0 then if IR r.2.1 r.2.2.1 then (sec r.2.2.1 r.2.2.2.2, r.2.2.2.1, 0) else (0, 0, 13) else (0, 0, 3)
def MomP (m : Int × Nat × Int) (w : World) (e : Ending) (w' : World) : Prop := e = .returned (.tuple #[.int .i64 m.1, .int .i64 m.2.1, .int .i64 m.2.2]) ∧ Below w.heap.size w w'
open Classical in
set_option maxRecDepth 100000 in
set_option maxHeartbeats 8000000 in
theorem moment_any (s : ByteArray) (w : World) (hT : Tabs w) (hs : s.size ≤ 1000000) : Calls Tryd.prog 17 #[.string s] w (MomP (momF (rd s.data.toList)) w) := by
  obtain ⟨⟨hf, hf2⟩, hna, hsh, hzo⟩ := rd_good s.data.toList
  have HR := Lib.hid (read_any s w hs)
  generalize rd s.data.toList = r at *
  obtain ⟨ok, sh, f, na, zo⟩ := r
  replace hf : f.length = 8 := hf
  replace hf2 : ∀ k, f.getD k 0 ≤ 1000000000 := hf2
  replace hna : na ≤ 999999999 := hna
  replace hsh : sh ≤ 3 := hsh
  replace hzo : zo < 256 := hzo
  have HM : Hid (momF (ok, sh, f, na, zo) = if ok = true ∧ sh = 3 ∧ zo ≠ 0 then if IR sh f then (sec f zo, na, 0) else (0, 0, 13) else (0, 0, 3)) := by
    show _ = _
    unfold momF; rfl
  have HI := fun b hb W h => inRange_any sh f na zo b hf hf2 hb hsh W h
  have HS := fun h2 hD W h => seconds_any sh f na zo hf h2 hD hzo W h
  have HF : Hid (∀ a b c w', momF (ok, sh, f, na, zo) = (a, b, c) → Below w.heap.size w w' → MomP (momF (ok, sh, f, na, zo)) w (.returned (.tuple #[.int .i64 a, .int .i64 (b : Nat), .int .i64 c])) w') := fun a b c w' h1 h2 => by rw [h1]; exact ⟨rfl, h2⟩
  generalize hPo : MomP (momF (ok, sh, f, na, zo)) w = Po at *
  clear hPo
  obtain ⟨a0, a1, a2, a3, a4, a5, a6, a7, rfl⟩ : ∃ a0 a1 a2 a3 a4 a5 a6 a7, f = [a0, a1, a2, a3, a4, a5, a6, a7] := by
    match f, hf with
    | [a0, a1, a2, a3, a4, a5, a6, a7], _ => exact ⟨a0, a1, a2, a3, a4, a5, a6, a7, rfl⟩
  replace HR : Hid (Calls Tryd.prog 29 #[.string s] w fun e w' => e = .returned (.tuple #[.agg #[.int .i64 sh, .int .i64 a0, .int .i64 a1, .int .i64 a2, .int .i64 a3, .int .i64 a4, .int .i64 a5, .int .i64 a6, .int .i64 a7, .int .i64 na, .int .u8 zo], .bool ok]) ∧ Below w.heap.size w w') := HR
  have HT : Hid (∀ W, Below w.heap.size w W → Tabs W) := fun W hb => hT.below hb hT.1
  clear hT hs hf hf2
  by_cases h1 : ok = true ∧ sh = 3 ∧ zo ≠ 0
  · obtain ⟨rfl, rfl, hz⟩ := h1
    have hzz : ((zo : Int) == 0) = false := by rw [beq_eq_false_iff_ne]; omega
    by_cases hI : IR 3 [a0, a1, a2, a3, a4, a5, a6, a7]
    · have hfin := Lib.hid (fun w' h => HF.out _ _ _ w' (HM.out.trans (by rw [if_pos ⟨rfl, rfl, hz⟩, if_pos hI])) h)
      have HI2 : Hid (∀ W, Tabs W → Calls Tryd.prog 30 #[.agg #[.int .i64 3, .int .i64 a0, .int .i64 a1, .int .i64 a2, .int .i64 a3, .int .i64 a4, .int .i64 a5, .int .i64 a6, .int .i64 a7, .int .i64 na, .int .u8 zo]] W (BoolP true W)) := HI true (by simp [hI])
      have HS2 : Hid (∀ W, Tabs W → Calls Tryd.prog 31 #[.agg #[.int .i64 3, .int .i64 a0, .int .i64 a1, .int .i64 a2, .int .i64 a3, .int .i64 a4, .int .i64 a5, .int .i64 a6, .int .i64 a7, .int .i64 na, .int .u8 zo]] W fun e w' => e = .returned (.int .i64 (sec [a0, a1, a2, a3, a4, a5, a6, a7] zo)) ∧ Below W.heap.size W w') := HS hI.1 (hI.2.resolve_left (by omega))
      clear HF HM HI HS hI hz hzo hsh
      unfold BoolP at HI2
      generalize sec [a0, a1, a2, a3, a4, a5, a6, a7] zo = sx at *
      go_enter Tryd.func17, Tryd.ntmps17
      go_wp2_with fail
      refine HR.out.mono ?_
      rintro e w1 ⟨rfl, hb1⟩
      have hb1h := Lib.hid hb1
      clear hb1
      go_wp2_with fail
      obtain ⟨wa, n0, hwa, hn0, hz0, HBL, HCell⟩ := box11 w1 3 a0 a1 a2 a3 a4 a5 a6 a7 na zo
      rw [hwa, hn0]
      have hba := Lib.hid (HBL _ _ (by rw [← hn0]; exact hb1h.out.size) hb1h.out)
      have HCellh := Lib.hid HCell
      have hzh := Lib.hid hz0
      have hwz := Lib.hid (show w.heap.size ≤ n0 by rw [← hn0]; exact hb1h.out.size)
      clear HBL HCell hwa hn0 hz0 hb1h
      refine (HI2.out _ (HT.out _ hba.out)).mono ?_
      rintro e w2 ⟨rfl, hb2⟩
      rw [hzh.out] at hb2
      have hb2h := Lib.hid hb2
      have hbw := bt hba (by rw [hzh.out]; exact hb2)
      clear hb2
      obtain ⟨x0, x1, x2, x3, x4, x5, x6, x7, x8, x9, x10⟩ := HCellh.out w2 hb2h.out
      have hbd : Hid (Below w.heap.size w w2.drew) := hbw.out.drew
      go_wp2_with fail
      go_region_law ((go_simp; go_at_call 31; refine (HS2.out _ (HT.out _ hbd.out)).mono ?_; rintro e w3 ⟨rfl, hb3⟩; have hb3h := Lib.hid (HCellh.out _ (hb2h.out.drew.trans (hb3.mono (by show n0 + 1 ≤ w2.heap.size; have := hb2h.out.size; have := hzh.out; omega)))); have hbx := bt hbd hb3; clear hb3; obtain ⟨y0, y1, y2, y3, y4, y5, y6, y7, y8, y9, y10⟩ := hb3h.out))
      all_goals
        have hfin2 := Lib.hid (hfin.out _ hbx.out)
        first | (go_wp2; go_ret3; exact hfin2.out) | (go_simp; go_wp2; go_ret3; exact hfin2.out)
    · have hfin := Lib.hid (fun w' h => HF.out _ _ _ w' (HM.out.trans (by rw [if_pos ⟨rfl, rfl, hz⟩, if_neg hI])) h)
      have HI2 : Hid (∀ W, Tabs W → Calls Tryd.prog 30 #[.agg #[.int .i64 3, .int .i64 a0, .int .i64 a1, .int .i64 a2, .int .i64 a3, .int .i64 a4, .int .i64 a5, .int .i64 a6, .int .i64 a7, .int .i64 na, .int .u8 zo]] W (BoolP false W)) := HI false (by simp [hI])
      clear HF HM HI HS hI hz hzo hsh
      unfold BoolP at HI2
      go_enter Tryd.func17, Tryd.ntmps17
      go_wp2_with fail
      refine HR.out.mono ?_
      rintro e w1 ⟨rfl, hb1⟩
      have hb1h := Lib.hid hb1
      clear hb1
      go_wp2_with fail
      obtain ⟨wa, n0, hwa, hn0, hz0, HBL, HCell⟩ := box11 w1 3 a0 a1 a2 a3 a4 a5 a6 a7 na zo
      rw [hwa, hn0]
      have hba := Lib.hid (HBL _ _ (by rw [← hn0]; exact hb1h.out.size) hb1h.out)
      clear HBL HCell hwa hn0 hz0 hb1h
      refine (HI2.out _ (HT.out _ hba.out)).mono ?_
      rintro e w2 ⟨rfl, hb2⟩
      have hfin2 := Lib.hid (hfin.out _ (bt hba hb2).out)
      clear hb2
      go_wp2
      go_ret3
      exact hfin2.out
  · have hfin := Lib.hid (fun w' h => HF.out _ _ _ w' (HM.out.trans (by rw [if_neg h1])) h)
    clear HM HF HI HS
    cases ok with
    | false =>
      clear h1
      go_enter Tryd.func17, Tryd.ntmps17
      go_wp2_with fail
      refine HR.out.mono ?_
      rintro e w1 ⟨rfl, hb1⟩
      have hfin2 := Lib.hid (hfin.out _ (hb1.alloc hb1.size (.cells #[.int .i64 sh, .int .i64 a0, .int .i64 a1, .int .i64 a2, .int .i64 a3, .int .i64 a4, .int .i64 a5, .int .i64 a6, .int .i64 a7, .int .i64 na, .int .u8 zo] 43)))
      clear hb1
      go_wp2
      go_ret3
      exact hfin2.out
    | true =>
      by_cases h3 : sh = 3
      · have hz : zo = 0 := Classical.byContradiction fun h => h1 ⟨rfl, h3, h⟩
        subst h3
        subst hz
        clear h1
        go_enter Tryd.func17, Tryd.ntmps17
        go_wp2_with fail
        refine HR.out.mono ?_
        rintro e w1 ⟨rfl, hb1⟩
        have hfin2 := Lib.hid (hfin.out _ (hb1.alloc hb1.size (.cells #[.int .i64 3, .int .i64 a0, .int .i64 a1, .int .i64 a2, .int .i64 a3, .int .i64 a4, .int .i64 a5, .int .i64 a6, .int .i64 a7, .int .i64 na, .int .u8 0] 43)))
        clear hb1
        go_wp2
        go_ret3
        exact hfin2.out
      · have he3 : ((sh : Int) == 3) = false := by rw [beq_eq_false_iff_ne]; omega
        clear h1 h3
        go_enter Tryd.func17, Tryd.ntmps17
        go_wp2_with fail
        refine HR.out.mono ?_
        rintro e w1 ⟨rfl, hb1⟩
        have hfin2 := Lib.hid (hfin.out _ (hb1.alloc hb1.size (.cells #[.int .i64 sh, .int .i64 a0, .int .i64 a1, .int .i64 a2, .int .i64 a3, .int .i64 a4, .int .i64 a5, .int .i64 a6, .int .i64 a7, .int .i64 na, .int .u8 zo] 43)))
        clear hb1
        go_wp2
        go_ret3
        exact hfin2.out
end Go.Proofs.YtckeefjmamggmaaDoor
