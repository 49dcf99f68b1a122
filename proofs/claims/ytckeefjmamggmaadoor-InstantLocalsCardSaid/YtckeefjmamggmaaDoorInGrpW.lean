/-
  Helper: the walk of the function in read that reads a group of fields.
-/
import Derived.Test.YtckeefjmamggmaaDoorInGrp
namespace Go.Proofs.YtckeefjmamggmaaDoor
open Go.RowKit
set_option linter.unusedVariables false

set_option maxRecDepth 100000 in
set_option maxHeartbeats 8000000 in
theorem group_any (s : ByteArray) (mk : UInt8) (N first cnt p0 sh na zo : Nat) (f0 : List Nat) (w : World) (hs : s.size ≤ 1000000) (hp : p0 ≤ s.size) (hfirst : first + cnt ≤ 8) (hf0 : f0.length = 8) (hcnt : 0 < cnt) (hmk : mk ≠ 0) (hst : St w N s p0 (tx sh f0 na zo)) :
    Calls Tryd.prog 42 #[.int .i64 (first : Int), .int .i64 ((first : Int) + (cnt : Int) - 1), .string ⟨#[mk]⟩, .pointer (some ⟨N + 4, 0, none⟩), .pointer (some ⟨N + 5, 0, none⟩), .pointer (some ⟨N + 1, 0, none⟩)] w (GrpP N s sh na zo (grpF s.data.toList mk first cnt first p0 f0) w) := by
  have hlen : s.data.toList.length = s.size := by simp
  obtain ⟨last, hlast⟩ : ∃ last : Nat, last + 1 = first + cnt := ⟨first + cnt - 1, by omega⟩
  have hl : (first : Int) + (cnt : Int) - 1 = (last : Int) := by omega
  rw [hl]
  have HF : Hid (∀ w' r, r = grpF s.data.toList mk first cnt first p0 f0 → St w' N s r.2.1 (tx sh r.2.2 na zo) → Own N w w' → r.2.1 ≤ s.size → r.2.2.length = 8 → GrpP N s sh na zo (grpF s.data.toList mk first cnt first p0 f0) w (.returned (.bool r.1)) w') := fun w' r h a b c d => by subst h; exact ⟨rfl, a, b, c, d⟩
  generalize hR : grpF s.data.toList mk first cnt first p0 f0 = R at *
  have hRh := Lib.hid hR
  generalize hPo : GrpP N s sh na zo R w = Po at *
  clear hPo hR hl
  have hsth := Lib.hid hst
  have hf0h := Lib.hid hf0
  have hlh := Lib.hid hlast
  clear hst hf0
  go_enter Tryd.func42, Tryd.ntmps42
  go_wp2
  go_loopg [10] cnt (fun gk i wr => ∃ (fd p : Nat) (f : List Nat), fd + gk = last + 1 ∧ first ≤ fd ∧ p ≤ s.size ∧ i = .int .i64 fd ∧ Hid (grpF s.data.toList mk first gk fd p f = R) ∧ Hid (f.length = 8) ∧ Hid (St wr N s p (tx sh f na zo)) ∧ Hid (Own N w wr))
  case atStart => exact ⟨first, p0, f0, by omega, Nat.le_refl _, hp, rfl, hRh, hf0h, hsth, Own.refl _ _⟩
  case round =>
    obtain ⟨fd, p, f, hgk, hff, hps, rfl, hg, hfl, hS, hO⟩ := hrel
    by_cases h0 : gk = 0
    · subst h0
      have hge : (last : Int) < (fd : Int) := by omega
      have e : R = (true, p, f) := hg.out.symm
      have hfin := Lib.hid (HF.out wr R rfl (by rw [e]; exact hS.out) hO.out (by rw [e]; exact hps) (by rw [e]; exact hfl.out))
      rw [e] at hfin
      clear hgk e
      go_wp2
      exact hfin.out
    · obtain ⟨n, rfl⟩ : ∃ n, gk = n + 1 := ⟨gk - 1, by omega⟩
      have hlt : (fd : Int) ≤ (last : Int) := by omega
      have hfd8 : fd < 8 := by omega
      have c3 := hS.out.2.2.2.1.cell 0 _ rfl
      have c4 := hS.out.2.2.2.2.1.cell 0 _ rfl
      by_cases hm : first < fd
      · have hmi : (first : Int) < (fd : Int) := by omega
        by_cases hh : p < s.size ∧ s.data.toList.getD p 0 = mk
        · obtain ⟨hp1, hh⟩ := hh
          have HT := Lib.hid (take_hit ⟨#[mk]⟩ s (N + 3) (N + 2) p wr hs hp1 ((mark_mem s mk p hp1).2 hh) hS.out.2.1 hS.out.2.2.1 (by omega))
          have hz : (((s[p]).toNat : Int) == 0) = false := by
            rw [beq_eq_false_iff_ne]
            intro g
            have e9 := ba_getD s p hp1
            rw [hh] at e9
            rw [← e9] at g
            exact hmk (UInt8.toNat_inj.1 (by have : (0 : UInt8).toNat = 0 := rfl; omega))
          go_wp2_with fail
          refine HT.out.mono ?_
          rintro e w1 ⟨rfl, hon, hat⟩
          have S1 : Hid (St w1 N s (p + 1) (tx sh f na zo)) := hS.out.only hon hat
          have O1 : Hid (Own N w w1) := hO.out.only hon
          clear hon hat c3 c4
          have hfl2 := hfl.out
          have hr := rn_le s.data.toList (p + 1) (wid fd)
          have hwl := wid_le fd
          obtain ⟨hx1, hx2⟩ := ext_facts s (p + 1) (rn s.data.toList (p + 1) (wid fd)) (by omega)
          have hx3 := ext_digs s (p + 1) (wid fd)
          have HDg0 : ∀ W, W = w1.drew → Calls Tryd.prog 54 #[.int .i64 (wid fd : Nat), .pointer (some ⟨N + 3, 0, none⟩), .pointer (some ⟨N + 2, 0, none⟩)] W (DigP s (N + 3) (p + 1) (rn s.data.toList (p + 1) (wid fd)) W) := fun W hW => by
            subst hW
            exact digits_any s (N + 3) (N + 2) (p + 1) (wid fd) _ hs (by omega) (by omega) S1.out.2.1 S1.out.2.2.1 (by omega)
          have HW := Lib.hid (fun w => width_any fd w (by omega))
          obtain ⟨d, hd⟩ : ∃ d : ByteArray, d = s.extract (p + 1) ((p + 1) + rn s.data.toList (p + 1) (wid fd)) := ⟨_, rfl⟩
          have HDg : Hid (∀ W, W = w1.drew → Calls Tryd.prog 54 #[.int .i64 (wid fd : Nat), .pointer (some ⟨N + 3, 0, none⟩), .pointer (some ⟨N + 2, 0, none⟩)] W fun e w' => e = .returned (.string d) ∧ Only (N + 3) W w' ∧ Blk w' (N + 3) 3 [.int .i64 ((p + 1) + rn s.data.toList (p + 1) (wid fd) : Nat)]) := fun W hW => (HDg0 W hW).mono fun e w' h => by
            obtain ⟨h1, h2, h3⟩ := h
            exact ⟨by rw [h1, hd], h2, h3⟩
          rw [← hd] at hx1 hx2
          have c4' := S1.out.2.2.2.2.1.cell 0 _ rfl
          have hx1h := Lib.hid hx1
          have hx2h := Lib.hid hx2
          have hx3h := Lib.hid hx3
          have hfdN : Hid (fd < 8) := hfd8
          clear hd HDg0 hx1 hx2 hx3
          go_wp2_with fail
          go_region_law ((first | (go_simp; go_at_call 43; refine (HW.out _).mono ?_; rintro e w2 ⟨rfl, rfl⟩) | (go_simp; go_at_call 54; refine (HDg.out _ rfl).mono ?_; rintro e w2 ⟨rfl, hon2, hat2⟩)))
          all_goals
            have S2 : Hid (St w2 N s ((p + 1) + rn s.data.toList (p + 1) (wid fd)) (tx sh f na zo)) := (S1.out.drew 1).only hon2 hat2
            have O2 : Hid (Own N w w2) := (O1.out.drew 1).only hon2
            clear hon2 hat2 c4'
            by_cases hrw : rn s.data.toList (p + 1) (wid fd) < wid fd
            · have hcmp : decide (d.size < wid fd) = true := by rw [hx1h.out]; exact decide_eq_true hrw
              have e : R = (false, (p + 1) + rn s.data.toList (p + 1) (wid fd), f) := by
                rw [← hg.out]
                simp only [grpF]
                rw [if_pos hm, if_pos ⟨by omega, hh⟩]
                rw [if_pos hrw]
              have hfin := Lib.hid (HF.out w2 R rfl (by rw [e]; exact S2.out) O2.out (by rw [e]; show (p + 1) + _ ≤ _; omega) (by rw [e]; exact hfl.out))
              rw [e] at hfin
              clear e hrw
              generalize wid fd = wf at *
              go_wp2_with fail
              refine (HW.out _).mono ?_
              rintro e w3 ⟨rfl, rfl⟩
              go_wp2
              exact hfin.out
            · have hcmp : decide (d.size < wid fd) = false := by rw [hx1h.out]; exact decide_eq_false hrw
              have hre : rn s.data.toList (p + 1) (wid fd) = wid fd := by omega
              rw [hre] at S2 hx2h hx1h
              have hNu : Hid (∀ w, Calls Tryd.prog 44 #[.string d] w fun e w' => e = .returned (.int .i64 (numv ((s.data.toList.drop (p + 1)).take (wid fd)) : Nat)) ∧ w = w') := fun W => by
                have := number_any d W (by have := hx1h.out; omega) (by rw [hx2h.out]; have h9 := hx3h.out; rw [hre] at h9; exact h9)
                rw [hx2h.out] at this
                exact this
              have e : Hid (grpF s.data.toList mk first n (fd + 1) ((p + 1) + wid fd) (f.set fd (numv ((s.data.toList.drop (p + 1)).take (wid fd)))) = R) := by
                show _ = _
                rw [← hg.out]
                simp only [grpF]
                rw [if_pos hm, if_pos ⟨by omega, hh⟩]
                rw [if_neg hrw]
              have hf2 : Hid ((f.set fd (numv ((s.data.toList.drop (p + 1)).take (wid fd)))).length = 8) := by show _ = _; rw [List.length_set]; exact hfl.out
              have cf := S2.out.1.cell (1 + fd) _ (tx_f sh f na zo fd hfl.out hfdN.out)
              have ff := S2.out.1.free (1 + fd)
              have S3 : Hid (St (w2.setCell ⟨N + 1, 1 + fd, none⟩ (.int .i64 (numv ((s.data.toList.drop (p + 1)).take (wid fd)) : Nat))) N s ((p + 1) + wid fd) (tx sh (f.set fd (numv ((s.data.toList.drop (p + 1)).take (wid fd)))) na zo)) := by
                have h9 := S2.out.put (1 + fd) (.int .i64 (numv ((s.data.toList.drop (p + 1)).take (wid fd)) : Nat))
                rw [tx_set _ _ _ _ _ _ hfl.out hfdN.out] at h9
                exact h9
              have O3 : Hid (Own N w (w2.setCell ⟨N + 1, 1 + fd, none⟩ (.int .i64 (numv ((s.data.toList.drop (p + 1)).take (wid fd)) : Nat)))) := O2.out.put _ _
              have hpf : Hid ((p + 1) + wid fd ≤ s.size) := by show _ ≤ _; omega
              have hfd8i : (fd : Int) < 8 := by omega
              clear hrw hre S2 hr
              generalize numv ((s.data.toList.drop (p + 1)).take (wid fd)) = nv at *
              generalize f.getD fd 0 = old at *
              generalize wid fd = wf at *
              go_wp2_with fail
              refine (HW.out _).mono ?_
              rintro e3 w3 ⟨rfl, rfl⟩
              go_wp2_with fail
              refine (hNu.out _).mono ?_
              rintro e3 w3 ⟨rfl, rfl⟩
              go_wp2
              go_roundg n
              case rel => exact ⟨fd + 1, (p + 1) + wf, f.set fd nv, by omega, by omega, hpf.out, by go_num, e, hf2, S3, O3⟩
              case measure => omega
        · have e : R = (false, p, f) := by
            rw [← hg.out]
            simp only [grpF]
            rw [if_pos hm, if_neg (by rw [hlen]; exact hh)]
          have hfin := Lib.hid (HF.out wr R rfl (by rw [e]; exact hS.out) hO.out (by rw [e]; exact hps) (by rw [e]; exact hfl.out))
          rw [e] at hfin
          by_cases hp1 : p < s.size
          · have HT := Lib.hid (take_miss ⟨#[mk]⟩ s (N + 3) (N + 2) p wr hs hp1 (fun g => hh ⟨hp1, (mark_mem s mk p hp1).1 g⟩) hS.out.2.1 hS.out.2.2.1)
            clear e hh
            go_wp2_with fail
            refine HT.out.mono ?_
            rintro e w1 ⟨rfl, rfl⟩
            go_wp2
            exact hfin.out
          · have hpe : p = s.size := by omega
            have HT := Lib.hid (take_end ⟨#[mk]⟩ s (N + 3) (N + 2) wr hs hS.out.2.1 (by rw [← hpe]; exact hS.out.2.2.1))
            clear e hh hpe
            go_wp2_with fail
            refine HT.out.mono ?_
            rintro e w1 ⟨rfl, rfl⟩
            go_wp2
            exact hfin.out
      · have hmi : (fd : Int) ≤ (first : Int) := by omega
        have S1 := hS
        have O1 := hO
        have hfl2 := hfl.out
        have hr := rn_le s.data.toList p (wid fd)
        have hwl := wid_le fd
        obtain ⟨hx1, hx2⟩ := ext_facts s p (rn s.data.toList p (wid fd)) (by omega)
        have hx3 := ext_digs s p (wid fd)
        have HDg0 : ∀ W, W = wr.drew → Calls Tryd.prog 54 #[.int .i64 (wid fd : Nat), .pointer (some ⟨N + 3, 0, none⟩), .pointer (some ⟨N + 2, 0, none⟩)] W (DigP s (N + 3) p (rn s.data.toList p (wid fd)) W) := fun W hW => by
          subst hW
          exact digits_any s (N + 3) (N + 2) p (wid fd) _ hs (by omega) (by omega) S1.out.2.1 S1.out.2.2.1 (by omega)
        have HW := Lib.hid (fun w => width_any fd w (by omega))
        obtain ⟨d, hd⟩ : ∃ d : ByteArray, d = s.extract p (p + rn s.data.toList p (wid fd)) := ⟨_, rfl⟩
        have HDg : Hid (∀ W, W = wr.drew → Calls Tryd.prog 54 #[.int .i64 (wid fd : Nat), .pointer (some ⟨N + 3, 0, none⟩), .pointer (some ⟨N + 2, 0, none⟩)] W fun e w' => e = .returned (.string d) ∧ Only (N + 3) W w' ∧ Blk w' (N + 3) 3 [.int .i64 (p + rn s.data.toList p (wid fd) : Nat)]) := fun W hW => (HDg0 W hW).mono fun e w' h => by
          obtain ⟨h1, h2, h3⟩ := h
          exact ⟨by rw [h1, hd], h2, h3⟩
        rw [← hd] at hx1 hx2
        have c4' := S1.out.2.2.2.2.1.cell 0 _ rfl
        have hx1h := Lib.hid hx1
        have hx2h := Lib.hid hx2
        have hx3h := Lib.hid hx3
        have hfdN : Hid (fd < 8) := hfd8
        clear hd HDg0 hx1 hx2 hx3
        go_wp2_with fail
        go_region_law ((first | (go_simp; go_at_call 43; refine (HW.out _).mono ?_; rintro e w2 ⟨rfl, rfl⟩) | (go_simp; go_at_call 54; refine (HDg.out _ rfl).mono ?_; rintro e w2 ⟨rfl, hon2, hat2⟩)))
        all_goals
          have S2 : Hid (St w2 N s (p + rn s.data.toList p (wid fd)) (tx sh f na zo)) := (S1.out.drew 1).only hon2 hat2
          have O2 : Hid (Own N w w2) := (O1.out.drew 1).only hon2
          clear hon2 hat2 c4'
          by_cases hrw : rn s.data.toList p (wid fd) < wid fd
          · have hcmp : decide (d.size < wid fd) = true := by rw [hx1h.out]; exact decide_eq_true hrw
            have e : R = (false, p + rn s.data.toList p (wid fd), f) := by
              rw [← hg.out]
              simp only [grpF]
              rw [if_neg hm]
              rw [if_pos hrw]
            have hfin := Lib.hid (HF.out w2 R rfl (by rw [e]; exact S2.out) O2.out (by rw [e]; show p + _ ≤ _; omega) (by rw [e]; exact hfl.out))
            rw [e] at hfin
            clear e hrw
            generalize wid fd = wf at *
            go_wp2_with fail
            refine (HW.out _).mono ?_
            rintro e w3 ⟨rfl, rfl⟩
            go_wp2
            exact hfin.out
          · have hcmp : decide (d.size < wid fd) = false := by rw [hx1h.out]; exact decide_eq_false hrw
            have hre : rn s.data.toList p (wid fd) = wid fd := by omega
            rw [hre] at S2 hx2h hx1h
            have hNu : Hid (∀ w, Calls Tryd.prog 44 #[.string d] w fun e w' => e = .returned (.int .i64 (numv ((s.data.toList.drop p).take (wid fd)) : Nat)) ∧ w = w') := fun W => by
              have := number_any d W (by have := hx1h.out; omega) (by rw [hx2h.out]; have h9 := hx3h.out; rw [hre] at h9; exact h9)
              rw [hx2h.out] at this
              exact this
            have e : Hid (grpF s.data.toList mk first n (fd + 1) (p + wid fd) (f.set fd (numv ((s.data.toList.drop p).take (wid fd)))) = R) := by
              show _ = _
              rw [← hg.out]
              simp only [grpF]
              rw [if_neg hm]
              rw [if_neg hrw]
            have hf2 : Hid ((f.set fd (numv ((s.data.toList.drop p).take (wid fd)))).length = 8) := by show _ = _; rw [List.length_set]; exact hfl.out
            have cf := S2.out.1.cell (1 + fd) _ (tx_f sh f na zo fd hfl.out hfdN.out)
            have ff := S2.out.1.free (1 + fd)
            have S3 : Hid (St (w2.setCell ⟨N + 1, 1 + fd, none⟩ (.int .i64 (numv ((s.data.toList.drop p).take (wid fd)) : Nat))) N s (p + wid fd) (tx sh (f.set fd (numv ((s.data.toList.drop p).take (wid fd)))) na zo)) := by
              have h9 := S2.out.put (1 + fd) (.int .i64 (numv ((s.data.toList.drop p).take (wid fd)) : Nat))
              rw [tx_set _ _ _ _ _ _ hfl.out hfdN.out] at h9
              exact h9
            have O3 : Hid (Own N w (w2.setCell ⟨N + 1, 1 + fd, none⟩ (.int .i64 (numv ((s.data.toList.drop p).take (wid fd)) : Nat)))) := O2.out.put _ _
            have hpf : Hid (p + wid fd ≤ s.size) := by show _ ≤ _; omega
            have hfd8i : (fd : Int) < 8 := by omega
            clear hrw hre S2 hr
            generalize numv ((s.data.toList.drop p).take (wid fd)) = nv at *
            generalize f.getD fd 0 = old at *
            generalize wid fd = wf at *
            go_wp2_with fail
            refine (HW.out _).mono ?_
            rintro e3 w3 ⟨rfl, rfl⟩
            go_wp2_with fail
            refine (hNu.out _).mono ?_
            rintro e3 w3 ⟨rfl, rfl⟩
            go_wp2
            go_roundg n
            case rel => exact ⟨fd + 1, p + wf, f.set fd nv, by omega, by omega, hpf.out, by go_num, e, hf2, S3, O3⟩
            case measure => omega
end Go.Proofs.YtckeefjmamggmaaDoor
