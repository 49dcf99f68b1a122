/-
  Helper: the walk of the statements' own Text: every description gives the canonical text of an integer of at most 400 digits with its sign.
-/
import Derived.Test.YtmnopohjnbpinabICalc
import Derived.Laws.Concat
import Derived.Deep.LoopGhost
namespace Go.Proofs.Ytmnopohjnbpinab
open Go.RowKit
set_option linter.unusedVariables false

/-- digits without a zero at the beginning -/
def Nm (s : List UInt8) : Prop := (∀ c ∈ s, 48 ≤ c.toNat ∧ c.toNat ≤ 57) ∧ s.head? ≠ some 48
theorem nm_nil : Nm [] := ⟨fun c h => by simp at h, by simp⟩
theorem nm_snoc (s : List UInt8) (c : UInt8) (h : Nm s) (hc : 48 ≤ c.toNat ∧ c.toNat ≤ 57) (h0 : c ≠ 48 ∨ s ≠ []) : Nm (s ++ [c]) := by
  refine ⟨fun x hx => ?_, ?_⟩
  · rcases List.mem_append.1 hx with hx | hx
    · exact h.1 x hx
    · simp at hx; subst hx; exact hc
  · cases s with
    | nil => rcases h0 with h0 | h0
             · simpa using h0
             · exact absurd rfl h0
    | cons d s => exact h.2
theorem nm_take (s : List UInt8) (h : Nm s) (k : Nat) : Nm (s.take k) := by
  refine ⟨fun x hx => h.1 x (List.mem_of_mem_take hx), ?_⟩
  cases k with
  | zero => simp
  | succ k => cases s with
    | nil => simp
    | cons d s => exact h.2
theorem nm_num (s : List UInt8) (h : Nm s) (hne : s ≠ []) (hl : s.length ≤ 400) : ∃ m : Nat, m ≠ 0 ∧ (E 10 m).length ≤ 400 ∧ s = body 10 m := by
  have h45 : s.head? ≠ some 45 := fun e => by
    have := h.1 45 (List.mem_of_mem_head? (by rw [e]; rfl))
    simp at this
  have hs : strip s = s := by unfold strip; rw [if_neg h45]
  obtain ⟨z, hz, he⟩ := vld_iff s ⟨by rw [hs]; exact hne, by rw [hs]; exact hl, by rw [hs]; exact h.1, .inl (by rw [hs]; exact h.2)⟩
  have hz0 : ¬ z < 0 := fun g => h45 (by rw [he]; unfold T Tb; rw [if_pos g]; rfl)
  have hb : s = body 10 z.natAbs := by rw [he]; unfold T Tb; rw [if_neg hz0]; rfl
  refine ⟨z.natAbs, fun e => ?_, hz, hb⟩
  rw [hb, e] at h
  exact h.2 rfl
theorem tb_pos (m : Nat) (s : List UInt8) (h : s = body 10 m) : (⟨s.toArray⟩ : ByteArray) = TB (zi false m) := by
  unfold TB T Tb zi
  rw [h]
  simp [show ¬ ((m : Int) < 0) by omega]
theorem tb_neg (m : Nat) (h0 : m ≠ 0) (s : List UInt8) (h : s = body 10 m) : (⟨(45 :: s).toArray⟩ : ByteArray) = TB (zi true m) := by
  unfold TB T Tb zi
  rw [h]
  simp [show 0 < m by omega]
theorem cat_minus (s : List UInt8) : (⟨#[45]⟩ : ByteArray) ++ ⟨s.toArray⟩ = ⟨(45 :: s).toArray⟩ := by
  have : ((⟨#[45]⟩ : ByteArray) ++ ⟨s.toArray⟩).data = (⟨(45 :: s).toArray⟩ : ByteArray).data := by simp
  exact ByteArray.ext this
/-- the text of an integer of at most 400 digits comes back -/
def TextP (ng : Bool) (w : World) (e : Ending) (w' : World) : Prop := ∃ m : Nat, (E 10 m).length ≤ 400 ∧ e = .returned (.string (TB (zi ng m))) ∧ Below w.heap.size w w'

theorem cat_run (w : World) (bs : ByteArray) (h : bs.size ≤ 1000) : (Op.stringOp .add (⟨#[45]⟩ : ByteArray) bs).run Try.prog w = .ok (.string ((⟨#[45]⟩ : ByteArray) ++ bs)) w :=
  run_string_add_sum w ⟨#[45]⟩ bs (by have : (⟨#[45]⟩ : ByteArray).size = 1 := rfl; omega)
theorem box3 (w w' : World) (v0 v1 v2 : Value) (t : Nat) (h : Below (w.heap.size + 1) (w.alloc (.cells #[v0, v1, v2] t)) w') :
    w'.cell? ⟨w.heap.size, 0, none⟩ = some v0 ∧ w'.cell? ⟨w.heap.size, 1, none⟩ = some v1 ∧ w'.cell? ⟨w.heap.size, 2, none⟩ = some v2 ∧ Below w.heap.size w w' := by
  have g := (h.block w.heap.size (by omega)).trans (heap_alloc_new w (.cells #[v0, v1, v2] t))
  refine ⟨?_, ?_, ?_, ((Below.refl _ w).alloc (Nat.le_refl _) _).trans (h.mono (by omega))⟩
  · unfold World.cell?; rw [g]; rfl
  · unfold World.cell?; rw [g]; rfl
  · unfold World.cell?; rw [g]; rfl
set_option maxRecDepth 100000 in
set_option maxHeartbeats 6000000 in
theorem lawtext_any (ng : Bool) (D : ByteArray) (nn : Nat) (hD : D.size ≤ maxLen) (hnn : nn < 65536) (w : World) :
    Calls Try.prog 14 #[.agg #[.bool ng, .string D, .int .u16 (nn : Int)]] w (TextP ng w) := by
  have HF : Hid (∀ (m : Nat) w', (E 10 m).length ≤ 400 → Below w.heap.size w w' → TextP ng w (.returned (.string (TB (zi ng m)))) w') := fun m w' h hb => ⟨m, h, rfl, hb⟩
  have HBX := Lib.hid (fun w' h => box3 w w' (.bool ng) (.string D) (.int .u16 (nn : Int)) 36 h)
  unfold maxLen at hD
  generalize hPo : TextP ng w = Po at *
  clear hPo
  go_enter Try.func14, Try.ntmps14
  go_wp2_with fail
  have hsz : (w.alloc (.cells #[.bool ng, .string D, .int .u16 (nn : Int)] 36)).heap.size = w.heap.size + 1 := by simp
  generalize w.alloc (.cells #[.bool ng, .string D, .int .u16 (nn : Int)] 36) = wb at *
  generalize hn0 : w.heap.size = n0 at *
  have hszh := Lib.hid hsz
  clear hn0 hsz
  go_loopw [3, 4] (fun v i wr => ∃ (k : Nat) (s : List UInt8), k ≤ 450 ∧ s.length ≤ k ∧ i = .int .i64 k ∧ Hid (Nm s) ∧ wr.ownsRow (n0 + 1) 5 1 v s.length (bytes s) ∧ Below (n0 + 1) wb wr) (fun _ i _ => 450 - (intOf i).toNat)
  case atStart => exact ⟨0, [], by omega, Nat.le_refl _, rfl, nm_nil, World.ownsRow_nil _ _ _ _, Below.refl _ _⟩
  case round =>
    obtain ⟨k, s, hk, hsl, rfl, HN, hown, hbel⟩ := hrel
    obtain ⟨x0, x1, x2, hbw⟩ := HBX.out wr hbel
    obtain ⟨va, vc, rfl⟩ := World.ownsRow.isSlice hown
    by_cases hlt : k < D.size ∧ k < 450
    · obtain ⟨hlt1, hlt2⟩ := hlt
      have hk1 : (k : Int) < D.size := by omega
      have hk2 : (k : Int) < 450 := by omega
      have hown1 := Lib.hid hown
      have hsz2 := Lib.hid hbel.size
      have hszr : n0 + 1 ≤ wr.heap.size := by have := hbel.size; have := hszh.out; omega
      by_cases hd : 48 ≤ D[k].toNat ∧ D[k].toNat ≤ 57
      · have d1 : (48 : Int) ≤ (D[k].toNat : Int) := by omega
        have d2 : (D[k].toNat : Int) ≤ 57 := by omega
        by_cases hz : D[k] = 48 ∧ s.length = 0
        · have q1 : ((D[k].toNat : Int) != 48) = false := by rw [hz.1]; rfl
          have hl0 : (s.length : Int) ≤ 0 := by omega
          clear hz hd hown
          go_wp2
          go_roundw
          case rel => exact ⟨k + 1, s, by omega, by omega, by go_num, HN.out, hown1.out, hbel⟩
          case measure => simp [intOf]; omega
        · have hN2 : Hid (Nm (s ++ [D[k]])) := nm_snoc s _ HN.out hd (by
            by_cases e : D[k] = 48
            · right; intro e2; exact hz ⟨e, by rw [e2]; rfl⟩
            · exact .inl e)
          have hcase : ((D[k].toNat : Int) != 48) = true ∨ (((D[k].toNat : Int) != 48) = false ∧ (0 : Int) < s.length) := by
            by_cases e : D[k] = 48
            · right; exact ⟨by rw [e]; rfl, by have : s.length ≠ 0 := fun g => hz ⟨e, g⟩; omega⟩
            · left; rw [bne_iff_ne]; intro g; exact e (UInt8.toNat_inj.1 (by have : (48 : UInt8).toNat = 48 := rfl; omega))
          clear hz hd hown
          rcases hcase with q1 | ⟨q1, q2⟩
          · go_wp2_with (at_builtin; refine append_byte rfl (.tmp 40) (.tmp 45) 26 rfl Try.underlying26 _ (n0 + 1) _ s.length s D[k] rfl rfl hown1.out wb hbel ?a1 ?a2 ?a3 ?_)
            case a1 => omega
            case a2 => omega
            case a3 => rfl
            intro v' w3 hown3 hb3 hsp
            clear hsp
            go_wp2
            go_roundw
            case rel => exact ⟨k + 1, s ++ [D[k]], by omega, by rw [List.length_append]; simp; omega, by go_num, hN2.out, by rw [List.length_append]; exact hown3, hb3⟩
            case measure => simp [intOf]; omega
          · go_wp2_with (at_builtin; refine append_byte rfl (.tmp 40) (.tmp 45) 26 rfl Try.underlying26 _ (n0 + 1) _ s.length s D[k] rfl rfl hown1.out wb hbel ?b1 ?b2 ?b3 ?_)
            case b1 => omega
            case b2 => omega
            case b3 => rfl
            intro v' w3 hown3 hb3 hsp
            clear hsp
            go_wp2
            go_roundw
            case rel => exact ⟨k + 1, s ++ [D[k]], by omega, by rw [List.length_append]; simp; omega, by go_num, hN2.out, by rw [List.length_append]; exact hown3, hb3⟩
            case measure => simp [intOf]; omega
      · have hcase : (D[k].toNat : Int) < 48 ∨ ((48 : Int) ≤ (D[k].toNat : Int) ∧ (57 : Int) < (D[k].toNat : Int)) := by omega
        clear hd hown
        rcases hcase with q1 | ⟨q1, q2⟩
        · go_wp2
          go_roundw
          case rel => exact ⟨k + 1, s, by omega, by omega, by go_num, HN.out, hown1.out, hbel⟩
          case measure => simp [intOf]; omega
        · go_wp2
          go_roundw
          case rel => exact ⟨k + 1, s, by omega, by omega, by go_num, HN.out, hown1.out, hbel⟩
          case measure => simp [intOf]; omega
    · have hcase : (D.size : Int) ≤ k ∨ ((k : Int) < D.size ∧ (450 : Int) ≤ k) := by omega
      have hown1 := Lib.hid hown
      have hnn2 : (nn : Int) % 450 < 450 := by omega
      have hnn0 : 0 ≤ (nn : Int) % 450 := by omega
      obtain ⟨M, hM, hMe⟩ : ∃ M : Nat, M < 450 ∧ Hid ((nn : Int) % 450 = (M : Int)) := ⟨nn % 450, by omega, (by omega : (nn : Int) % 450 = ((nn % 450 : Nat) : Int))⟩
      clear hlt hown
      rcases hcase with q1 | ⟨q1, q2⟩
      · skip
        go_wp2_with fail
        rw [hMe.out]
        clear hnn2 hnn0
        obtain ⟨wo, rfl⟩ : ∃ wo : World, wo = wr := ⟨_, rfl⟩
        go_loopg [3, 51] M (fun gk v i wr => ∃ (j : Nat) (s : List UInt8), j ≤ M ∧ M ≤ gk + j ∧ s.length ≤ 450 + j ∧ i = .int .i64 j ∧ Hid (Nm s) ∧ wr.ownsRow (n0 + 1) 5 1 v s.length (bytes s) ∧ Below (n0 + 1) wb wr)
        case atStart => exact ⟨0, s, Nat.zero_le _, by omega, by omega, rfl, HN.out, hown1.out, hbel⟩
        case round =>
          clear hown1 HN hbel hbw x0 x1 x2 hsl q1
          obtain ⟨j, s, hj, hgk, hsl, rfl, HN, hown, hbel⟩ := hrel
          obtain ⟨x0, x1, x2, hbw⟩ := HBX.out wr hbel
          have hszr : n0 + 1 ≤ wr.heap.size := by have := hbel.size; have := hszh.out; omega
          by_cases hjM : j < M
          · have hN2 : Hid (Nm (s ++ [57])) := nm_snoc s 57 HN.out (by decide) (.inl (by decide))
            have hown1 := Lib.hid hown
            have hjM2 : (j : Int) < M := by omega
            clear hown
            go_wp2_with (at_builtin; refine append_byte rfl (.tmp 53) (.tmp 54) 26 rfl Try.underlying26 _ (n0 + 1) _ s.length s 57 rfl rfl hown1.out wb hbel ?e1 ?e2 ?e3 ?_)
            case e1 => omega
            case e2 => omega
            case e3 => rfl
            intro v' w3 hown3 hb3 hsp
            clear hsp
            go_wp2
            go_roundg (gk - 1)
            case measure => omega
            case rel => exact ⟨j + 1, s ++ [57], by omega, by omega, by rw [List.length_append]; simp; omega, by go_num, hN2.out, by rw [List.length_append]; exact hown3, hb3⟩
          · have hjM2 : (M : Int) ≤ j := by omega
            obtain ⟨va, vc, rfl, _, hvc, hrb⟩ := rb_of_row hown
            have hrbh := Lib.hid hrb
            clear hown hrb
            by_cases h400 : 400 < s.length
            · have h4i : (400 : Int) < s.length := by omega
              have hvc4 : 400 ≤ vc := by omega
              obtain ⟨bb, off, hva, hblt, hcc⟩ := hrbh.out.at 0 (by omega)
              have hln : (s.take 400).length = 400 := by rw [List.length_take]; omega
              obtain ⟨m, hm0, hm4, hme⟩ := nm_num (s.take 400) (nm_take s HN.out 400) (fun e => by rw [e] at hln; simp at hln) (by omega)
              have hcv := conv_rb (hrbh.out.take 400) vc
              rw [hln] at hcv
              have hfin := Lib.hid (HF.out m wr hm4 hbw)
              have htp := Lib.hid (tb_pos m _ hme)
              have htn := Lib.hid ((cat_minus (s.take 400)).trans (tb_neg m hm0 _ hme))
              have hsz4 : ((⟨(s.take 400).toArray⟩ : ByteArray)).size = 400 := hln
              have hsz4h := Lib.hid hsz4
              subst hva
              clear hme hln hcc HN hsz4
              generalize hbs : (⟨(s.take 400).toArray⟩ : ByteArray) = bs at *
              clear hbs
              cases ng with
              | true =>
                have hcat := cat_run wr bs (by have := hsz4h.out; omega)
                rw [htn.out] at hcat
                go_wp2
                exact hfin.out
              | false =>
                rw [htp.out] at hcv
                go_wp2
                exact hfin.out
            · have h4i : (s.length : Int) ≤ 400 := by omega
              by_cases h0 : s.length = 0
              · have hfin := Lib.hid (HF.out 0 wr (by decide) hbw)
                have h0i : (((s.length : Nat) : Int) == 0) = true := by rw [h0]; rfl
                have ht0 : Hid (TB (zi ng 0) = ⟨#[48]⟩) := by (show _ = _; cases ng <;> decide)
                clear h0 HN
                generalize s.length = ls at *
                go_wp2
                rw [← ht0.out]
                exact hfin.out
              · have h0i : (((s.length : Nat) : Int) == 0) = false := by rw [beq_eq_false_iff_ne]; omega
                obtain ⟨m, hm0, hm4, hme⟩ := nm_num s HN.out (fun e => h0 (by rw [e]; rfl)) (by omega)
                have hcv := conv_rb hrbh.out vc
                have hfin := Lib.hid (HF.out m wr hm4 hbw)
                have htp := Lib.hid (tb_pos m _ hme)
                have htn := Lib.hid ((cat_minus s).trans (tb_neg m hm0 _ hme))
                have hsz4h : Hid ((⟨s.toArray⟩ : ByteArray).size = s.length) := rfl
                clear hme HN h0
                generalize hbs : (⟨s.toArray⟩ : ByteArray) = bs at *
                clear hbs
                generalize s.length = ls at *
                cases ng with
                | true =>
                  have hcat := cat_run wr bs (by have := hsz4h.out; omega)
                  rw [htn.out] at hcat
                  go_wp2
                  exact hfin.out
                | false =>
                  rw [htp.out] at hcv
                  go_wp2
                  exact hfin.out
      · skip
        go_wp2_with fail
        rw [hMe.out]
        clear hnn2 hnn0
        obtain ⟨wo, rfl⟩ : ∃ wo : World, wo = wr := ⟨_, rfl⟩
        go_loopg [3, 51] M (fun gk v i wr => ∃ (j : Nat) (s : List UInt8), j ≤ M ∧ M ≤ gk + j ∧ s.length ≤ 450 + j ∧ i = .int .i64 j ∧ Hid (Nm s) ∧ wr.ownsRow (n0 + 1) 5 1 v s.length (bytes s) ∧ Below (n0 + 1) wb wr)
        case atStart => exact ⟨0, s, Nat.zero_le _, by omega, by omega, rfl, HN.out, hown1.out, hbel⟩
        case round =>
          clear hown1 HN hbel hbw x0 x1 x2 hsl q1 q2
          obtain ⟨j, s, hj, hgk, hsl, rfl, HN, hown, hbel⟩ := hrel
          obtain ⟨x0, x1, x2, hbw⟩ := HBX.out wr hbel
          have hszr : n0 + 1 ≤ wr.heap.size := by have := hbel.size; have := hszh.out; omega
          by_cases hjM : j < M
          · have hN2 : Hid (Nm (s ++ [57])) := nm_snoc s 57 HN.out (by decide) (.inl (by decide))
            have hown1 := Lib.hid hown
            have hjM2 : (j : Int) < M := by omega
            clear hown
            go_wp2_with (at_builtin; refine append_byte rfl (.tmp 53) (.tmp 54) 26 rfl Try.underlying26 _ (n0 + 1) _ s.length s 57 rfl rfl hown1.out wb hbel ?f1 ?f2 ?f3 ?_)
            case f1 => omega
            case f2 => omega
            case f3 => rfl
            intro v' w3 hown3 hb3 hsp
            clear hsp
            go_wp2
            go_roundg (gk - 1)
            case measure => omega
            case rel => exact ⟨j + 1, s ++ [57], by omega, by omega, by rw [List.length_append]; simp; omega, by go_num, hN2.out, by rw [List.length_append]; exact hown3, hb3⟩
          · have hjM2 : (M : Int) ≤ j := by omega
            obtain ⟨va, vc, rfl, _, hvc, hrb⟩ := rb_of_row hown
            have hrbh := Lib.hid hrb
            clear hown hrb
            by_cases h400 : 400 < s.length
            · have h4i : (400 : Int) < s.length := by omega
              have hvc4 : 400 ≤ vc := by omega
              obtain ⟨bb, off, hva, hblt, hcc⟩ := hrbh.out.at 0 (by omega)
              have hln : (s.take 400).length = 400 := by rw [List.length_take]; omega
              obtain ⟨m, hm0, hm4, hme⟩ := nm_num (s.take 400) (nm_take s HN.out 400) (fun e => by rw [e] at hln; simp at hln) (by omega)
              have hcv := conv_rb (hrbh.out.take 400) vc
              rw [hln] at hcv
              have hfin := Lib.hid (HF.out m wr hm4 hbw)
              have htp := Lib.hid (tb_pos m _ hme)
              have htn := Lib.hid ((cat_minus (s.take 400)).trans (tb_neg m hm0 _ hme))
              have hsz4 : ((⟨(s.take 400).toArray⟩ : ByteArray)).size = 400 := hln
              have hsz4h := Lib.hid hsz4
              subst hva
              clear hme hln hcc HN hsz4
              generalize hbs : (⟨(s.take 400).toArray⟩ : ByteArray) = bs at *
              clear hbs
              cases ng with
              | true =>
                have hcat := cat_run wr bs (by have := hsz4h.out; omega)
                rw [htn.out] at hcat
                go_wp2
                exact hfin.out
              | false =>
                rw [htp.out] at hcv
                go_wp2
                exact hfin.out
            · have h4i : (s.length : Int) ≤ 400 := by omega
              by_cases h0 : s.length = 0
              · have hfin := Lib.hid (HF.out 0 wr (by decide) hbw)
                have h0i : (((s.length : Nat) : Int) == 0) = true := by rw [h0]; rfl
                have ht0 : Hid (TB (zi ng 0) = ⟨#[48]⟩) := by (show _ = _; cases ng <;> decide)
                clear h0 HN
                generalize s.length = ls at *
                go_wp2
                rw [← ht0.out]
                exact hfin.out
              · have h0i : (((s.length : Nat) : Int) == 0) = false := by rw [beq_eq_false_iff_ne]; omega
                obtain ⟨m, hm0, hm4, hme⟩ := nm_num s HN.out (fun e => h0 (by rw [e]; rfl)) (by omega)
                have hcv := conv_rb hrbh.out vc
                have hfin := Lib.hid (HF.out m wr hm4 hbw)
                have htp := Lib.hid (tb_pos m _ hme)
                have htn := Lib.hid ((cat_minus s).trans (tb_neg m hm0 _ hme))
                have hsz4h : Hid ((⟨s.toArray⟩ : ByteArray).size = s.length) := rfl
                clear hme HN h0
                generalize hbs : (⟨s.toArray⟩ : ByteArray) = bs at *
                clear hbs
                generalize s.length = ls at *
                cases ng with
                | true =>
                  have hcat := cat_run wr bs (by have := hsz4h.out; omega)
                  rw [htn.out] at hcat
                  go_wp2
                  exact hfin.out
                | false =>
                  rw [htp.out] at hcv
                  go_wp2
                  exact hfin.out
end Go.Proofs.Ytmnopohjnbpinab
