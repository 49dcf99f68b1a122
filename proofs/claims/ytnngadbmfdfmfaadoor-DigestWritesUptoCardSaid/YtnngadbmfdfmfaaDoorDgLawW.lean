/-
  Helper: the walk of DigestWrites.
-/
import Derived.Test.YtnngadbmfdfmfaaDoorDgHs
import Derived.Deep.Cut
namespace Go.Proofs.YtnngadbmfdfmfaaDoor
open Go.RowKit
set_option linter.unusedVariables false
set_option linter.unusedSimpArgs false

set_option maxRecDepth 100000 in
set_option maxHeartbeats 8000000 in
theorem walkDigestWrites (w : World) (hT : Tabs w) (a : Option Addr) (n cap : Nat) (z : List ByteArray) (hn : z.length = n) (hc : n ≤ cap) (hr : Rs w a z) (hl : (catS z).length ≤ 1048576) (hn2 : n ≤ 1048576) :
    Calls Tryd.prog 6 #[.slice a n cap] w fun e w' => e = .returned (.bool true) ∧ Below w.heap.size w w' := by
  have HA := Lib.hid (fun W (hW : Below w.heap.size w W) => awake_at W w hT hW)
  have HJ := Lib.hid (join_at z a n cap hn hc w hr hl hn2)
  by_cases hs : n ≤ 10
  · have hnI : ¬ (10 : Int) < (n : Int) := by omega
    have hTh := Lib.hid hT
    have hrh := Lib.hid hr
    by_cases hL : (catS z).length ≤ 600
    · have hsz : (mkS (catS z)).size = (catS z).length := by unfold mkS; rfl
      have hLI : ¬ (600 : Int) < ((mkS (catS z)).size : Int) := by omega
      have hNew := Lib.hid (fun W => new_any W)
      go_enter Tryd.func6, Tryd.ntmps6
      go_wp2_with fail
      refine (HJ.out _ (Below.refl _ _)).mono ?_
      rintro e w0 ⟨rfl, hb0⟩
      have hb0h := Lib.hid hb0
      clear hb0 hT hr HJ
      go_wp2_with fail
      refine (hNew.out _).mono ?_
      rintro e w1 ⟨rfl, hb1⟩
      have hb1h : Hid (Below w.heap.size w w1) := hb0h.out.trans (hb1.mono hb0h.out.size)
      have hbe : Hid (Below w.heap.size w (w1.alloc (.cells (HV []).toArray 35))) := hb1h.out.alloc hb1h.out.size _
      have how : Hid ((w1.alloc (.cells (HV []).toArray 35)).ownsRow w.heap.size 35 73 (.slice (some ⟨w1.heap.size, 0, none⟩) 1 1) 1 (hsl z 1)) := by
        have h := World.ownsRow_lit (base := w.heap.size) (e := 35) (size := 73) w1 (HV []).toArray 1 hb1h.out.size (by unfold maxLen; omega) (by simp [HV_len])
        show World.ownsRow _ _ _ _ _ _ (hsl z 1)
        rw [show hsl z 1 = (HV []).toArray.toList by simp only [hsl, List.take_zero, List.nil_append]; rfl]
        exact h
      clear hb1 hb1h hNew
      go_wp2_with (refine build_hash rfl (.tmp 19) rfl [] rfl ?_)
      generalize w1.alloc (.cells (HV []).toArray 35) = wb at *
      generalize w1.heap.size = g1 at *
      go_loopw [3, 5, 23] (fun lv sv i wr => ∃ k : Nat, k ≤ n ∧ i = .int .i64 k ∧ Hid (wr.ownsRow w.heap.size 35 73 lv (k + 1) (hsl z (k + 1))) ∧ Hid (Below w.heap.size w wr)) (fun _ _ i _ => n - (intOf i).toNat)
      case atStart => exact ⟨0, Nat.zero_le _, rfl, how, hbe⟩
      case round =>
        obtain ⟨k, hk, rfl, hO, hbel⟩ := hrel
        by_cases hlt : k < n
        · obtain ⟨b, off, rfl, hcc⟩ := (hrh.out.go hbel.out).at k (by omega)
          have hkI : (k : Int) < (n : Int) := by omega
          have hkL : ((k + 1 : Nat) : Int) - 1 = (k : Int) := by omega
          have hcs := catS_snoc z k (by omega)
          have hle := catS_le z (k + 1)
          have hTr := hTh.out.go hbel.out
          generalize z.getD k ⟨#[]⟩ = s at *
          have hwr := Lib.hid (write_any (catS (z.take k)) s wr hTr (by rw [hcs, List.length_append, ← Lib.size_eq] at hle; omega))
          rw [← hcs] at hwr
          obtain ⟨g2, cap2, rfl, hB2, hg2, hc2⟩ := own_form hO.out
          have hrg : Hid (wr.rangeAt g2 (k * 73) (HV (catS (z.take k)))) := own_range hO.out k (by omega)
          have i1 : Hid ((Tryd.prog.info? 35).map (·.size) = some (HV (catS (z.take k))).length) := by show _ = _; rw [size73, HV_len]
          have hst : Hid (hsl z (k + 2) = hsl z (k + 1) ++ HV (catS (z.take (k + 1)))) := rfl
          have hglt : Hid (w.heap.size ≤ wr.heap.size) := hbel.out.size
          clear hcs hle hTr hlt HA hrh hL hLI hsz hl
          generalize catS (z.take k) = L1 at *
          generalize catS (z.take (k + 1)) = L2 at *
          generalize hsl z (k + 1) = xs1 at *
          go_wp2_with (refine wpList_load_mid rfl 35 (.tmp 32) rfl g2 (k * 73) rfl (HV L1) _ hrg.out Tryd.underlying35 rfl i1.out ?_)
          refine hwr.out.mono ?_
          rintro e w2 ⟨rfl, hb2⟩
          have hO2 : Hid (w2.ownsRow w.heap.size 35 73 (.slice (some ⟨g2, 0, none⟩) (k + 1) cap2) (k + 1) xs1) := own_keep hO.out hb2
          have hbe2 : Hid (Below w.heap.size w w2) := hbel.out.trans (hb2.mono hglt.out)
          have hsz2 := hbe2.out.size
          clear hwr hb2 hO hrg i1
          go_wp2_with (first | (refine build_hash rfl (.tmp 35) rfl L2 rfl ?_) | (at_builtin; refine append_hash rfl (.tmp 27) (.tmp 36) rfl w.heap.size _ (k + 1) xs1 L2 rfl rfl hO2.out w hbe2.out ?c1 ?c2 ?_))
          case c1 => exact hsz2
          case c2 => omega
          intro v' w3 hO3 hb3
          rw [← hst.out] at hO3
          have hO3h := Lib.hid hO3
          have hb3h := Lib.hid hb3
          clear hO3 hb3 hO2 hbe2
          go_wp2
          go_roundw
          case rel => exact ⟨k + 1, by omega, by go_num, hO3h, hb3h⟩
          case measure => simp [intOf]; omega
        · obtain rfl : k = n := by omega
          obtain ⟨g2, cap2, rfl, hB2, hg2, hc2⟩ := own_form hO.out
          have hTr : Hid (Tabs wr) := hTh.out.go hbel.out
          have hrr : Hid (Rs wr a z) := hrh.out.go hbel.out
          have hgw : Hid (w.heap.size ≤ wr.heap.size) := hbel.out.size
          have hz := zero73
          clear hLI hsz how hbe hrh hTh
          generalize wr = wA at *
          go_wp2
          go_loopw [6, 7, 8, 41] (fun tv iv hv i wr => ∃ (m : Nat) (t : ByteArray), m ≤ k + 1 ∧ i = .int .i64 m ∧ tv = .string t ∧ Hid (t.data.toList = catS (z.take (m - 1))) ∧ t.size ≤ 600 ∧ Hid (Below wA.heap.size wA wr)) (fun _ _ _ i _ => k + 1 - (intOf i).toNat)
          case atStart => exact ⟨0, ⟨#[]⟩, by omega, rfl, rfl, rfl, by decide, Below.refl _ _⟩
          case round =>
            obtain ⟨m, t, hm, rfl, rfl, ht, hts, hbm⟩ := hrel
            by_cases hlt2 : m < k + 1
            · have hmI : (m : Int) < (k : Int) + 1 := by omega
              have hmI2 : (m : Int) < ((k + 1 : Nat) : Int) := by omega
              have hle := catS_le z m
              have hll : (catS (z.take m)).length ≤ 600 := by omega
              have hrg : Hid (wr.rangeAt g2 (m * 73) (HV (catS (z.take m)))) := own_range (own_keep hO.out hbm.out) m hlt2
              have iH : Hid ((Tryd.prog.info? 35).map (·.size) = some (HV (catS (z.take m))).toArray.size) := i73 _ _ _
              have iL : Hid ((Tryd.prog.info? 35).map (·.size) = some (HV (catS (z.take m))).length) := by show _ = _; rw [size73, HV_len]
              have o1 : Hid ((HV (catS (z.take m))).toArray.all (·.oneCell') = true) := arr_all (hv_one _ _ _)
              have z1 : Hid ((hv zw zb 0).toArray.size = (HV (catS (z.take m))).toArray.size) := by show _ = _; simp [hv_len, HV_len]
              obtain ⟨G, hG⟩ : ∃ G, wr.heap.size = G := ⟨_, rfl⟩
              have hZ : Hid (Blk (wr.alloc (.cells (hv zw zb 0).toArray 35)) G 35 (hv zw zb 0)) := by rw [← hG]; exact Blk.new wr _ _
              have hZ2 : Hid (Blk ((wr.alloc (.cells (hv zw zb 0).toArray 35)).setRow G (HV (catS (z.take m))).toArray) G 35 (HV (catS (z.take m)))) := hZ.out.row _
              have hGw : wA.heap.size ≤ G := by rw [← hG]; exact hbm.out.size
              have hbe2 : Hid (Below wA.heap.size wA ((wr.alloc (.cells (hv zw zb 0).toArray 35)).setRow G (HV (catS (z.take m))).toArray)) := below_row (hbm.out.alloc (by omega) _) hGw _
              go_upto_region 13 with (first | (refine wpList_load_mid rfl 35 (.tmp 44) rfl g2 (m * 73) rfl (HV (catS (z.take m))) _ hrg.out Tryd.underlying35 rfl iL.out ?_) | (refine wpList_store_row rfl 35 (.tmp 8) (.tmp 45) rfl G _ rfl rfl 35 _ hZ.out iH.out z1.out o1.out ?_))
              generalize (wr.alloc (.cells (hv zw zb 0).toArray 35)).setRow G (HV (catS (z.take m))).toArray = wc at *
              have hTc : Tabs wc := hTr.out.go hbe2.out
              have hrc : Hid (Rs wc a z) := hrr.out.go hbe2.out
              have HX := Lib.hid (fun W (hW : Below wc.heap.size wc W) => hZ2.out.go hW hZ2.out.lt)
              have HS := Lib.hid (fun W (hW : Below wc.heap.size wc W) => sumH_at (catS (z.take m)) W wc hTc hW (by omega))
              have HR0 : Hid (∀ (t : ByteArray), t.data.toList = catS (z.take m) → ∀ W, Below wc.heap.size wc W → Calls Tryd.prog 11 #[.string t] W fun e w' => e = .returned (.string (mkS (sumF (catS (z.take m))))) ∧ Below wc.heap.size wc w') := fun t ht W hW => by
                have h := ref_at t W wc hW (by rw [Lib.size_eq, ht]; omega)
                rw [ht] at h; exact h
              have p0 := Lib.hid (Below.refl wc.heap.size wc)
              have hP : Hid (∀ W, Below wc.heap.size wc W → Below wA.heap.size wA W) := fun W hW => hbe2.out.trans (hW.mono hbe2.out.size)
              clear hZ o1 z1 iL hrg hG hTc HA hL hl hz hmI
              by_cases hm0 : m = 0
              · subst hm0
                have ht0 : Hid (t.data.toList = catS (z.take (0 + 1 - 1))) := ht
                have HR := Lib.hid (HR0.out t ht.out)
                clear HR0 ht hrc
                generalize mkS (sumF (catS (z.take 0))) = r at *
                generalize HV (catS (z.take 0)) = cs at *
                -- the two sums
                go_wp2_with (refine wpList_load_row rfl 35 (.tmp 8) rfl G rfl 35 _ _ _ (HX.out _ p0.out) Tryd.underlying35 rfl iH.out ?_)
                refine (HS.out _ p0.out).mono ?_
                rintro e y1 ⟨rfl, q1⟩
                have p1 := Lib.hid q1
                clear q1
                go_wp2_with fail
                refine (HR.out _ p1.out).mono ?_
                rintro e y2 ⟨rfl, q2⟩
                have p2 := Lib.hid q2
                clear q2
                go_wp2_with (refine load_rowG (by rfl) 35 (.tmp 8) rfl G rfl 35 _ _ _ (HX.out _ p2.out) Tryd.underlying35 rfl iH.out ?_)
                refine (HS.out _ p2.out).mono ?_
                rintro e y3 ⟨rfl, q3⟩
                have p3 := Lib.hid q3
                clear q3
                go_wp2_with fail
                refine (HR.out _ p3.out).mono ?_
                rintro e y4 ⟨rfl, q4⟩
                have p4 := Lib.hid (hP.out _ q4)
                clear q4
                go_wp2
                go_roundw
                case rel => exact ⟨0 + 1, _, by omega, by go_num, rfl, ht0, hts, p4⟩
                case measure => first | (simp [intOf]; omega) | simp [intOf]
              · obtain ⟨q, rfl⟩ : ∃ q, m = q + 1 := ⟨m - 1, by omega⟩
                obtain ⟨b, off, rfl, hcc⟩ := hrc.out.at q (by omega)
                have hcs := catS_snoc z q (by omega)
                generalize z.getD q ⟨#[]⟩ = s at *
                have htq : Hid ((t ++ s).data.toList = catS (z.take (q + 1))) := by
                  show _ = _
                  rw [hcs, ByteArray.data_append, Array.toList_append, ht.out]; rfl
                have hts2 : (t ++ s).size ≤ 600 := by rw [Lib.size_eq, htq.out]; exact hll
                have hss : t.size + s.size ≤ 600 := by rw [ByteArray.size_append] at hts2; exact hts2
                have ht0 : Hid ((t ++ s).data.toList = catS (z.take (q + 1 + 1 - 1))) := htq
                have hqI : ((q + 1 : Nat) : Int) - 1 = (q : Int) := by omega
                have hqP : (0 : Int) < ((q + 1 : Nat) : Int) := by omega
                have HR := Lib.hid (HR0.out (t ++ s) htq.out)
                clear HR0 ht hrc hcs htq
                generalize mkS (sumF (catS (z.take (q + 1)))) = r at *
                generalize HV (catS (z.take (q + 1))) = cs at *
                -- the two sums
                go_wp2_with (refine wpList_load_row rfl 35 (.tmp 8) rfl G rfl 35 _ _ _ (HX.out _ p0.out) Tryd.underlying35 rfl iH.out ?_)
                refine (HS.out _ p0.out).mono ?_
                rintro e y1 ⟨rfl, q1⟩
                have p1 := Lib.hid q1
                clear q1
                go_wp2_with fail
                refine (HR.out _ p1.out).mono ?_
                rintro e y2 ⟨rfl, q2⟩
                have p2 := Lib.hid q2
                clear q2
                go_wp2_with (refine load_rowG (by rfl) 35 (.tmp 8) rfl G rfl 35 _ _ _ (HX.out _ p2.out) Tryd.underlying35 rfl iH.out ?_)
                refine (HS.out _ p2.out).mono ?_
                rintro e y3 ⟨rfl, q3⟩
                have p3 := Lib.hid q3
                clear q3
                go_wp2_with fail
                refine (HR.out _ p3.out).mono ?_
                rintro e y4 ⟨rfl, q4⟩
                have p4 := Lib.hid (hP.out _ q4)
                clear q4
                go_wp2
                go_roundw
                case rel => exact ⟨q + 1 + 1, _, by omega, by go_num, rfl, ht0, hts2, p4⟩
                case measure => first | (simp [intOf]; omega) | simp [intOf]
            · obtain rfl : m = k + 1 := by omega
              have hmI2 : ¬ ((k + 1 : Nat) : Int) < ((k + 1 : Nat) : Int) := by omega
              have hb9 : Hid (Below w.heap.size w wr) := hbel.out.trans (hbm.out.mono hgw.out)
              go_wp2_with fail
              refine (HA.out _ hb9.out).mono ?_
              rintro e y1 ⟨rfl, q1⟩
              have p1 := Lib.hid q1
              clear q1
              go_wp2
              go_ret
              exact ⟨rfl, p1.out⟩
    · have hsz : (mkS (catS z)).size = (catS z).length := by unfold mkS; rfl
      have hLI : (600 : Int) < ((mkS (catS z)).size : Int) := by omega
      go_enter Tryd.func6, Tryd.ntmps6
      go_wp2_with fail
      refine (HJ.out _ (Below.refl _ _)).mono ?_
      rintro e w0 ⟨rfl, hb0⟩
      have hb0h := Lib.hid hb0
      clear hb0
      go_wp2_with fail
      refine (HA.out _ hb0h.out).mono ?_
      rintro e w1 ⟨rfl, hb1⟩
      have hb1h := Lib.hid hb1
      clear hb1
      go_wp2
      go_ret
      exact ⟨rfl, hb1h.out⟩
  · have hnI : (10 : Int) < (n : Int) := by omega
    clear hT
    go_enter Tryd.func6, Tryd.ntmps6
    go_wp2_with fail
    refine (HA.out _ (Below.refl _ _)).mono ?_
    rintro e w1 ⟨rfl, hb1⟩
    have hb1h := Lib.hid hb1
    clear hb1
    go_wp2
    go_ret
    exact ⟨rfl, hb1h.out⟩
end Go.Proofs.YtnngadbmfdfmfaaDoor
