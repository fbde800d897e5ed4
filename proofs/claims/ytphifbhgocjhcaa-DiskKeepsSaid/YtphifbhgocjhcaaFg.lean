/- Image: the bytes of all sectors, one behind the other. -/
import Derived.Test.YtphifbhgocjhcaaFd
namespace Go.Proofs.Ytphifbhgocjhcaa
set_option linter.unusedSimpArgs false
set_option linter.unusedVariables false
open Go.RowKit Go.Maps

section
variable {w : World} {p s m : Nat} {B : List UInt8} {C : Ca}

theorem take_sect (B : List UInt8) (i : Nat) : B.take (256 * i) ++ sect B i = B.take (256 * (i + 1)) := by
  rw [sect, show 256 * (i + 1) = 256 * i + 256 by omega, List.take_add]
theorem Bk.rd (h : Bk w s B) {i : Nat} {top : Nat} (hi : 256 * i + 256 ≤ B.length) (ht : s < top) : Rd w top (some ⟨s, i * 256, none⟩) 256 256 (sect B i) :=
  ⟨sect_len hi, Nat.le_refl _, fun _ => ⟨_, rfl, ht, h.cells⟩⟩

theorem Ow.base {v : Value} {base : Nat} {l : List UInt8} (h : Ow w base v l) : ∀ r, v.ownBlock = some r → base ≤ r := by
  intro r hr
  rcases h.2 with ⟨rfl, _⟩ | ⟨g, cap, cur, rfl, hb, _⟩
  · cases hr
  · simp only [Value.ownBlock, Option.some.injEq] at hr
    omega
set_option maxRecDepth 100000 in
theorem image_any (h : Dk w p s m B C) : Calls Try.prog 29 #[ptr p] w fun e w' => ∃ v, e = .returned v ∧ Ow w' w.heap.size v B ∧ Below w.heap.size w w' := by
  have HM := Lib.hid (made_any h)
  have HD := Lib.hid h
  have h0 := h.h0
  have h1 := h.h1
  have HBL := Lib.hid h.hB
  have HP := Lib.hid h.plt
  have HSL := Lib.hid h.slt
  obtain ⟨cap, hc, hc2, c0, c1⟩ := h.c0
  have HC := Lib.hid c0
  clear h
  go_enter Try.func29, Try.ntmps29
  go_wp2_with (first | (go_at_call 31; refine HM.out.mono ?_; rintro e w' ⟨rfl, rfl⟩) | (refine wpList_make rfl _ _ rfl ((C.length : Int) * 256) rfl rfl (by omega) (by omega) (Nat.le_refl _) ?_; intro v1 w1 ho1 hb1 hs1; have c2 : w1.cell? ⟨p, 0, none⟩ = some (.slice (some ⟨s, 0, none⟩) C.length cap) := (hb1.cell HP.out).trans HC.out; have HO1 := Lib.hid ho1; have HB1 := Lib.hid hb1; clear ho1 hb1 hs1))
  clear c2
  go_loopw [3, 20] (fun v i' wr => ∃ i : Nat, i ≤ C.length ∧ i' = .int .i64 (i : Int) ∧ Hid (Ow wr w'.heap.size v (B.take (256 * i))) ∧ Hid (Below w'.heap.size w' wr)) (fun _ i' _ => C.length - (RowKit.intOf i').toNat)
  case atStart => exact ⟨0, by omega, rfl, by simpa using HO1, HB1⟩
  case round =>
    clear HO1 HB1
    obtain ⟨i, hi, rfl, HO, HB⟩ := hrel
    have c2 : wr.cell? ⟨p, 0, none⟩ = some (.slice (some ⟨s, 0, none⟩) C.length cap) := (HB.out.cell HP.out).trans HC.out
    by_cases hlt : i < C.length
    · have HR : Hid (Rd wr wr.heap.size (some ⟨s, i * 256, none⟩) 256 256 (sect B i)) := Lib.hid ((HD.out.hs.kept (HB.out.block s HSL.out)).rd (by have := HBL.out; omega) (by have := HB.out.size; have := HSL.out; omega))
      have HZ := Lib.hid HB.out.size
      have HL : Hid ((B.take (256 * i)).length = 256 * i) := Lib.hid (by rw [List.length_take]; have := HBL.out; omega)
      have HT := Lib.hid (take_sect B i)
      go_wp2_with (first | (refine wpList_app rfl _ _ rfl rfl HO.out rfl HR.out (by have := HL.out; omega) HZ.out ?_; intro v2 w2 ho2 hg2 hl2; have HO2 := Lib.hid ho2; have HB2 := Lib.hid (HB.out.grown hg2 HB.out.size HO.out.base); clear ho2 hg2 hl2) | fail)
      go_roundw
      case rel => exact ⟨i + 1, by omega, by go_num, by rw [← HT.out]; exact HO2, HB2⟩
      case measure => simp [RowKit.intOf]; omega
    · obtain rfl : i = C.length := by omega
      go_wp2
      go_ret
      have := HO.out
      rw [List.take_of_length_le (by have := HBL.out; omega)] at this
      exact ⟨_, rfl, this, HB.out⟩
end
end Go.Proofs.Ytphifbhgocjhcaa
