package wots

import (
	"apostille/api"
	"apostille/bits"
)

// Bounds of a kind.
const (
	maxHeight     = 68 // of all trees together
	maxTreeHeight = 9
	maxFewHeight  = 14 // of the trees that sign a few times
	maxFewTrees   = 40
)

const (
	topDigit    = 1<<api.SlhDigit - 1 // which is how many steps a chain has
	checkSize   = 2
	checkDigits = 3
	checkShift  = 8*checkSize - checkDigits*api.SlhDigit // so that a check's first digits hold it
)

// Fit tells whether a kind of signatures can be.
func Fit(x api.Slh) bool {
	if !isSize(x.N) || x.D < 1 || x.H%x.D != 0 || x.H > maxHeight {
		return false
	}
	return within(x.H/x.D, maxTreeHeight) && within(x.A, maxFewHeight) && within(x.K, maxFewTrees)
}

// isSize tells whether sums may have so many bytes.
func isSize(n int) bool {
	return n == 16 || n == 24 || n == 32
}

// within tells whether a number is from 1 to a bound.
func within(n, most int) bool {
	return 1 <= n && n <= most
}

// digitCount is how many digits a text of so many bytes has, each of which a chain signs.
func digitCount(n int) int {
	return 8*n/api.SlhDigit + checkDigits
}

// Digits is the digits of a text that are signed, with their check.
func Digits(n int, text []byte) []uint32 {
	if !isSize(n) || len(text) != n {
		return nil
	}
	var check uint64
	for _, digit := range bits.Digits(text, api.SlhDigit, 8*n/api.SlhDigit) {
		check += uint64(topDigit - digit)
	}
	return bits.Digits(bits.Join(text, bits.Be(check<<checkShift, checkSize)), api.SlhDigit, digitCount(n))
}
