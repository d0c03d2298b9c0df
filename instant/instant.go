// Package instant is layer 1: totally ordered floating-point times (shared/doc/01-instant.md).
package instant

import "math"

const (
	signBit = 1 << 63
	noTime  = math.MaxUint64 // the Key that all NaNs share
)

// Key returns a number whose order among all Keys is the order of the times.
func Key(t float64) uint64 {
	if math.IsNaN(t) {
		return noTime
	}
	n := math.Float64bits(t)
	if n&signBit != 0 {
		// The magnitude of a negative time grows towards the earlier ones.
		return ^n
	}
	return n | signBit
}

// Time returns the time with the Key n, or NaN if there is none.
func Time(n uint64) float64 {
	t := math.Float64frombits(^n)
	if n&signBit != 0 {
		t = math.Float64frombits(n &^ signBit)
	}
	if math.IsNaN(t) {
		// No time but the one NaN of math leaves: its other bit patterns have no Key of their own.
		return math.NaN()
	}
	return t
}

// Before reports whether a is earlier than b.
func Before(a, b float64) bool { return Key(a) < Key(b) }

// Same reports whether a and b are the same time; -0 and 0 are two.
func Same(a, b float64) bool { return Key(a) == Key(b) }

// Is reports whether t is neither NaN nor an infinity.
func Is(t float64) bool { return !math.IsNaN(t) && !math.IsInf(t, 0) }

// Pass returns the time when d has gone by since now: never an earlier one, and always a finite one.
func Pass(now, d float64) float64 {
	if math.IsNaN(now) {
		now = 0
	}
	// An infinite now is limited before the addition: two opposite infinities would add up to NaN.
	now = limit(now)
	if !(d > 0) {
		return now
	}
	return limit(now + d)
}

func limit(t float64) float64 {
	return min(max(t, -math.MaxFloat64), math.MaxFloat64)
}

// Over reports whether at least d has gone by since a time.
func Over(now, since, d float64) bool {
	if math.IsNaN(now) || math.IsNaN(since) || math.IsNaN(d) || math.IsInf(d, 1) {
		return false
	}
	return d <= 0 || now-since >= d
}
