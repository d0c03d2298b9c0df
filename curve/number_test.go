package curve

import (
	"bytes"
	"encoding/hex"
	"math/big"
	"strings"
	"testing"

	"pawl/field"
)

func plain(s string) []byte {
	p, err := hex.DecodeString(strings.ReplaceAll(s, " ", ""))
	if err != nil {
		panic(err)
	}
	return p
}

func same(t *testing.T, what string, got []byte, want string) {
	t.Helper()
	if !bytes.Equal(got, plain(want)) {
		t.Errorf("%s = %x, not %s", what, got, want)
	}
}

func whole(n int64) *big.Int { return big.NewInt(n) }

// modulus is 2^255 - 19.
func modulus() *big.Int {
	n := new(big.Int).Lsh(whole(1), 255)
	return n.Sub(n, whole(19))
}

// order is how many points the multiples of Start are.
func order() *big.Int {
	n, _ := new(big.Int).SetString("27742317777372353535851937790883648493", 10)
	return n.Add(n, new(big.Int).Lsh(whole(1), 252))
}

func reversed(p []byte) []byte {
	out := make([]byte, len(p))
	for i, x := range p {
		out[len(p)-1-i] = x
	}
	return out
}

// little writes a number below 2^256 in 32 bytes, the lowest first.
func little(n *big.Int) [32]byte { return [32]byte(reversed(n.FillBytes(make([]byte, 32)))) }

// number reads bytes, the lowest first.
func number(p []byte) *big.Int { return new(big.Int).SetBytes(reversed(p)) }

func elem(n *big.Int) field.Elem {
	p := little(new(big.Int).Mod(n, modulus()))
	return field.Read(p[:])
}

func value(a field.Elem) *big.Int { return number(field.Bytes(a)) }
