package tests

import (
	"math"
	"strings"
	"testing"

	"loop.example/g00199/impl"
)

func TestMaxPrefix(t *testing.T) {
	if impl.MaxPrefix != 1<<24 {
		t.Errorf("MaxPrefix = %d", impl.MaxPrefix)
	}
}

func TestPutPrefix(t *testing.T) {
	for _, x := range []struct {
		b              string
		bits, first, n int
		want           string
	}{
		// The examples of RFC 7541, C.1.
		{"", 5, 0, 10, "\x0a"},
		{"", 5, 0, 1337, "\x1f\x9a\x0a"},
		{"", 8, 0, 42, "\x2a"},
		{"ab", 5, 0xe0, 10, "ab\xea"},
		{"ab", 5, 0xe0, 1337, "ab\xff\x9a\x0a"},
		{"", 7, 128, 0, "\x80"},
		{"", 7, 128, 126, "\xfe"},
		{"", 6, 64, 0, "\x40"},
		{"", 4, 16, 14, "\x1e"},
		{"", 1, 0, 0, "\x00"},
		{"", 1, 0xfe, 0, "\xfe"},
		{"", 1, 0xfe, 1, "\xff\x00"},
		{"", 8, 0, 254, "\xfe"},
		{"", 8, 0, 255, "\xff\x00"},
		{"", 8, 0, 256, "\xff\x01"},
		{"", 8, 0, 255 + 127, "\xff\x7f"},
		{"", 8, 0, 255 + 128, "\xff\x80\x01"},
		{"", 8, 0, 255 + 1<<14 - 1, "\xff\xff\x7f"},
		{"", 8, 0, 255 + 1<<14, "\xff\x80\x80\x01"},
		{"", 8, 0, 255 + 1<<21 - 1, "\xff\xff\xff\x7f"},
		{"", 8, 0, 255 + 1<<21, "\xff\x80\x80\x80\x01"},
		{"", 1, 0, 16777216, "\x01\xff\xff\xff\x07"},
		{"", 8, 0, 16777216, "\xff\x81\xfe\xff\x07"},
		{"", 8, 0, 16777215, "\xff\x80\xfe\xff\x07"},
	} {
		if got := impl.PutPrefix([]byte(x.b), x.bits, x.first, x.n); string(got) != x.want {
			t.Errorf("PutPrefix(%q, %d, %d, %d) = %q, not %q", x.b, x.bits, x.first, x.n, got, x.want)
		}
	}
}

func TestPutPrefixRoundItsGreatestValue(t *testing.T) {
	for bits := 1; bits <= 8; bits++ {
		m := 1<<bits - 1
		for n, want := range map[int]string{
			m - 1: string([]byte{byte(m - 1)}),
			m:     string([]byte{byte(m), 0}),
			m + 1: string([]byte{byte(m), 1}),
		} {
			if got := impl.PutPrefix(nil, bits, 0, n); string(got) != want {
				t.Errorf("PutPrefix(nil, %d, 0, %d) = %q, not %q", bits, n, got, want)
			}
			if got, next, ok := impl.GetPrefix([]byte(want), 0, bits); !ok || got != n || next != len(want) {
				t.Errorf("GetPrefix(%q, 0, %d) = %d, %d, %v", want, bits, got, next, ok)
			}
		}
	}
}

func TestPutPrefixTakesTheNearerNumber(t *testing.T) {
	for bits := 1; bits <= 8; bits++ {
		for _, n := range []int{-1, -2, -255, -256, math.MinInt32, math.MinInt + 1, math.MinInt} {
			if got := impl.PutPrefix([]byte("x"), bits, 0, n); string(got) != "x\x00" {
				t.Errorf("PutPrefix(x, %d, 0, %d) = %q", bits, n, got)
			}
		}
		most := string(impl.PutPrefix([]byte("x"), bits, 0, impl.MaxPrefix))
		for _, n := range []int{impl.MaxPrefix + 1, impl.MaxPrefix + 2, 1 << 25, 1 << 28, 1 << 40, math.MaxInt - 1, math.MaxInt} {
			if got := impl.PutPrefix([]byte("x"), bits, 0, n); string(got) != most {
				t.Errorf("PutPrefix(x, %d, 0, %d) = %q, not %q", bits, n, got, most)
			}
		}
	}
}

// The lower bits of first are taken as 0, the upper ones stand, whatever n is.
func TestPutPrefixFirst(t *testing.T) {
	for bits := 1; bits <= 8; bits++ {
		m := 1<<bits - 1
		for first := 0; first <= 255; first++ {
			upper := first - first%(m+1)
			for _, n := range []int{-1, 0, m - 1, m, m + 200, impl.MaxPrefix + 1} {
				got := impl.PutPrefix(nil, bits, first, n)
				want := impl.PutPrefix(nil, bits, 0, n)
				want[0] += byte(upper)
				if string(got) != string(want) {
					t.Errorf("PutPrefix(nil, %d, %d, %d) = %q, not %q", bits, first, n, got, want)
				}
			}
		}
	}
	if got := impl.PutPrefix(nil, 8, 255, 3); string(got) != "\x03" {
		t.Errorf("PutPrefix(nil, 8, 255, 3) = %q", got)
	}
	if got := impl.PutPrefix(nil, 4, 0x5f, 2); string(got) != "\x52" {
		t.Errorf("PutPrefix(nil, 4, 0x5f, 2) = %q", got)
	}
}

func TestPutPrefixWrongArguments(t *testing.T) {
	for _, x := range []struct{ bits, first int }{
		{0, 0}, {9, 0}, {-1, 0}, {16, 0}, {63, 0}, {64, 0}, {math.MaxInt, 0}, {math.MinInt, 0},
		{1, -1}, {5, -1}, {8, -1}, {1, 256}, {5, 256}, {8, 256}, {5, math.MaxInt}, {5, math.MinInt},
		{0, -1}, {9, 256}, {0, 255}, {9, 255},
	} {
		for _, n := range []int{-1, 0, 1, 255, impl.MaxPrefix, math.MaxInt} {
			for _, b := range []string{"", "abc"} {
				if got := impl.PutPrefix([]byte(b), x.bits, x.first, n); string(got) != b {
					t.Errorf("PutPrefix(%q, %d, %d, %d) = %q", b, x.bits, x.first, n, got)
				}
			}
		}
	}
	if got := impl.PutPrefix(nil, 0, 0, 1); len(got) != 0 {
		t.Errorf("PutPrefix(nil, 0, 0, 1) = %q", got)
	}
}

func TestPutPrefixLeavesItsArgumentAlone(t *testing.T) {
	for _, data := range []string{"", "a", "abcd"} {
		for _, spare := range []int{0, 1, 3, 20} {
			for _, bits := range []int{0, 1, 5, 8, 9} {
				for _, first := range []int{-1, 0, 255, 256} {
					for _, n := range []int{-1, 0, 300, 1 << 15, impl.MaxPrefix + 1} {
						checkPutPrefixMemory(t, data, spare, bits, first, n)
					}
				}
			}
		}
	}
}

func checkPutPrefixMemory(t *testing.T, data string, spare int, bits int, first int, n int) {
	t.Helper()
	b, all := roomy(data, spare)
	before := string(all)
	one := impl.PutPrefix(b, bits, first, n)
	two := impl.PutPrefix(b, bits, first, n)
	if string(all) != before {
		t.Errorf("PutPrefix(%q with %d spare, %d, %d, %d) wrote into its argument: %q", data, spare, bits, first, n, all)
	}
	answer := string(one)
	turnAll(two)
	if string(all) != before || string(one) != answer {
		t.Errorf("PutPrefix(%q with %d spare, %d, %d, %d): its answer shares memory", data, spare, bits, first, n)
	}
	turnAll(all)
	if string(one) != answer {
		t.Errorf("PutPrefix(%q with %d spare, %d, %d, %d): its answer changes with its argument", data, spare, bits, first, n)
	}
}

func TestGetPrefix(t *testing.T) {
	for _, x := range []struct {
		b                   string
		at, bits, n, behind int
	}{
		{"\x0a", 0, 5, 10, 1},
		{"\xea", 0, 5, 10, 1},
		{"\x1f\x9a\x0a", 0, 5, 1337, 3},
		{"\xff\x9a\x0a\x55", 0, 5, 1337, 3},
		{"ab\x1f\x9a\x0acd", 2, 5, 1337, 5},
		{"\xff\x00", 0, 8, 255, 2},
		{"\xff\x01\x01", 0, 8, 256, 2},
		{"\xff\x7f", 0, 8, 255 + 127, 2},
		{"\xff\x80\x01", 0, 8, 255 + 128, 3},
		{"\xff\xff\x7f", 0, 8, 255 + 1<<14 - 1, 3},
		{"\xff\x80\x80\x01", 0, 8, 255 + 1<<14, 4},
		{"\xff\xff\xff\x7f", 0, 8, 255 + 1<<21 - 1, 4},
		{"\xff\x80\x80\x80\x01", 0, 8, 255 + 1<<21, 5},
		{"\xff\x81\xfe\xff\x07", 0, 8, 16777216, 5},
		{"\x01\xff\xff\xff\x07", 0, 1, 16777216, 5},
		{"\x00", 0, 1, 0, 1},
		{"\xfe", 0, 1, 0, 1},
		{"\xff\x00", 0, 1, 1, 2},
	} {
		if n, next, ok := impl.GetPrefix([]byte(x.b), x.at, x.bits); !ok || n != x.n || next != x.behind {
			t.Errorf("GetPrefix(%q, %d, %d) = %d, %d, %v, not %d, %d", x.b, x.at, x.bits, n, next, ok, x.n, x.behind)
		}
	}
}

// The upper bits of the first byte say nothing, and what lies behind the number is not read.
func TestGetPrefixBelowTheGreatestValue(t *testing.T) {
	for bits := 1; bits <= 8; bits++ {
		for x := 0; x <= 255; x++ {
			low := x % (1 << bits)
			n, next, ok := impl.GetPrefix([]byte{9, byte(x), 3, 0xff}, 1, bits)
			switch {
			case low < 1<<bits-1 && (!ok || n != low || next != 2):
				t.Errorf("GetPrefix(.. %x .., 1, %d) = %d, %d, %v", x, bits, n, next, ok)
			case low == 1<<bits-1 && (!ok || n != low+3 || next != 3):
				t.Errorf("GetPrefix(.. %x 3 .., 1, %d) = %d, %d, %v", x, bits, n, next, ok)
			}
		}
	}
}

// Needless groups of 0 are read, as long as no fifth byte stands behind the first.
func TestGetPrefixNeedlessGroups(t *testing.T) {
	for bits := 1; bits <= 8; bits++ {
		m := 1<<bits - 1
		for _, low := range []int{0, 1, 127} {
			for more := 1; more <= 3; more++ {
				b := append([]byte{byte(m), byte(low | 128)}, strings.Repeat("\x80", more-1)+"\x00"...)
				if n, next, ok := impl.GetPrefix(b, 0, bits); !ok || n != m+low || next != len(b) {
					t.Errorf("GetPrefix(%q, 0, %d) = %d, %d, %v", b, bits, n, next, ok)
				}
			}
			for more := 4; more <= 12; more++ {
				b := append([]byte{byte(m), byte(low | 128)}, strings.Repeat("\x80", more-1)+"\x00"...)
				checkNoPrefix(t, b, 0, bits)
			}
		}
	}
}

func checkNoPrefix(t *testing.T, b []byte, at int, bits int) {
	t.Helper()
	if n, next, ok := impl.GetPrefix(b, at, bits); ok || n != 0 || next != 0 {
		t.Errorf("GetPrefix(%q, %d, %d) = %d, %d, %v", b, at, bits, n, next, ok)
	}
}

func TestGetPrefixAboveMaxPrefix(t *testing.T) {
	for bits := 1; bits <= 8; bits++ {
		m := 1<<bits - 1
		for _, n := range []int{impl.MaxPrefix + 1, impl.MaxPrefix + 2, 1 << 25, 1<<28 - 1 + m} {
			rest := n - m
			b := []byte{byte(m), byte(rest%128 + 128), byte(rest>>7%128 + 128), byte(rest>>14%128 + 128), byte(rest >> 21)}
			checkNoPrefix(t, b, 0, bits)
			checkNoPrefix(t, append(b, 0), 0, bits)
		}
	}
}

func TestGetPrefixFifthByte(t *testing.T) {
	for _, s := range []string{
		"\xff\x80\x80\x80\x80\x00", "\xff\x80\x80\x80\x80\x01", "\xff\x81\x80\x80\x80\x00", "\xff\x81\xfe\xff\x87\x00",
		"\xff\xff\xff\xff\xff\x7f", "\xff\x80\x80\x80\x80\x80\x80\x80\x80\x00", "\xff\x80\x80\x80\x80\x80\x80\x80\x80\x80\x01",
		"\xff" + strings.Repeat("\x80", 1000) + "\x00", "\xff" + strings.Repeat("\xff", 1000),
	} {
		for bits := 1; bits <= 8; bits++ {
			checkNoPrefix(t, []byte(s), 0, bits)
		}
	}
}

// A number that is cut is not there, even if the spare room would make it whole.
func TestGetPrefixCut(t *testing.T) {
	for bits := 1; bits <= 8; bits++ {
		m := 1<<bits - 1
		for _, n := range []int{0, m - 1, m, m + 1, m + 128, m + 1<<14, m + 1<<21, impl.MaxPrefix} {
			b := impl.PutPrefix([]byte("ab"), bits, 0, n)
			for cut := 0; cut < len(b); cut++ {
				checkNoPrefix(t, b[:cut], 2, bits)
				checkNoPrefix(t, append([]byte{}, b[:cut]...), 2, bits)
			}
		}
	}
}

func TestGetPrefixWrongArguments(t *testing.T) {
	b, all := roomy("\x01\x02\x1f\x00\x03", 20)
	before := string(all)
	for _, bits := range []int{0, 9, -1, 16, 64, math.MaxInt, math.MinInt} {
		for at := -1; at <= 6; at++ {
			checkNoPrefix(t, b, at, bits)
		}
	}
	for bits := 0; bits <= 9; bits++ {
		for _, at := range []int{-1, -2, -5, 5, 6, 10, math.MaxInt, math.MaxInt - 1, math.MinInt} {
			checkNoPrefix(t, b, at, bits)
		}
	}
	if string(all) != before {
		t.Errorf("GetPrefix wrote into its argument: %q", all)
	}
}

func TestGetPrefixOfTheEmptyList(t *testing.T) {
	empty, _ := roomy("", 20)
	for _, b := range [][]byte{nil, {}, empty} {
		for at := -2; at <= 2; at++ {
			for bits := -1; bits <= 9; bits++ {
				checkNoPrefix(t, b, at, bits)
			}
		}
	}
}

func TestGetPrefixLeavesItsArgumentAlone(t *testing.T) {
	b, all := roomy("\x01\xff\x81\xfe\xff\x07\xff\x80", 8)
	before := string(all)
	for bits := 0; bits <= 9; bits++ {
		for at := -1; at <= len(all); at++ {
			impl.GetPrefix(b, at, bits)
		}
	}
	if string(all) != before {
		t.Errorf("GetPrefix wrote into its argument: %q", all)
	}
}

// Promise 2: prefixed numbers come back.
func TestPrefixedNumbersComeBack(t *testing.T) {
	for bits := 1; bits <= 8; bits++ {
		for n := 0; n <= impl.MaxPrefix; n += 1 + n/257 {
			checkPrefixComesBack(t, bits, n)
		}
		m := 1<<bits - 1
		for _, edge := range []int{m, m + 128, m + 1<<14, m + 1<<21, impl.MaxPrefix} {
			for n := edge - 2; n <= min(edge+2, impl.MaxPrefix); n++ {
				checkPrefixComesBack(t, bits, max(n, 0))
			}
		}
	}
}

func checkPrefixComesBack(t *testing.T, bits int, n int) {
	t.Helper()
	for _, first := range []int{0, 0x55, 0xaa, 255} {
		b := impl.PutPrefix([]byte("head"), bits, first, n)
		if string(b[:4]) != "head" || len(b) > 4+5 {
			t.Fatalf("PutPrefix(head, %d, %d, %d) = %q", bits, first, n, b)
		}
		end := len(b)
		b = append(b, "\xfftail"...)
		if got, next, ok := impl.GetPrefix(b, 4, bits); !ok || got != n || next != end {
			t.Errorf("%d of %d bits behind %d comes back as %d, %d, %v", n, bits, first, got, next, ok)
		}
	}
}
