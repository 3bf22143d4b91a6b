package tests

import (
	"bytes"
	"hash/crc32"
	"math"
	"strconv"
	"strings"
	"testing"

	"loop.example/g00199/impl"
)

// spareByte fills the room behind a list, so that a write there is seen.
const spareByte = 0xa5

// roomy is a list with data and spare room behind it, and all of its memory.
func roomy(data string, spare int) ([]byte, []byte) {
	all := append([]byte(data), bytes.Repeat([]byte{spareByte}, spare)...)
	return all[:len(data)], all
}

// turnAll changes each byte of a list, those of its spare room, too.
func turnAll(b []byte) {
	b = b[:cap(b)]
	for i := range b {
		b[i] ^= 0xff
	}
}

func TestPutBig(t *testing.T) {
	for _, x := range []struct {
		b    string
		n, k int
		want string
	}{
		{"", 0, 1, "\x00"},
		{"", 7, 1, "\x07"},
		{"", 255, 1, "\xff"},
		{"ab", 258, 3, "ab\x00\x01\x02"},
		{"", 0x01020304, 4, "\x01\x02\x03\x04"},
		{"", 0x80ff7f01, 4, "\x80\xff\x7f\x01"},
		{"z", 0x01020304050607, 7, "z\x01\x02\x03\x04\x05\x06\x07"},
		{"z", 0x0102030405060708, 8, "z\x01\x02\x03\x04\x05\x06\x07\x08"},
		{"", 1, 8, "\x00\x00\x00\x00\x00\x00\x00\x01"},
		{"", math.MaxInt, 8, "\x7f\xff\xff\xff\xff\xff\xff\xff"},
	} {
		if got := impl.PutBig([]byte(x.b), x.n, x.k); string(got) != x.want {
			t.Errorf("PutBig(%q, %d, %d) = %q, not %q", x.b, x.n, x.k, got, x.want)
		}
	}
}

func TestPutBigNumberThatDoesNotFit(t *testing.T) {
	for _, x := range []struct {
		n, k int
		want string
	}{
		{256, 1, "\x00"},
		{257, 1, "\x01"},
		{65535, 1, "\xff"},
		{65538, 2, "\x00\x02"},
		{0x01020304, 3, "\x02\x03\x04"},
		{1 << 56, 7, "\x00\x00\x00\x00\x00\x00\x00"},
		{1<<56 + 5, 7, "\x00\x00\x00\x00\x00\x00\x05"},
		{math.MaxInt, 7, "\xff\xff\xff\xff\xff\xff\xff"},
		{math.MaxInt, 1, "\xff"},
	} {
		if got := impl.PutBig(nil, x.n, x.k); string(got) != x.want {
			t.Errorf("PutBig(nil, %d, %d) = %q, not %q", x.n, x.k, got, x.want)
		}
	}
}

func TestPutBigBelowNought(t *testing.T) {
	for _, n := range []int{-1, -2, -255, -256, -257, math.MinInt32, math.MinInt + 1, math.MinInt} {
		for k := 1; k <= 8; k++ {
			want := "x" + strings.Repeat("\x00", k)
			if got := impl.PutBig([]byte("x"), n, k); string(got) != want {
				t.Errorf("PutBig(x, %d, %d) = %q, not %q", n, k, got, want)
			}
		}
	}
}

func TestPutBigWrongCount(t *testing.T) {
	for _, k := range []int{0, 9, 10, 16, 64, -1, -8, math.MaxInt, math.MinInt} {
		for _, b := range []string{"", "abc"} {
			for _, n := range []int{-1, 0, 1, math.MaxInt} {
				if got := impl.PutBig([]byte(b), n, k); string(got) != b {
					t.Errorf("PutBig(%q, %d, %d) = %q", b, n, k, got)
				}
			}
		}
	}
}

func TestPutBigLeavesItsArgumentAlone(t *testing.T) {
	for _, data := range []string{"", "a", "abcd"} {
		for _, spare := range []int{0, 3, 20} {
			for _, k := range []int{-1, 0, 1, 2, 7, 8, 9} {
				for _, n := range []int{-1, 0x01020304050607} {
					checkPutBigMemory(t, data, spare, n, k)
				}
			}
		}
	}
}

func checkPutBigMemory(t *testing.T, data string, spare int, n int, k int) {
	t.Helper()
	b, all := roomy(data, spare)
	before := string(all)
	first := impl.PutBig(b, n, k)
	second := impl.PutBig(b, n, k)
	if string(all) != before {
		t.Errorf("PutBig(%q with %d spare, %d, %d) wrote into its argument: %q", data, spare, n, k, all)
	}
	answer := string(first)
	turnAll(second)
	if string(all) != before || string(first) != answer {
		t.Errorf("PutBig(%q with %d spare, %d, %d): its answer shares memory", data, spare, n, k)
	}
	turnAll(all)
	if string(first) != answer {
		t.Errorf("PutBig(%q with %d spare, %d, %d): its answer changes with its argument", data, spare, n, k)
	}
}

func TestGetBig(t *testing.T) {
	b := []byte{1, 2, 3, 4, 5, 6, 7, 0, 255, 128}
	for _, x := range []struct{ at, k, want int }{
		{0, 1, 1},
		{1, 3, 0x020304},
		{0, 7, 0x01020304050607},
		{3, 7, 0x0405060700ff80},
		{7, 1, 0},
		{7, 2, 255},
		{8, 2, 0xff80},
		{9, 1, 128},
	} {
		if n, ok := impl.GetBig(b, x.at, x.k); !ok || n != x.want {
			t.Errorf("GetBig(%d, %d) = %d, %v, not %d", x.at, x.k, n, ok, x.want)
		}
	}
	if n, ok := impl.GetBig(bytes.Repeat([]byte{255}, 7), 0, 7); !ok || n != 1<<56-1 {
		t.Errorf("GetBig of seven bytes 255 = %d, %v", n, ok)
	}
}

func TestGetBigRefuses(t *testing.T) {
	b, all := roomy("0123456789", 20)
	before := string(all)
	for _, x := range []struct{ at, k int }{
		{0, 0}, {0, 8}, {0, 9}, {0, 10}, {0, -1}, {10, 0}, {0, math.MaxInt}, {0, math.MinInt},
		{-1, 1}, {-1, 2}, {-7, 7}, {math.MinInt, 1}, {math.MinInt, 7}, {-1, 0},
		{10, 1}, {9, 2}, {4, 7}, {11, 1}, {12, 7}, {math.MaxInt, 1}, {math.MaxInt, 7}, {math.MaxInt - 6, 7},
		{math.MaxInt, math.MaxInt}, {math.MinInt, math.MinInt}, {math.MaxInt, math.MinInt}, {math.MinInt, math.MaxInt},
	} {
		if n, ok := impl.GetBig(b, x.at, x.k); ok || n != 0 {
			t.Errorf("GetBig(%d, %d) = %d, %v", x.at, x.k, n, ok)
		}
	}
	if string(all) != before {
		t.Errorf("GetBig wrote into its argument: %q", all)
	}
}

func TestGetBigOfTheEmptyList(t *testing.T) {
	empty, _ := roomy("", 20)
	for _, b := range [][]byte{nil, {}, empty} {
		for at := -2; at <= 2; at++ {
			for k := -1; k <= 9; k++ {
				if n, ok := impl.GetBig(b, at, k); ok || n != 0 {
					t.Errorf("GetBig(nothing, %d, %d) = %d, %v", at, k, n, ok)
				}
			}
		}
	}
}

func TestGetBigLeavesItsArgumentAlone(t *testing.T) {
	b, all := roomy("abcdefgh", 8)
	before := string(all)
	for k := 1; k <= 7; k++ {
		impl.GetBig(b, 1, k)
	}
	if string(all) != before {
		t.Errorf("GetBig wrote into its argument: %q", all)
	}
}

// Promise 1: numbers come back of their bytes.
func TestNumbersComeBackOfTheirBytes(t *testing.T) {
	for k := 1; k <= 7; k++ {
		whole := 1 << (8 * k)
		for _, n := range []int{0, 1, 127, 128, 255, 256, 65535, 65536, 1 << 31, 1<<32 - 1, 0x0102030405060708, whole / 2, whole - 1, whole, whole + 1, math.MaxInt} {
			b := impl.PutBig([]byte("head"), n, k)
			if len(b) != 4+k || string(b[:4]) != "head" {
				t.Fatalf("PutBig(head, %d, %d) = %q", n, k, b)
			}
			b = append(b, "tail"...)
			if got, ok := impl.GetBig(b, 4, k); !ok || got != n%whole {
				t.Errorf("%d of %d bytes comes back as %d, %v", n, k, got, ok)
			}
		}
	}
}

func TestCrc(t *testing.T) {
	if got := impl.Crc(nil); got != 0 {
		t.Errorf("Crc(nil) = %d", got)
	}
	if got := impl.Crc([]byte{}); got != 0 {
		t.Errorf("Crc of the empty list = %d", got)
	}
	if got := impl.Crc([]byte("123456789")); got != 0xe3069283 {
		t.Errorf("Crc(123456789) = %x", got)
	}
	table := crc32.MakeTable(crc32.Castagnoli)
	for i := 0; i < 256; i++ {
		for _, b := range [][]byte{{byte(i)}, {0, byte(i)}, {byte(i), 0, 255}, bytes.Repeat([]byte{byte(i)}, i)} {
			if got, want := impl.Crc(b), int(crc32.Checksum(b, table)); got != want {
				t.Errorf("Crc(%x) = %d, not %d", b, got, want)
			}
		}
	}
}

func TestCrcKeepsToItsArgument(t *testing.T) {
	b, all := roomy("abc", 16)
	before := string(all)
	if got, want := impl.Crc(b), impl.Crc([]byte("abc")); got != want {
		t.Errorf("Crc reads the spare room: %d, not %d", got, want)
	}
	if string(all) != before {
		t.Errorf("Crc wrote into its argument: %q", all)
	}
}

func TestText(t *testing.T) {
	for n, want := range map[int]string{
		0: "0", 1: "1", 9: "9", 10: "10", 42: "42", 100: "100", 1234567: "1234567",
		999999999: "999999999", 1000000000: "1000000000",
		1000000001: "", math.MaxInt32: "", math.MaxInt: "",
		-1: "", -42: "", -1000000000: "", math.MinInt: "",
	} {
		if got := impl.Text(n); got != want {
			t.Errorf("Text(%d) = %q, not %q", n, got, want)
		}
	}
}

func TestNumber(t *testing.T) {
	for s, want := range map[string]int{
		"0": 0, "1": 1, "9": 9, "10": 10, "42": 42, "100": 100, "1234567": 1234567,
		"999999999": 999999999, "1000000000": 1000000000,
	} {
		if n, ok := impl.Number(s); !ok || n != want {
			t.Errorf("Number(%q) = %d, %v", s, n, ok)
		}
	}
}

func TestNumberRefuses(t *testing.T) {
	for _, s := range []string{
		"", "1000000001", "2147483648", "10000000000", "9223372036854775807", "9223372036854775808",
		"18446744073709551616", "18446744073709551658", strings.Repeat("9", 1000),
		"00", "01", "007", "0000000000", "01000000000", strings.Repeat("0", 1000), "0" + strings.Repeat("0", 30) + "1",
		"-0", "+0", "-1", "+1", "--1", "-1000000000", "+", "-",
		" ", " 1", "1 ", "1 2", "\n", "1\n", "\x001", "1\x00",
		"1.0", "1e3", "1_000", "1,000", "0x1", "0b1", "0o7", "a", "1x", "x1", "1-", "\xff", "1\xff", "٣", "１", "NaN", "Inf",
	} {
		if n, ok := impl.Number(s); ok || n != 0 {
			t.Errorf("Number(%q) = %d, %v", s, n, ok)
		}
	}
}

func TestNumberTakesDigitsAlone(t *testing.T) {
	for i := 0; i < 256; i++ {
		c := string([]byte{byte(i)})
		digit := i >= '0' && i <= '9'
		for s, good := range map[string]bool{c: digit, "4" + c: digit, "4" + c + "2": digit, c + "2": digit && i != '0'} {
			n, ok := impl.Number(s)
			if want, _ := strconv.Atoi(s); ok != good || good && n != want || !good && n != 0 {
				t.Errorf("Number(%q) = %d, %v", s, n, ok)
			}
		}
	}
}

// Promise 1: numbers come back of their texts.
func TestNumbersComeBackOfTheirTexts(t *testing.T) {
	for n := 0; n <= 1000000000; n += 1 + n/97 {
		checkTextComesBack(t, n)
	}
	for ten := 1; ten <= 1000000000; ten *= 10 {
		checkTextComesBack(t, ten-1)
		checkTextComesBack(t, ten)
	}
}

func checkTextComesBack(t *testing.T, n int) {
	t.Helper()
	s := impl.Text(n)
	if s != strconv.Itoa(n) {
		t.Errorf("Text(%d) = %q", n, s)
	}
	if got, ok := impl.Number(s); !ok || got != n {
		t.Errorf("%d comes back as %d, %v", n, got, ok)
	}
}
