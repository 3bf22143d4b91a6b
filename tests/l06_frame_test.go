package tests

import (
	"bytes"
	"fmt"
	"math"
	"slices"
	"strings"
	"testing"

	"loop.example/g00199/impl"
)

// topStream is the greatest stream.
const topStream = 1<<31 - 1

// headBytes is the head of a frame, told byte by byte; what is told of it need not be right.
func headBytes(length int, kind int, flags int, stream uint32) string {
	return string([]byte{
		byte(length >> 16), byte(length >> 8), byte(length), byte(kind), byte(flags),
		byte(stream >> 24), byte(stream >> 16), byte(stream >> 8), byte(stream),
	})
}

// frameBytes is what a frame that is FrameOk must be sent as.
func frameBytes(f impl.Frame) string {
	return headBytes(len(f.Body), f.Kind, f.Flags, uint32(f.Stream)) + string(f.Body)
}

func sameFrame(a impl.Frame, b impl.Frame) bool {
	return a.Kind == b.Kind && a.Flags == b.Flags && a.Stream == b.Stream && bytes.Equal(a.Body, b.Body)
}

func frameTitle(f impl.Frame) string {
	return fmt.Sprintf("kind %d, flags %d, stream %d, %d bytes", f.Kind, f.Flags, f.Stream, len(f.Body))
}

func checkFrame(t *testing.T, title string, b []byte, at int, want impl.Frame, behind int) {
	t.Helper()
	f, next, code := impl.GetFrame(b, at)
	if code != impl.FrameGood || next != behind || !sameFrame(f, want) {
		t.Errorf("%s: %s, place %d, code %d, not %s, place %d", title, frameTitle(f), next, code, frameTitle(want), behind)
	}
}

func checkNoFrame(t *testing.T, title string, b []byte, at int, want int) {
	t.Helper()
	f, next, code := impl.GetFrame(b, at)
	if code != want || next != at || !sameFrame(f, impl.Frame{}) {
		t.Errorf("%s: %s, place %d, code %d, not the zero one, place %d, code %d", title, frameTitle(f), next, code, at, want)
	}
}

func checkFrames(t *testing.T, title string, b []byte, want []impl.Frame, place int, code int) {
	t.Helper()
	l, p, c := impl.ReadFrames(b)
	if !slices.EqualFunc(l, want, sameFrame) {
		t.Errorf("%s: %d frames, not the %d", title, len(l), len(want))
	}
	if p != place || c != code {
		t.Errorf("%s: place %d, code %d, not %d, %d", title, p, c, place, code)
	}
}

func TestConstantsOfFrames(t *testing.T) {
	got := []int{
		impl.MaxBody,
		impl.FrData, impl.FrHeaders, impl.FrPriority, impl.FrReset, impl.FrSettings, impl.FrPush, impl.FrPing, impl.FrGoAway, impl.FrWindow, impl.FrMore,
		impl.FlagEnd, impl.FlagAck, impl.FlagHead, impl.FlagPad, impl.FlagPrio,
		impl.FrameGood, impl.FrameMore, impl.FrameSize, impl.FrameStream,
	}
	want := []int{1000, 0, 1, 2, 3, 4, 5, 6, 7, 8, 9, 1, 1, 4, 8, 32, 0, 1, 2, 3}
	if !slices.Equal(got, want) {
		t.Errorf("the constants are %v", got)
	}
}

// tried is a number, and whether it is as a frame wants it.
type tried struct {
	n  int
	ok bool
}

var triedOctets = []tried{
	{math.MinInt, false}, {-256, false}, {-1, false}, {0, true}, {1, true}, {9, true}, {10, true}, {127, true}, {128, true}, {254, true},
	{255, true}, {256, false}, {257, false}, {1 << 32, false}, {math.MaxInt, false},
}

var triedStreams = []tried{
	{math.MinInt, false}, {-1 << 31, false}, {-1, false}, {0, true}, {1, true}, {2, true}, {1 << 30, true}, {topStream - 1, true},
	{topStream, true}, {1 << 31, false}, {1<<31 + 1, false}, {1 << 32, false}, {1<<32 + 1, false}, {math.MaxInt, false},
}

var triedLengths = []tried{{0, true}, {1, true}, {8, true}, {999, true}, {1000, true}, {1001, false}, {1002, false}, {1 << 16, false}, {1 << 24, false}}

// A frame that is not FrameOk has FrameSize, and is not put; one that is has its bytes.
func checkFrameOk(t *testing.T, f impl.Frame, want bool) {
	t.Helper()
	if got := impl.FrameOk(f); got != want {
		t.Errorf("FrameOk of %s: %v", frameTitle(f), got)
	}
	b := impl.PutFrame(f)
	if want && string(b) != frameBytes(f) {
		t.Errorf("PutFrame of %s: %.20x", frameTitle(f), b)
	}
	if !want && len(b) != 0 {
		t.Errorf("PutFrame of %s: %.20x, not nothing", frameTitle(f), b)
	}
	if code := impl.FrameCode(f); !want && code != impl.FrameSize {
		t.Errorf("FrameCode of %s: %d", frameTitle(f), code)
	}
}

func TestFrameOk(t *testing.T) {
	for _, length := range triedLengths {
		body := make([]byte, length.n)
		for _, kind := range triedOctets {
			for _, flags := range triedOctets {
				for _, stream := range triedStreams {
					f := impl.Frame{Kind: kind.n, Flags: flags.n, Stream: stream.n, Body: body}
					checkFrameOk(t, f, length.ok && kind.ok && flags.ok && stream.ok)
				}
			}
		}
	}
	checkFrameOk(t, impl.Frame{}, true)
	checkFrameOk(t, impl.Frame{Body: []byte{}}, true)
}

// What a kind wants of its stream and its body is not asked by FrameOk, nor by PutFrame and GetFrame.
func TestFrameOkIsNotFrameCode(t *testing.T) {
	for kind := range 12 {
		for _, stream := range []int{0, 1} {
			for length := range 14 {
				f := impl.Frame{Kind: kind, Flags: impl.FlagAck, Stream: stream, Body: make([]byte, length)}
				checkFrameOk(t, f, true)
				checkFrame(t, frameTitle(f), impl.PutFrame(f), 0, f, 9+length)
			}
		}
	}
}

// Where a frame of a kind may stand.
const (
	ofAStream = iota
	ofNone
	ofBoth
)

// kindRules are the kinds with a name: where they stand, and how long their bodies are among 0 .. 13, 996 and 1000 bytes (nil: any length).
var kindRules = []struct {
	kind    int
	flags   []int
	where   int
	lengths []int
}{
	{impl.FrData, []int{0, 1, 8, 255}, ofAStream, nil},
	{impl.FrHeaders, []int{0, 1, 4, 5, 8, 32, 255}, ofAStream, nil},
	{impl.FrPriority, []int{0, 1, 255}, ofAStream, []int{5}},
	{impl.FrReset, []int{0, 1, 255}, ofAStream, []int{4}},
	{impl.FrSettings, []int{0, 2, 4, 8, 32, 128, 254}, ofNone, []int{0, 6, 12, 996}},
	{impl.FrSettings, []int{impl.FlagAck, 3, 5, 9, 33, 129, 255}, ofNone, []int{0}},
	{impl.FrPush, []int{0, 1, 4, 255}, ofAStream, nil},
	{impl.FrPing, []int{0, 1, 2, 255}, ofNone, []int{8}},
	{impl.FrGoAway, []int{0, 1, 255}, ofNone, []int{8, 9, 10, 11, 12, 13, 996, 1000}},
	{impl.FrWindow, []int{0, 1, 255}, ofBoth, []int{4}},
	{impl.FrMore, []int{0, 1, 4, 255}, ofAStream, nil},
}

func TestFrameCodeOfEachKind(t *testing.T) {
	for _, rule := range kindRules {
		for _, flags := range rule.flags {
			for _, stream := range []int{0, 1, 2, 3, topStream} {
				for _, length := range []int{0, 1, 2, 3, 4, 5, 6, 7, 8, 9, 10, 11, 12, 13, 996, 1000} {
					f := impl.Frame{Kind: rule.kind, Flags: flags, Stream: stream, Body: make([]byte, length)}
					want := impl.FrameGood
					if rule.where == ofAStream && stream == 0 || rule.where == ofNone && stream != 0 {
						want = impl.FrameStream
					}
					// Asked last, as it counts ahead of the stream.
					if rule.lengths != nil && !slices.Contains(rule.lengths, length) {
						want = impl.FrameSize
					}
					if got := impl.FrameCode(f); got != want {
						t.Errorf("FrameCode of %s: %d, not %d", frameTitle(f), got, want)
					}
				}
			}
		}
	}
}

// The edges that the chapter names, one by one, with all codes written out.
func TestFrameCodeAtTheEdges(t *testing.T) {
	const good, size, stream = impl.FrameGood, impl.FrameSize, impl.FrameStream
	for _, x := range []struct {
		kind, flags, length int
		// of the stream 0, and of the stream 1
		none, one int
	}{
		{impl.FrData, 0, 0, stream, good}, {impl.FrData, 0, 1000, stream, good}, {impl.FrData, 0, 1001, size, size},
		{impl.FrHeaders, 0, 0, stream, good}, {impl.FrHeaders, 0, 1000, stream, good}, {impl.FrHeaders, 0, 1001, size, size},
		{impl.FrPriority, 0, 4, size, size}, {impl.FrPriority, 0, 5, stream, good}, {impl.FrPriority, 0, 6, size, size},
		{impl.FrReset, 0, 3, size, size}, {impl.FrReset, 0, 4, stream, good}, {impl.FrReset, 0, 5, size, size},
		{impl.FrSettings, 0, 0, good, stream}, {impl.FrSettings, 0, 5, size, size}, {impl.FrSettings, 0, 6, good, stream},
		{impl.FrSettings, 0, 7, size, size}, {impl.FrSettings, 0, 12, good, stream}, {impl.FrSettings, 0, 1002, size, size},
		{impl.FrSettings, 1, 0, good, stream}, {impl.FrSettings, 1, 5, size, size}, {impl.FrSettings, 1, 6, size, size},
		{impl.FrSettings, 1, 7, size, size}, {impl.FrSettings, 1, 12, size, size},
		{impl.FrPush, 0, 0, stream, good}, {impl.FrPush, 0, 1000, stream, good}, {impl.FrPush, 0, 1001, size, size},
		{impl.FrPing, 0, 7, size, size}, {impl.FrPing, 0, 8, good, stream}, {impl.FrPing, 0, 9, size, size},
		{impl.FrPing, 1, 0, size, size}, {impl.FrPing, 1, 8, good, stream},
		{impl.FrGoAway, 0, 7, size, size}, {impl.FrGoAway, 0, 8, good, stream}, {impl.FrGoAway, 0, 9, good, stream},
		{impl.FrGoAway, 0, 1000, good, stream}, {impl.FrGoAway, 0, 1001, size, size},
		{impl.FrWindow, 0, 3, size, size}, {impl.FrWindow, 0, 4, good, good}, {impl.FrWindow, 0, 5, size, size},
		{impl.FrMore, 0, 0, stream, good}, {impl.FrMore, 0, 1000, stream, good}, {impl.FrMore, 0, 1001, size, size},
		{10, 0, 0, good, good}, {255, 0, 1000, good, good}, {10, 0, 1001, size, size}, {256, 0, 0, size, size}, {-1, 0, 0, size, size},
	} {
		for at, want := range []int{x.none, x.one} {
			f := impl.Frame{Kind: x.kind, Flags: x.flags, Stream: at, Body: make([]byte, x.length)}
			if got := impl.FrameCode(f); got != want {
				t.Errorf("FrameCode of %s: %d, not %d", frameTitle(f), got, want)
			}
		}
	}
}

func TestFrameCodeOfKindsWithoutAName(t *testing.T) {
	for kind := 10; kind <= 255; kind++ {
		for _, stream := range []int{0, 1, 2, topStream} {
			for _, length := range []int{0, 1, 4, 5, 6, 7, 8, 999, 1000} {
				for _, flags := range []int{0, 1, 255} {
					f := impl.Frame{Kind: kind, Flags: flags, Stream: stream, Body: make([]byte, length)}
					if got := impl.FrameCode(f); got != impl.FrameGood {
						t.Errorf("FrameCode of %s: %d", frameTitle(f), got)
					}
				}
			}
		}
	}
}

// A frame that is not FrameOk has FrameSize, also where its stream is the fault, and where the kind wants another stream, too.
func TestFrameSizeAheadOfFrameStream(t *testing.T) {
	for _, f := range []impl.Frame{
		{Kind: impl.FrData, Stream: -1}, {Kind: impl.FrData, Stream: 1 << 31}, {Kind: impl.FrData, Flags: -1}, {Kind: impl.FrData, Flags: 256},
		{Kind: impl.FrData, Body: make([]byte, 1001)}, {Kind: impl.FrMore, Stream: 1 << 31}, {Kind: impl.FrMore, Flags: 256},
		{Kind: impl.FrSettings, Stream: -1}, {Kind: impl.FrSettings, Stream: 1 << 31}, {Kind: impl.FrSettings, Stream: 1, Flags: 256},
		{Kind: impl.FrSettings, Stream: 1, Flags: impl.FlagAck, Body: make([]byte, 6)}, {Kind: impl.FrSettings, Stream: 1, Body: make([]byte, 7)},
		{Kind: impl.FrPing, Stream: 1, Body: make([]byte, 9)}, {Kind: impl.FrPing, Stream: -1, Body: make([]byte, 8)},
		{Kind: impl.FrGoAway, Stream: 1, Body: make([]byte, 7)}, {Kind: impl.FrGoAway, Stream: 1 << 31, Body: make([]byte, 8)},
		{Kind: impl.FrPriority, Body: make([]byte, 4)}, {Kind: impl.FrReset, Body: make([]byte, 5)}, {Kind: impl.FrReset},
		{Kind: impl.FrWindow, Stream: -1, Body: make([]byte, 4)}, {Kind: impl.FrWindow, Stream: 1 << 31, Body: make([]byte, 4)},
	} {
		if got := impl.FrameCode(f); got != impl.FrameSize {
			t.Errorf("FrameCode of %s: %d", frameTitle(f), got)
		}
	}
}

func TestPutFrameOfKnownBytes(t *testing.T) {
	for _, x := range []struct {
		f      impl.Frame
		digits string
	}{
		{impl.Frame{}, "000000 00 00 00000000"},
		{impl.Frame{Kind: impl.FrSettings}, "000000 04 00 00000000"},
		{impl.Frame{Kind: impl.FrSettings, Flags: impl.FlagAck}, "000000 04 01 00000000"},
		{impl.Frame{Kind: impl.FrData, Flags: impl.FlagEnd, Stream: 3, Body: []byte("abc")}, "000003 00 01 00000003 616263"},
		{impl.Frame{Kind: impl.FrHeaders, Flags: impl.FlagHead | impl.FlagEnd, Stream: 1, Body: []byte{0x82}}, "000001 01 05 00000001 82"},
		{impl.Frame{Kind: impl.FrWindow, Stream: 0x01020304, Body: []byte{0, 0, 0, 9}}, "000004 08 00 01020304 00000009"},
		{impl.Frame{Kind: impl.FrPing, Body: []byte("\x01\x02\x03\x04\x05\x06\x07\xff")}, "000008 06 00 00000000 01020304050607ff"},
		{impl.Frame{Kind: 255, Flags: 255, Stream: topStream, Body: []byte{0xff}}, "000001 ff ff 7fffffff ff"},
		{impl.Frame{Kind: 77, Flags: 128, Stream: 0x7f000080, Body: []byte{0, 0}}, "000002 4d 80 7f000080 0000"},
	} {
		want := hexBytes(t, x.digits)
		if got := impl.PutFrame(x.f); !bytes.Equal(got, want) {
			t.Errorf("PutFrame of %s: %x, not %s", frameTitle(x.f), got, x.digits)
		}
		checkFrame(t, x.digits, want, 0, x.f, len(want))
	}
	for length, digits := range map[int]string{255: "0000ff", 256: "000100", 257: "000101", 999: "0003e7", 1000: "0003e8"} {
		body := bytes.Repeat([]byte{7}, length)
		want := append(hexBytes(t, digits+"000000000001"), body...)
		f := impl.Frame{Stream: 1, Body: body}
		if got := impl.PutFrame(f); !bytes.Equal(got, want) {
			t.Errorf("%d bytes begin with %.9x, not %s", length, got, digits)
		}
		checkFrame(t, digits, want, 0, f, 9+length)
	}
}

func TestGetFramePlaces(t *testing.T) {
	one := impl.Frame{Kind: impl.FrData, Stream: 3, Body: []byte("abc")}
	two := impl.Frame{Kind: 200, Flags: 9, Stream: topStream}
	for _, head := range []string{"", "h", "head", strings.Repeat("\xff", 50)} {
		for _, tail := range []string{"", "t", "\xff\xff\xff\xff\xff\xff\xff\xff\xff\xff"} {
			b := []byte(head + frameBytes(one) + frameBytes(two) + tail)
			title := fmt.Sprintf("behind %d, ahead of %d", len(head), len(tail))
			checkFrame(t, title, b, len(head), one, len(head)+12)
			checkFrame(t, title, b, len(head)+12, two, len(head)+21)
		}
	}
	b, _ := roomy(frameBytes(one)+frameBytes(two), 30)
	for _, at := range []int{math.MinInt, math.MinInt + 9, -22, -21, -12, -9, -1, 21, 22, 30, 50, 51, 52, 1 << 31, math.MaxInt - 9, math.MaxInt - 8, math.MaxInt} {
		checkNoFrame(t, fmt.Sprint("at ", at), b, at, impl.FrameMore)
	}
	for _, at := range []int{math.MinInt, -9, -1, 0, 1, 9, math.MaxInt} {
		checkNoFrame(t, fmt.Sprint("nothing, at ", at), nil, at, impl.FrameMore)
		checkNoFrame(t, fmt.Sprint("empty, at ", at), []byte{}, at, impl.FrameMore)
	}
	// Where the bytes behind would be refused, a place that is none is still FrameMore.
	long := []byte(strings.Repeat("\xff", 20))
	for _, at := range []int{math.MinInt, -20, -1, 12, 19, 20, 21, math.MaxInt} {
		checkNoFrame(t, fmt.Sprint("too long, at ", at), long, at, impl.FrameMore)
	}
}

func TestGetFrameThatIsCut(t *testing.T) {
	for _, length := range []int{0, 1, 2, 8, 9, 255, 256, 999, 1000} {
		f := impl.Frame{Kind: impl.FrData, Flags: 255, Stream: 0x01020304, Body: bytes.Repeat([]byte{9}, length)}
		whole := frameBytes(f)
		for cut := range len(whole) {
			// What lies behind the list would make the frame whole.
			checkNoFrame(t, fmt.Sprintf("%d bytes cut at %d", length, cut), []byte("hh" + whole)[:2+cut], 2, impl.FrameMore)
			checkNoFrame(t, fmt.Sprintf("%d bytes cut at %d", length, cut), []byte(whole[:cut]), 0, impl.FrameMore)
		}
		checkFrame(t, fmt.Sprint(length, " bytes, whole"), []byte("hh"+whole), 2, f, 2+len(whole))
	}
}

func TestGetFrameThatIsTooLong(t *testing.T) {
	for length, code := range map[int]int{
		1: impl.FrameMore, 999: impl.FrameMore, 1000: impl.FrameMore, 1001: impl.FrameSize, 1002: impl.FrameSize, 1024: impl.FrameSize,
		65535: impl.FrameSize, 65536: impl.FrameSize, 1<<16 + 1: impl.FrameSize, 1 << 23: impl.FrameSize, 1<<24 - 1: impl.FrameSize,
	} {
		for _, kind := range []int{0, 4, 255} {
			for _, stream := range []uint32{0, 1, 1<<32 - 1} {
				head := headBytes(length, kind, 0, stream)
				for cut := range 9 {
					checkNoFrame(t, fmt.Sprintf("%d told, %d bytes there", length, cut), []byte(head)[:cut], 0, impl.FrameMore)
				}
				checkNoFrame(t, fmt.Sprintf("%d told, 9 bytes there", length), []byte(head), 0, code)
				checkNoFrame(t, fmt.Sprintf("%d told, 9 bytes there, at 3", length), []byte("abc"+head), 3, code)
			}
		}
	}
	for length := 1001; length < 1010; length++ {
		b := []byte(headBytes(length, 0, 0, 1) + strings.Repeat("x", length))
		checkNoFrame(t, fmt.Sprint(length, " bytes, all of them there"), b, 0, impl.FrameSize)
		checkNoFrame(t, fmt.Sprint(length, " bytes, all but one there"), b[:len(b)-1], 0, impl.FrameSize)
	}
}

func TestTheHighestBitOfAStream(t *testing.T) {
	for _, stream := range []int{0, 1, 3, 0x40000000, 0x7f00ff01, topStream} {
		for _, high := range []uint32{0, 1 << 31} {
			b := []byte(headBytes(2, 1, 4, uint32(stream)|high) + "ab")
			want := impl.Frame{Kind: 1, Flags: 4, Stream: stream, Body: []byte("ab")}
			checkFrame(t, fmt.Sprintf("stream %d with %x", stream, high), b, 0, want, 11)
			checkFrames(t, fmt.Sprintf("stream %d with %x, read", stream, high), b, []impl.Frame{want}, 11, impl.FrameMore)
		}
	}
}

func TestReadFrames(t *testing.T) {
	frames := []impl.Frame{
		{Kind: impl.FrSettings},
		{Kind: impl.FrHeaders, Flags: impl.FlagHead, Stream: 1, Body: []byte("head")},
		{Kind: impl.FrData, Flags: impl.FlagEnd, Stream: 1, Body: bytes.Repeat([]byte{0xff}, 1000)},
		{Kind: 255, Flags: 255, Stream: topStream},
		// Wrong by FrameCode, but whole: that is asked of a frame, not of its bytes.
		{Kind: impl.FrData},
		{Kind: impl.FrPing, Stream: 1, Body: []byte("1234567")},
		{Kind: impl.FrWindow, Body: []byte("1234")},
	}
	long := headBytes(1001, 0, 0, 1)
	for count := range len(frames) + 1 {
		l, b := frames[:count], ""
		for _, f := range l {
			b += frameBytes(f)
		}
		end := len(b)
		title := fmt.Sprint(count, " frames")
		checkFrames(t, title, []byte(b), l, end, impl.FrameMore)
		for _, f := range frames {
			begun := frameBytes(f)
			for _, cut := range []int{1, 3, 4, 5, 8, 9, len(begun) - 1} {
				if cut < len(begun) {
					checkFrames(t, fmt.Sprint(title, " and ", cut, " bytes"), []byte(b+begun[:cut]), l, end, impl.FrameMore)
				}
			}
		}
		checkFrames(t, title+" and eight bytes of one that is too long", []byte(b+long[:8]), l, end, impl.FrameMore)
		checkFrames(t, title+" and one that is too long", []byte(b+long), l, end, impl.FrameSize)
		checkFrames(t, title+" and one that is too long, and a good one", []byte(b+long+frameBytes(frames[1])), l, end, impl.FrameSize)
		checkFrames(t, title+" and one that is too long, whole", []byte(b+long+strings.Repeat("\x00", 1001)), l, end, impl.FrameSize)
	}
	checkFrames(t, "nil", nil, nil, 0, impl.FrameMore)
	checkFrames(t, "nothing", []byte{}, nil, 0, impl.FrameMore)
}

// drawer draws numbers by a fixed rule.
type drawer uint32

func (d *drawer) draw(n int) int {
	*d = *d*1664525 + 1013904223
	return int(*d>>8) % n
}

func (d *drawer) frame() impl.Frame {
	lengths := []int{0, 1, 5, 8, 9, d.draw(40), d.draw(1001), 1000}
	f := impl.Frame{Kind: d.draw(256), Flags: d.draw(256), Stream: d.draw(5)}
	if d.draw(2) == 0 {
		f.Kind = d.draw(10)
	}
	if d.draw(3) == 0 {
		f.Stream = topStream - d.draw(1<<24)
	}
	f.Body = make([]byte, lengths[d.draw(len(lengths))])
	for i := range f.Body {
		f.Body[i] = byte(d.draw(256))
	}
	return f
}

// Promise 6: frames come back of their bytes.
func TestFramesComeBackOfTheirBytes(t *testing.T) {
	d := drawer(6)
	for round := range 2000 {
		f := d.frame()
		b := impl.PutFrame(f)
		title := fmt.Sprintf("round %d: %s", round, frameTitle(f))
		if string(b) != frameBytes(f) {
			t.Errorf("%s: PutFrame is %.20x", title, b)
		}
		checkFrame(t, title, b, 0, f, len(b))
		checkFrame(t, title, slices.Concat([]byte("head"), b, b), 4, f, 4+len(b))
		checkFrames(t, title, b, []impl.Frame{f}, len(b), impl.FrameMore)
	}
}

// Promise 6: of a beginning those frames come back that are there whole.
func TestFramesOfABeginning(t *testing.T) {
	d := drawer(66)
	for round := range 60 {
		l, b, ends := []impl.Frame{}, []byte{}, []int{0}
		for range d.draw(7) {
			f := d.frame()
			l = append(l, f)
			b = append(b, impl.PutFrame(f)...)
			ends = append(ends, len(b))
		}
		whole := 0
		for cut := range len(b) + 1 {
			if whole < len(l) && ends[whole+1] == cut {
				whole++
			}
			checkFrames(t, fmt.Sprintf("round %d, %d frames cut at %d", round, len(l), cut), b[:cut], l[:whole], ends[whole], impl.FrameMore)
		}
		// Read on from the place that was told, the rest comes.
		cut := d.draw(len(b) + 1)
		one, place, _ := impl.ReadFrames(b[:cut])
		two, rest, code := impl.ReadFrames(b[place:])
		if !slices.EqualFunc(append(one, two...), l, sameFrame) || place+rest != len(b) || code != impl.FrameMore {
			t.Errorf("round %d: cut at %d and read on: place %d, code %d", round, cut, place+rest, code)
		}
	}
}

func TestFramesLeaveTheirBodiesAlone(t *testing.T) {
	for _, length := range []int{0, 1, 5, 999, 1000, 1001} {
		for _, spare := range []int{0, 1, 40} {
			body, all := roomy(strings.Repeat("b", length), spare)
			before := string(all)
			f := impl.Frame{Kind: impl.FrData, Stream: 1, Body: body}
			title := fmt.Sprintf("%d bytes with %d spare", length, spare)
			ok, code, one, two := impl.FrameOk(f), impl.FrameCode(f), impl.PutFrame(f), impl.PutFrame(f)
			if ok != (length <= 1000) || ok != (code == impl.FrameGood) {
				t.Errorf("%s: FrameOk is %v, FrameCode %d", title, ok, code)
			}
			if string(all) != before {
				t.Errorf("%s: the body is written into", title)
			}
			answer := string(one)
			turnAll(two)
			if string(all) != before || string(one) != answer {
				t.Errorf("%s: an answer shares memory", title)
			}
			turnAll(all)
			if string(one) != answer {
				t.Errorf("%s: the answer changes with the body", title)
			}
		}
	}
}

func TestGetFrameLeavesItsArgumentAlone(t *testing.T) {
	good := frameBytes(impl.Frame{Kind: impl.FrData, Stream: 1, Body: []byte("body")})
	for _, data := range []string{"", "h", good, good + "tail", good[:8], good[:9], good[:12], good[:9] + "1234567", headBytes(1001, 0, 0, 1), headBytes(0, 4, 0, 0)} {
		for _, spare := range []int{0, 1, 40} {
			for _, at := range []int{-1, 0, 1, len(data), len(data) + 1} {
				b, all := roomy(data, spare)
				before := string(all)
				title := fmt.Sprintf("%.20x with %d spare, at %d", data, spare, at)
				one, next, code := impl.GetFrame(b, at)
				two, _, _ := impl.GetFrame(b, at)
				if string(all) != before {
					t.Errorf("%s: the bytes are written into", title)
				}
				kept := string(one.Body)
				turnAll(two.Body)
				if string(all) != before || string(one.Body) != kept {
					t.Errorf("%s: an answer shares memory", title)
				}
				turnAll(all)
				if string(one.Body) != kept {
					t.Errorf("%s: the answer changes with the bytes", title)
				}
				// Without the spare room the answer is the same one.
				plain, place, c := impl.GetFrame(slices.Clip([]byte(data)), at)
				if !sameFrame(plain, one) || place != next || c != code {
					t.Errorf("%s: %s, %d, %d, not %s, %d, %d", title, frameTitle(one), next, code, frameTitle(plain), place, c)
				}
			}
		}
	}
}

func TestReadFramesLeavesItsArgumentAlone(t *testing.T) {
	data := ""
	for i := range 5 {
		data += frameBytes(impl.Frame{Kind: i, Stream: 1, Body: bytes.Repeat([]byte{byte(i)}, 2*i)})
	}
	for _, tail := range []string{"", "tail", headBytes(1001, 0, 0, 1)} {
		for _, spare := range []int{0, 1, 40} {
			b, all := roomy(data+tail, spare)
			before := string(all)
			l, _, _ := impl.ReadFrames(b)
			other, _, _ := impl.ReadFrames(b)
			if string(all) != before {
				t.Errorf("%q, %d spare: the bytes are written into", tail, spare)
			}
			if len(l) != 5 || len(other) != 5 {
				t.Fatalf("%q, %d spare: %d and %d frames", tail, spare, len(l), len(other))
			}
			for i, f := range other {
				turnAll(f.Body)
				other[i] = impl.Frame{Kind: 99}
			}
			checkBodies(t, l, -1)
			if string(all) != before {
				t.Errorf("%q, %d spare: the bytes change with the answer", tail, spare)
			}
			turnAll(all)
			checkBodies(t, l, -1)
		}
	}
}

// checkBodies asks that each frame but one has the body that its kind tells of.
func checkBodies(t *testing.T, l []impl.Frame, but int) {
	t.Helper()
	for i, f := range l {
		want := impl.Frame{Kind: i, Stream: 1, Body: bytes.Repeat([]byte{byte(i)}, 2*i)}
		if i != but && !sameFrame(f, want) {
			t.Errorf("frame %d changed (by %d): %s, %x", i, but, frameTitle(f), f.Body)
		}
	}
}

// No Body shares memory with another one's, not even in the room behind it.
func TestBodiesOfFramesShareNoMemory(t *testing.T) {
	data := ""
	for i := range 8 {
		data += frameBytes(impl.Frame{Kind: i, Stream: 1, Body: bytes.Repeat([]byte{byte(i)}, 2*i)})
	}
	for i := range 8 {
		l, _, _ := impl.ReadFrames([]byte(data))
		if len(l) != 8 {
			t.Fatalf("%d frames", len(l))
		}
		turnAll(l[i].Body)
		_ = append(l[i].Body, "behind it"...)
		checkBodies(t, l, i)
	}
}

// No call keeps anything: what is refused leaves nothing behind.
func TestFramesAreReadAlikeAgain(t *testing.T) {
	good := impl.Frame{Kind: impl.FrHeaders, Flags: 4, Stream: 5, Body: []byte("fields")}
	b := []byte(frameBytes(good))
	for range 3 {
		checkNoFrame(t, "cut", b[:10], 0, impl.FrameMore)
		checkNoFrame(t, "too long", []byte(headBytes(1001, 1, 4, 5)), 0, impl.FrameSize)
		checkFrame(t, "good", b, 0, good, 15)
		checkFrames(t, "twice", append(slices.Clone(b), b...), []impl.Frame{good, good}, 30, impl.FrameMore)
	}
}
