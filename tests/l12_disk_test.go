package tests

import (
	"fmt"
	"slices"
	"strings"
	"testing"

	"loop.example/g00199/impl"
)

// sectorsOf has a sector for each part between the bars: "a||b" is a, an empty one and b; "" has none.
func sectorsOf(s string) []string {
	if s == "" {
		return nil
	}
	return strings.Split(s, "|")
}

func diskOf(now string, sure string) impl.Disk {
	return impl.Disk{Now: sectorsOf(now), Sure: sectorsOf(sure)}
}

// manySectors has so many of them, no two alike and none empty.
func manySectors(count int, begin string) []string {
	var l []string
	for i := range count {
		l = append(l, fmt.Sprint(begin, i))
	}
	return l
}

func bigDisk(count int) impl.Disk {
	return impl.Disk{Now: manySectors(count, "now"), Sure: manySectors(count, "sure")}
}

// longSector has so many bytes, of any value.
func longSector(count int) string {
	b := make([]byte, count)
	for i := range b {
		b[i] = byte(255 - 37*i)
	}
	return string(b)
}

// sectorPut is a list with this one at i, and l as it was.
func sectorPut(l []string, i int, s string) []string {
	l = slices.Clone(l)
	l[i] = s
	return l
}

func sameDisk(a impl.Disk, b impl.Disk) bool {
	return slices.Equal(a.Now, b.Now) && slices.Equal(a.Sure, b.Sure)
}

func diskTitle(d impl.Disk) string {
	return fmt.Sprintf("%d now %.60q, %d sure %.60q", len(d.Now), fmt.Sprint(d.Now), len(d.Sure), fmt.Sprint(d.Sure))
}

func checkDiskOk(t *testing.T, d impl.Disk, want bool) {
	t.Helper()
	if got := impl.DiskOk(d); got != want {
		t.Errorf("DiskOk of (%s) is %v", diskTitle(d), got)
	}
}

func checkSector(t *testing.T, d impl.Disk, i int, want string) {
	t.Helper()
	if got := impl.SectorAt(d, i); got != want {
		t.Errorf("SectorAt %d of (%s) is %q, not %q", i, diskTitle(d), got, want)
	}
}

// checkPut asks for a Disk whose i-th is s as it is read, with all else as it was, and for true.
func checkPut(t *testing.T, d impl.Disk, i int, s string) {
	t.Helper()
	want := impl.Disk{Now: sectorPut(d.Now, i, s), Sure: d.Sure}
	if got, ok := impl.PutSector(d, i, s); !ok || !sameDisk(got, want) || !impl.DiskOk(got) || impl.SectorAt(got, i) != s {
		t.Errorf("PutSector %d %q of (%s): (%s), %v", i, s, diskTitle(d), diskTitle(got), ok)
	}
}

func checkNoPut(t *testing.T, d impl.Disk, i int, s string) {
	t.Helper()
	if got, ok := impl.PutSector(d, i, s); ok || !sameDisk(got, d) {
		t.Errorf("PutSector %d %q of (%s): (%s), %v, not the Disk and false", i, s, diskTitle(d), diskTitle(got), ok)
	}
}

func checkFlush(t *testing.T, d impl.Disk) {
	t.Helper()
	if got := impl.FlushDisk(d); !sameDisk(got, impl.Disk{Now: d.Now, Sure: d.Now}) {
		t.Errorf("FlushDisk of (%s) is (%s)", diskTitle(d), diskTitle(got))
	}
}

// checkFall asks for a Disk both of whose lists are left.
func checkFall(t *testing.T, d impl.Disk, kept []bool, left []string) {
	t.Helper()
	if got := impl.FallDisk(d, kept); !sameDisk(got, impl.Disk{Now: left, Sure: left}) {
		t.Errorf("FallDisk of (%s), kept %.60v: (%s), not %.60q", diskTitle(d), kept, diskTitle(got), left)
	}
}

func checkNoFall(t *testing.T, d impl.Disk, kept []bool) {
	t.Helper()
	if got := impl.FallDisk(d, kept); !sameDisk(got, d) {
		t.Errorf("FallDisk of (%s), kept %.60v: (%s), not the Disk", diskTitle(d), kept, diskTitle(got))
	}
}

// leftOf tells by the chapter's words what outlives a crash.
func leftOf(d impl.Disk, kept []bool) []string {
	var left []string
	for i := range d.Now {
		one := d.Sure[i]
		if i < len(kept) {
			if kept[i] {
				one = d.Now[i]
			}
		}
		left = append(left, one)
	}
	return left
}

// keptBy has a flag for each letter: y is true.
func keptBy(letters string) []bool {
	var kept []bool
	for _, c := range letters {
		kept = append(kept, c == 'y')
	}
	return kept
}

// keptMixes are shorter than the sectors of a Disk, as long, and longer.
func keptMixes() []string {
	return []string{"", "y", "n", "nyn", "yyyyy", "nnnnn", strings.Repeat("yn", 100), strings.Repeat("y", 201), strings.Repeat("n", 1000)}
}

// wrongDisks are not DiskOk, in each way.
func wrongDisks() []impl.Disk {
	l := []impl.Disk{
		diskOf("a|b|c", "x|y"), diskOf("a|b", "x|y|z"), diskOf("a|b|c", ""), diskOf("", "x|y|z"), {Now: []string{""}}, {Sure: []string{""}},
		bigDisk(201), bigDisk(202), bigDisk(256), bigDisk(456), bigDisk(1000),
		{Now: manySectors(200, "now"), Sure: manySectors(201, "sure")}, {Now: manySectors(201, "now"), Sure: manySectors(200, "sure")},
		{Now: manySectors(199, "now"), Sure: manySectors(200, "sure")}, {Now: manySectors(256, "now")}, {Sure: manySectors(256, "sure")},
		{Now: make([]string, 201), Sure: make([]string, 201)},
	}
	for _, size := range []int{65, 66, 128, 256, 320, 1000} {
		long := longSector(size)
		for _, i := range []int{0, 2, 4} {
			d := diskOf("a|b|c|d|e", "v|w|x|y|z")
			l = append(l, impl.Disk{Now: sectorPut(d.Now, i, long), Sure: d.Sure}, impl.Disk{Now: d.Now, Sure: sectorPut(d.Sure, i, long)})
			l = append(l, impl.Disk{Now: sectorPut(d.Now, i, long), Sure: sectorPut(d.Sure, i, long)})
		}
		l = append(l, impl.Disk{Now: []string{long}, Sure: []string{""}}, impl.Disk{Now: []string{""}, Sure: []string{long}})
	}
	for _, i := range []int{0, 100, 199} {
		d := bigDisk(200)
		l = append(l, impl.Disk{Now: sectorPut(d.Now, i, longSector(65)), Sure: d.Sure}, impl.Disk{Now: d.Now, Sure: sectorPut(d.Sure, i, longSector(65))})
	}
	return l
}

// goodDisks are DiskOk, with sectors that are sure and such that are not.
func goodDisks() []impl.Disk {
	full := longSector(64)
	return []impl.Disk{
		{}, {Now: []string{}, Sure: []string{}}, diskOf("a", "x"), {Now: []string{""}, Sure: []string{""}}, {Now: []string{full}, Sure: []string{""}}, {Now: []string{""}, Sure: []string{full}},
		diskOf("a|b", "x|y"), diskOf("a|b|c", "x|y|z"), diskOf("a||c", "|y|"), diskOf("a|a|a|a", "a|a|a|a"), diskOf("a|b|c|d|e", "v|w|x|y|z"),
		{Now: []string{full, "", full, "b"}, Sure: []string{"x", full, full, ""}}, {Now: slices.Repeat([]string{full}, 200), Sure: make([]string, 200)},
		bigDisk(8), bigDisk(63), bigDisk(64), bigDisk(65), bigDisk(199), bigDisk(200),
	}
}

func TestConstantsOfTheDisk(t *testing.T) {
	if impl.MaxSectors != 200 || impl.SectorLen != 64 {
		t.Errorf("MaxSectors is %d, SectorLen is %d", impl.MaxSectors, impl.SectorLen)
	}
}

func TestDiskNew(t *testing.T) {
	for _, n := range []int{0, 1, 2, 3, 63, 64, 65, 100, 198, 199, 200} {
		d := impl.DiskNew(n)
		if !sameDisk(d, impl.Disk{Now: make([]string, n), Sure: make([]string, n)}) {
			t.Errorf("DiskNew of %d is (%s)", n, diskTitle(d))
		}
		checkDiskOk(t, d, true)
	}
}

func TestDiskNewOfNoCount(t *testing.T) {
	for _, n := range slices.Concat([]int{-200, -2, -1, 201, 202, 255, 256, 257, 1000}, greatNumbers) {
		d := impl.DiskNew(n)
		if !sameDisk(d, impl.Disk{}) {
			t.Errorf("DiskNew of %d is (%s), not one without sectors", n, diskTitle(d))
		}
		checkDiskOk(t, d, true)
	}
}

func TestDiskOk(t *testing.T) {
	for _, d := range goodDisks() {
		checkDiskOk(t, d, true)
	}
	checkDiskOk(t, impl.Disk{Now: nil, Sure: []string{}}, true)
	checkDiskOk(t, impl.Disk{Now: []string{}, Sure: nil}, true)
}

func TestDiskOkOfEachLength(t *testing.T) {
	for now := range 8 {
		for sure := range 8 {
			checkDiskOk(t, impl.Disk{Now: make([]string, now), Sure: make([]string, sure)}, now == sure)
		}
	}
	for _, now := range []int{0, 1, 199, 200, 201, 202, 400} {
		for _, sure := range []int{0, 1, 199, 200, 201, 202, 400} {
			checkDiskOk(t, impl.Disk{Now: manySectors(now, "n"), Sure: manySectors(sure, "s")}, now == sure && now <= 200)
		}
	}
}

func TestDiskOkOfEachSector(t *testing.T) {
	for _, count := range []int{1, 2, 3, 5, 200} {
		for _, size := range []int{0, 1, 63, 64, 65, 66, 128, 256, 320} {
			s := longSector(size)
			for i := range count {
				d := bigDisk(count)
				checkDiskOk(t, impl.Disk{Now: sectorPut(d.Now, i, s), Sure: d.Sure}, size <= 64)
				checkDiskOk(t, impl.Disk{Now: d.Now, Sure: sectorPut(d.Sure, i, s)}, size <= 64)
			}
		}
	}
}

// A sector is as long as its bytes are many, whatever letters they make.
func TestDiskOkCountsBytes(t *testing.T) {
	for _, letter := range []string{"é", "€", "😀"} {
		fits := strings.Repeat(letter, 64/len(letter))
		checkDiskOk(t, impl.Disk{Now: []string{fits}, Sure: []string{fits}}, true)
		checkPut(t, impl.DiskNew(1), 0, fits)
		long := strings.Repeat(letter, 64/len(letter)+1)
		checkDiskOk(t, impl.Disk{Now: []string{long}, Sure: []string{""}}, false)
		checkDiskOk(t, impl.Disk{Now: []string{""}, Sure: []string{long}}, false)
		checkNoPut(t, impl.DiskNew(1), 0, long)
	}
}

func TestDiskOkOfWrongDisks(t *testing.T) {
	for _, d := range wrongDisks() {
		checkDiskOk(t, d, false)
	}
}

// checkEachSector asks for Now's, at each place that there is.
func checkEachSector(t *testing.T, disks []impl.Disk) {
	t.Helper()
	for _, d := range disks {
		for i, want := range d.Now {
			checkSector(t, d, i, want)
		}
	}
}

func TestSectorAt(t *testing.T) {
	checkEachSector(t, goodDisks())
	checkSector(t, diskOf("a|b|c", "x|y|z"), 0, "a")
	checkSector(t, diskOf("a|b|c", "x|y|z"), 2, "c")
}

// SectorAt asks for no right Disk: Now's i-th it is, or nothing.
func TestSectorAtOfWrongDisks(t *testing.T) {
	checkEachSector(t, wrongDisks())
	checkSector(t, diskOf("a|b|c", "x"), 2, "c")
	checkSector(t, diskOf("a|b|c", ""), 0, "a")
	checkSector(t, diskOf("a", "x|y|z"), 1, "")
	checkSector(t, diskOf("", "x|y|z"), 0, "")
}

func TestSectorAtOfNoPlace(t *testing.T) {
	for _, d := range slices.Concat(goodDisks(), wrongDisks()) {
		count := len(d.Now)
		for _, i := range slices.Concat([]int{-1, -2, -count, -count - 1, count, count + 1, count + 200}, greatNumbers) {
			checkSector(t, d, i, "")
		}
	}
}

func TestPutSector(t *testing.T) {
	for _, d := range goodDisks() {
		for i := range d.Now {
			for _, s := range []string{"", "q", d.Now[i], d.Sure[i], "\x00", "\xff\xfe", "a\n|b", longSector(63), longSector(64)} {
				checkPut(t, d, i, s)
			}
		}
	}
}

func TestPutSectorOfAnyByte(t *testing.T) {
	d := diskOf("a|b|c", "x|y|z")
	for c := range 256 {
		checkPut(t, d, c%3, string([]byte{byte(c)}))
		checkPut(t, d, c%3, strings.Repeat(string([]byte{byte(c)}), 64))
		checkNoPut(t, d, c%3, strings.Repeat(string([]byte{byte(c)}), 65))
	}
}

func TestPutSectorOfNoPlace(t *testing.T) {
	for _, d := range goodDisks() {
		count := len(d.Now)
		for _, i := range slices.Concat([]int{-1, -2, -count - 1, count, count + 1, count + 200}, greatNumbers) {
			for _, s := range []string{"", "q", longSector(64), longSector(65)} {
				checkNoPut(t, d, i, s)
			}
		}
	}
}

func TestPutSectorOfALongText(t *testing.T) {
	for _, d := range goodDisks() {
		for i := range d.Now {
			for _, size := range []int{65, 66, 127, 128, 256, 320, 65536} {
				checkNoPut(t, d, i, longSector(size))
			}
		}
	}
}

// A text that fits does not mend a Disk that is wrong, not even in the place of what is wrong.
func TestPutSectorOfWrongDisks(t *testing.T) {
	for _, d := range wrongDisks() {
		count := len(d.Now)
		for _, i := range []int{0, 1, 2, 4, 100, 199, 200, count - 1, count, -1} {
			for _, s := range []string{"", "q", longSector(64), longSector(65)} {
				checkNoPut(t, d, i, s)
			}
		}
	}
}

// What was put is read, and the others are as they were, behind many puts, too.
func TestWhatWasPutIsRead(t *testing.T) {
	for _, count := range []int{1, 2, 5, 200} {
		d := impl.DiskNew(count)
		for i := range count {
			d, _ = impl.PutSector(d, i, fmt.Sprint("first ", i))
		}
		for i := count - 1; i >= 0; i -= 2 {
			d, _ = impl.PutSector(d, i, fmt.Sprint("second ", i))
		}
		for i := range count {
			want := fmt.Sprint("first ", i)
			if (count-1-i)%2 == 0 {
				want = fmt.Sprint("second ", i)
			}
			checkSector(t, d, i, want)
			if d.Sure[i] != "" {
				t.Errorf("of %d sectors, %d is sure as %q", count, i, d.Sure[i])
			}
		}
	}
}

func TestFlushDisk(t *testing.T) {
	for _, d := range goodDisks() {
		checkFlush(t, d)
		checkFlush(t, impl.FlushDisk(d))
		checkDiskOk(t, impl.FlushDisk(d), true)
	}
}

func TestFlushDiskBehindPuts(t *testing.T) {
	d := impl.DiskNew(3)
	d, _ = impl.PutSector(d, 2, "c")
	d, _ = impl.PutSector(d, 0, "a")
	d = impl.FlushDisk(d)
	if want := diskOf("a||c", "a||c"); !sameDisk(d, want) {
		t.Errorf("made sure: (%s)", diskTitle(d))
	}
	d, _ = impl.PutSector(d, 0, "b")
	if want := diskOf("b||c", "a||c"); !sameDisk(d, want) {
		t.Errorf("put again: (%s)", diskTitle(d))
	}
	d = impl.FlushDisk(d)
	if want := diskOf("b||c", "b||c"); !sameDisk(d, want) {
		t.Errorf("made sure again: (%s)", diskTitle(d))
	}
}

// FlushDisk asks for no right Disk: Sure is Now, however long either is.
func TestFlushDiskOfWrongDisks(t *testing.T) {
	for _, d := range wrongDisks() {
		checkFlush(t, d)
	}
}

func TestFallDisk(t *testing.T) {
	d := diskOf("a|b|c|d", "w|x|y|z")
	for letters, left := range map[string]string{
		"":       "w|x|y|z",
		"y":      "a|x|y|z",
		"n":      "w|x|y|z",
		"ny":     "w|b|y|z",
		"nny":    "w|x|c|z",
		"nnny":   "w|x|y|d",
		"ynyn":   "a|x|c|z",
		"nyny":   "w|b|y|d",
		"ynny":   "a|x|y|d",
		"yyyn":   "a|b|c|z",
		"yyyy":   "a|b|c|d",
		"nnnn":   "w|x|y|z",
		"yyyyy":  "a|b|c|d",
		"nnnnyy": "w|x|y|z",
		"nyynny": "w|b|c|z",
	} {
		checkFall(t, d, keptBy(letters), sectorsOf(left))
	}
	checkFall(t, d, []bool{}, sectorsOf("w|x|y|z"))
	checkFall(t, d, nil, sectorsOf("w|x|y|z"))
}

// Each mix of flags, as few and as many as there are sectors, and more.
func TestFallDiskOfEachMix(t *testing.T) {
	for count := range 6 {
		d := bigDisk(count)
		for flags := range count + 3 {
			for mix := range 1 << flags {
				kept := make([]bool, flags)
				for i := range kept {
					kept[i] = mix>>i&1 == 1
				}
				checkFall(t, d, kept, leftOf(d, kept))
			}
		}
	}
}

func TestFallDiskOfManySectors(t *testing.T) {
	for _, d := range goodDisks() {
		count := len(d.Now)
		for _, flags := range []int{0, 1, count / 2, count, count + 1, 199, 200, 201, 1000} {
			checkFall(t, d, make([]bool, flags), d.Sure)
			all := slices.Repeat([]bool{true}, flags)
			checkFall(t, d, all, leftOf(d, all))
			if flags >= count {
				checkFall(t, d, all, d.Now)
			}
			for i := range min(flags, 70) {
				one := make([]bool, flags)
				one[i] = true
				checkFall(t, d, one, leftOf(d, one))
				all[i] = false
				checkFall(t, d, all, leftOf(d, all))
				all[i] = true
			}
		}
	}
}

func TestFallDiskOfPuts(t *testing.T) {
	d := impl.DiskNew(4)
	d, _ = impl.PutSector(d, 0, "a")
	d, _ = impl.PutSector(d, 1, "b")
	checkFall(t, d, nil, sectorsOf("|||"))
	checkFall(t, d, keptBy("ny"), sectorsOf("|b||"))
	checkFall(t, d, keptBy("yyyy"), sectorsOf("a|b||"))
	d = impl.FlushDisk(d)
	d, _ = impl.PutSector(d, 1, "B")
	d, _ = impl.PutSector(d, 2, "C")
	d, _ = impl.PutSector(d, 0, "")
	checkFall(t, d, nil, sectorsOf("a|b||"))
	checkFall(t, d, keptBy("nyyy"), sectorsOf("a|B|C|"))
	checkFall(t, d, keptBy("yn"), sectorsOf("|b||"))
	d = impl.FallDisk(d, keptBy("ynyy"))
	d, _ = impl.PutSector(d, 3, "d")
	checkFall(t, d, keptBy("yyyn"), sectorsOf("|b|C|"))
	checkFall(t, d, keptBy("nnny"), sectorsOf("|b|C|d"))
}

func TestFallDiskOfWrongDisks(t *testing.T) {
	for _, d := range wrongDisks() {
		for _, letters := range keptMixes() {
			checkNoFall(t, d, keptBy(letters))
		}
	}
}

// What was just made sure outlives a crash, whatever is kept.
func TestFallDiskOfWhatIsSure(t *testing.T) {
	for _, d := range goodDisks() {
		sure := impl.FlushDisk(d)
		for _, letters := range keptMixes() {
			checkFall(t, sure, keptBy(letters), d.Now)
			fallen := impl.FallDisk(d, keptBy(letters))
			checkFall(t, fallen, nil, fallen.Now)
			checkFall(t, fallen, keptBy("yn"), fallen.Now)
		}
	}
}

func (d *drawer) sector() string {
	return string(d.bytes(drawn(d, 0, 1, 5, 63, 64, d.draw(65))))
}

func (d *drawer) kept(most int) []bool {
	kept := make([]bool, d.draw(most+1))
	for i := range kept {
		kept[i] = d.draw(2) == 0
	}
	return kept
}

// A plainDisk keeps by the place what was put and what was made sure; what it lacks is empty.
type plainDisk struct {
	count     int
	now, sure map[int]string
}

func (p plainDisk) disk() impl.Disk {
	d := impl.Disk{}
	for i := range p.count {
		d.Now, d.Sure = append(d.Now, p.now[i]), append(d.Sure, p.sure[i])
	}
	return d
}

func (p plainDisk) puts(i int, s string) bool {
	if i < 0 || i >= p.count || len(s) > 64 {
		return false
	}
	p.now[i] = s
	return true
}

func (p plainDisk) flushes() {
	for i, s := range p.now {
		p.sure[i] = s
	}
}

func (p plainDisk) falls(kept []bool) {
	for i := range p.count {
		if i >= len(kept) || !kept[i] {
			p.now[i] = p.sure[i]
		}
	}
	p.flushes()
}

// Drawn calls one behind the other are as those of a plain model.
func TestDrawnDisks(t *testing.T) {
	d := drawer(12)
	for round := range 300 {
		count := drawn(&d, 0, 1, 2, 3, 5, d.draw(20), 199, 200)
		disk, plain := impl.DiskNew(count), plainDisk{count, map[int]string{}, map[int]string{}}
		for step := range 60 {
			switch d.draw(8) {
			case 0:
				plain.flushes()
				disk = impl.FlushDisk(disk)
			case 1:
				kept := d.kept(count + 3)
				plain.falls(kept)
				disk = impl.FallDisk(disk, kept)
			default:
				i, s := d.draw(count+3)-1, d.sector()
				if d.draw(10) == 0 {
					s = string(d.bytes(65 + d.draw(300)))
				}
				want := plain.puts(i, s)
				var ok bool
				if disk, ok = impl.PutSector(disk, i, s); ok != want {
					t.Fatalf("round %d, step %d: PutSector %d of %d, with %d bytes, is %v", round, step, i, count, len(s), ok)
				}
			}
			if !sameDisk(disk, plain.disk()) || !impl.DiskOk(disk) {
				t.Fatalf("round %d, step %d: (%s), not (%s)", round, step, diskTitle(disk), diskTitle(plain.disk()))
			}
		}
	}
}

// Promise 12: behind a crash each sector is as it was made sure, or as it was, as kept tells.
func TestBehindACrash(t *testing.T) {
	d := drawer(1212)
	for range 2000 {
		count := drawn(&d, 0, 1, 2, 3, 5, d.draw(20), 200)
		disk := impl.Disk{}
		for range count {
			disk.Now, disk.Sure = append(disk.Now, d.sector()), append(disk.Sure, d.sector())
		}
		kept := d.kept(count + 3)
		fallen := impl.FallDisk(disk, kept)
		if !impl.DiskOk(fallen) || len(fallen.Now) != count || !slices.Equal(fallen.Now, fallen.Sure) {
			t.Fatalf("FallDisk of (%s): (%s)", diskTitle(disk), diskTitle(fallen))
		}
		for i, s := range fallen.Now {
			if stays := i < len(kept) && kept[i]; stays && s != disk.Now[i] || !stays && s != disk.Sure[i] {
				t.Fatalf("FallDisk of (%s), kept %v: %d is %q", diskTitle(disk), kept, i, s)
			}
		}
		checkFall(t, impl.FlushDisk(disk), kept, disk.Now)
	}
}

// spareSector fills the room behind a list of sectors, so that a write there is seen.
const spareSector = "spare"

// roomySectors is a list of these sectors with spare room behind it, and all of its memory.
func roomySectors(l []string, spare int) ([]string, []string) {
	all := slices.Concat(l, slices.Repeat([]string{spareSector}, spare))
	return all[:len(l)], all
}

// turnSectors changes each sector of a list, those of its spare room, too.
func turnSectors(l []string) {
	l = l[:cap(l)]
	for i := range l {
		l[i] += "turned"
	}
}

// diskCalls are the calls that answer a Disk, at right and at wrong places.
func diskCalls() map[string]func(impl.Disk) impl.Disk {
	calls := map[string]func(impl.Disk) impl.Disk{"FlushDisk": impl.FlushDisk}
	for _, i := range []int{-1, 0, 1, 2, 3, 7, 199, 200} {
		for _, s := range []string{"", "q", longSector(64), longSector(65)} {
			calls[fmt.Sprintf("PutSector %d %.9q", i, s)] = func(d impl.Disk) impl.Disk {
				next, _ := impl.PutSector(d, i, s)
				return next
			}
		}
	}
	for _, letters := range []string{"", "y", "n", "nyn", "ynyynnyy", strings.Repeat("y", 250), strings.Repeat("n", 250)} {
		calls["FallDisk "+letters] = func(d impl.Disk) impl.Disk { return impl.FallDisk(d, keptBy(letters)) }
	}
	return calls
}

// checkDiskMemory asks: nothing is written, nothing is shared, and the spare room tells nothing.
func checkDiskMemory(t *testing.T, title string, d impl.Disk, spare int, call func(impl.Disk) impl.Disk) {
	t.Helper()
	title = fmt.Sprintf("%s of (%s) with %d spare", title, diskTitle(d), spare)
	now, allNow := roomySectors(d.Now, spare)
	sure, allSure := roomySectors(d.Sure, spare)
	keptNow, keptSure := slices.Clone(allNow), slices.Clone(allSure)
	want := call(impl.Disk{Now: slices.Clip(slices.Clone(d.Now)), Sure: slices.Clip(slices.Clone(d.Sure))})
	got := call(impl.Disk{Now: now, Sure: sure})
	if !sameDisk(got, want) {
		t.Fatalf("%s: the spare room is seen: (%s)", title, diskTitle(got))
	}
	if !slices.Equal(allNow, keptNow) || !slices.Equal(allSure, keptSure) {
		t.Fatalf("%s: the argument is written", title)
	}
	turnSectors(allNow)
	turnSectors(allSure)
	if !sameDisk(got, want) {
		t.Fatalf("%s: the answer shares memory with the argument", title)
	}
	turnedNow, turnedSure := slices.Clone(allNow), slices.Clone(allSure)
	turnSectors(got.Now)
	if !slices.Equal(got.Sure, want.Sure) {
		t.Fatalf("%s: the answer's lists share memory", title)
	}
	turnSectors(got.Sure)
	if !slices.Equal(allNow, turnedNow) || !slices.Equal(allSure, turnedSure) {
		t.Fatalf("%s: the argument shares memory with the answer", title)
	}
}

func TestMemoryOfTheDisk(t *testing.T) {
	for _, d := range slices.Concat(goodDisks(), wrongDisks()) {
		for title, call := range diskCalls() {
			for _, spare := range []int{0, 1, 2, 40} {
				checkDiskMemory(t, title, d, spare, call)
			}
		}
	}
}

// The spare room of an answer's one list is not the other's: what is appended to one is not seen in the other, nor in the argument.
func TestRoomBehindTheAnswer(t *testing.T) {
	for _, d := range slices.Concat(goodDisks(), wrongDisks()) {
		for title, call := range diskCalls() {
			one := call(d)
			want := call(d)
			now, sure := append(one.Now, "more now"), append(one.Sure, "more sure")
			if !sameDisk(one, want) || now[len(now)-1] != "more now" || sure[len(sure)-1] != "more sure" {
				t.Fatalf("%s of (%s): the spare room is shared", title, diskTitle(d))
			}
		}
	}
}

// Both lists of the argument may be the same memory: those of the answer are not.
func TestListsOfOneMemory(t *testing.T) {
	for _, count := range []int{0, 1, 3, 200, 201} {
		for title, call := range diskCalls() {
			l := manySectors(count, "both")
			kept := slices.Clone(l)
			got := call(impl.Disk{Now: l, Sure: l})
			want := call(impl.Disk{Now: slices.Clone(kept), Sure: slices.Clone(kept)})
			if !sameDisk(got, want) || !slices.Equal(l, kept) {
				t.Fatalf("%s of %d sectors in one memory: (%s)", title, count, diskTitle(got))
			}
			turnSectors(got.Now)
			if !slices.Equal(got.Sure, want.Sure) || !slices.Equal(l, kept) {
				t.Fatalf("%s of %d sectors in one memory: the answer shares it", title, count)
			}
		}
	}
}

// Sure may be the very room behind Now, and the other way round.
func TestListsBehindEachOther(t *testing.T) {
	for title, call := range diskCalls() {
		all := manySectors(8, "s")
		kept := slices.Clone(all)
		for _, d := range []impl.Disk{{Now: all[:4], Sure: all[4:]}, {Now: all[4:], Sure: all[:4]}, {Now: all[:4], Sure: all[2:6]}, {Now: all[:0], Sure: all[:0]}} {
			want := call(impl.Disk{Now: slices.Clone(d.Now), Sure: slices.Clone(d.Sure)})
			got := call(d)
			if !sameDisk(got, want) || !slices.Equal(all, kept) {
				t.Fatalf("%s of (%s): (%s), with the argument %v", title, diskTitle(d), diskTitle(got), all)
			}
			turnSectors(got.Now)
			turnSectors(got.Sure)
			if !slices.Equal(all, kept) {
				t.Fatalf("%s of (%s): the answer shares the argument's memory", title, diskTitle(d))
			}
		}
	}
}

// What is kept is neither written nor read behind its length.
func TestMemoryOfWhatIsKept(t *testing.T) {
	for _, d := range slices.Concat(goodDisks(), wrongDisks()) {
		for _, letters := range []string{"", "y", "n", "nyn", "yny"} {
			for _, behind := range []bool{false, true} {
				all := append(keptBy(letters), slices.Repeat([]bool{behind}, 300)...)
				kept := slices.Clone(all)
				got := impl.FallDisk(d, all[:len(letters)])
				if !sameDisk(got, impl.FallDisk(d, slices.Clip(keptBy(letters)))) {
					t.Errorf("FallDisk of (%s), kept %s, with %v behind it: (%s)", diskTitle(d), letters, behind, diskTitle(got))
				}
				if !slices.Equal(all, kept) {
					t.Errorf("FallDisk of (%s), kept %s: what is kept is written", diskTitle(d), letters)
				}
			}
		}
	}
}

func TestSpareRoomIsNotRead(t *testing.T) {
	for _, d := range slices.Concat(goodDisks(), wrongDisks()) {
		for _, spare := range []int{1, 40, 250} {
			now, allNow := roomySectors(d.Now, spare)
			sure, allSure := roomySectors(d.Sure, spare)
			kept := slices.Concat(allNow, allSure)
			arg := impl.Disk{Now: now, Sure: sure}
			checkDiskOk(t, arg, impl.DiskOk(d))
			checkSector(t, arg, len(now), "")
			checkNoPut(t, arg, len(now), "q")
			if !slices.Equal(slices.Concat(allNow, allSure), kept) {
				t.Errorf("(%s) with %d spare is written", diskTitle(d), spare)
			}
		}
	}
}

// Two answers of one call are apart, and what is done to one is not seen in the next.
func TestDisksOfTwoCallsAreApart(t *testing.T) {
	for _, n := range []int{1, 3, 200} {
		one := impl.DiskNew(n)
		turnSectors(one.Now)
		if !slices.Equal(one.Sure, make([]string, n)) {
			t.Errorf("DiskNew of %d: its lists share memory", n)
		}
		turnSectors(one.Sure)
		if two := impl.DiskNew(n); !sameDisk(two, impl.Disk{Now: make([]string, n), Sure: make([]string, n)}) {
			t.Errorf("DiskNew of %d hangs on the call ahead: (%s)", n, diskTitle(two))
		}
	}
	for title, call := range diskCalls() {
		d := diskOf("a|b|c", "x|y|z")
		one, two := call(d), call(d)
		turnSectors(one.Now)
		turnSectors(one.Sure)
		if three := call(d); !sameDisk(two, three) {
			t.Errorf("%s hangs on the call ahead: (%s), not (%s)", title, diskTitle(three), diskTitle(two))
		}
	}
}
