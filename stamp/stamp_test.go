package stamp

import (
	"cmp"
	"math"
	"math/rand"
	"strconv"
	"strings"
	"testing"
	"time"

	"apostille/api"
)

const layout = "20060102150405Z"

// libraryText is the library's word on a time's text.
func libraryText(t int64) string {
	return time.Unix(t, 0).UTC().Format(layout)
}

// libraryRead is the library's word on what a text of digits and Z is; it takes year 0 too, and texts in other ways.
func libraryRead(s string) (int64, bool) {
	at, err := time.Parse(layout, s)
	if err != nil || at.Year() < 1 || at.Format(layout) != s {
		return 0, false
	}
	return at.Unix(), true
}

// edges are times at the edges that the chapter names, and at those of the calendar's rules.
func edges() []int64 {
	l := []int64{firstTime, firstTime + 1, -1, 0, 1, lastTime - 1, lastTime, math.MinInt32, math.MaxInt32, math.MaxUint32}
	for _, year := range []int{1, 2, 4, 5, 99, 100, 101, 399, 400, 401, 1582, 1600, 1899, 1900, 1968, 1969, 1970, 1972, 1999, 2000, 2001, 2023, 2024, 2100, 9996, 9999} {
		for month := time.January; month <= time.December; month++ {
			begin := time.Date(year, month, 1, 0, 0, 0, 0, time.UTC).Unix()
			l = append(l, begin, begin+59, begin+60, begin+3599, begin+3600, begin+86399, begin+86400)
			if begin > firstTime {
				l = append(l, begin-1, begin-86400)
			}
		}
	}
	return l
}

// some are the edges, and many more.
func some() []int64 {
	l := edges()
	r := rand.New(rand.NewSource(3))
	for range 20000 {
		l = append(l, firstTime+r.Int63n(lastTime-firstTime+1))
	}
	return l
}

func TestTheChaptersExamples(t *testing.T) {
	if got := Text(0); got != "19700101000000Z" {
		t.Errorf("Text of 0: %q", got)
	}
	if got, err := Read("20230229000000Z"); got != 0 || err != api.ErrForm {
		t.Errorf("Read of a day that is none: %d, %v", got, err)
	}
	if got := Days(2024, 2); got != 29 {
		t.Errorf("Days of 2024, 2: %d", got)
	}
}

// P3.1
func TestDaysOfEachMonth(t *testing.T) {
	for year := 1; year <= 9999; year++ {
		for month := 1; month <= 12; month++ {
			want := time.Date(year, time.Month(month)+1, 0, 0, 0, 0, 0, time.UTC).Day()
			if got := Days(year, month); got != want {
				t.Fatalf("Days of %d, %d: %d, not %d", year, month, got, want)
			}
		}
	}
}

// P3.1
func TestDaysOfFebruary(t *testing.T) {
	for year, want := range map[int]int{1: 28, 4: 29, 100: 28, 200: 28, 400: 29, 1600: 29, 1700: 28, 1900: 28, 1996: 29, 1999: 28, 2000: 29, 2023: 28, 2024: 29, 2100: 28, 9996: 29, 9999: 28} {
		if got := Days(year, 2); got != want {
			t.Errorf("Days of %d, 2: %d, not %d", year, got, want)
		}
	}
}

// P3.1
func TestDaysOfNoMonth(t *testing.T) {
	wrong := []int{math.MinInt, math.MinInt32, -10000, -400, -4, -1, 0, 10000, 10001, 12000, math.MaxInt32, math.MaxInt}
	for _, year := range wrong {
		for _, month := range []int{1, 2, 6, 12, 0, 13} {
			if got := Days(year, month); got != 0 {
				t.Errorf("Days of %d, %d: %d", year, month, got)
			}
		}
	}
	for _, month := range append(wrong, -12, 13, 14, 24) {
		for _, year := range []int{1, 1970, 2000, 9999} {
			if got := Days(year, month); got != 0 {
				t.Errorf("Days of %d, %d: %d", year, month, got)
			}
		}
	}
}

// P3.2
func TestTextIsThatOfTheCalendar(t *testing.T) {
	for _, at := range some() {
		if got, want := Text(at), libraryText(at); got != want {
			t.Fatalf("Text of %d: %q, not %q", at, got, want)
		}
	}
	for at, want := range map[int64]string{
		-62135596800: "00010101000000Z",
		-62135596799: "00010101000001Z",
		-1:           "19691231235959Z",
		951782399:    "20000228235959Z",
		951782400:    "20000229000000Z",
		951868800:    "20000301000000Z",
		1709251199:   "20240229235959Z",
		253402300799: "99991231235959Z",
	} {
		if got := Text(at); got != want {
			t.Errorf("Text of %d: %q, not %q", at, got, want)
		}
	}
}

// P3.2
func TestTextOfNoTime(t *testing.T) {
	for _, at := range []int64{math.MinInt64, math.MinInt64 + 1, -1 << 62, -62135596802, -62135596801, 253402300800, 253402300801, 1 << 62, math.MaxInt64 - 1, math.MaxInt64} {
		if got := Text(at); got != "" {
			t.Errorf("Text of %d: %q", at, got)
		}
	}
}

// P3.2, P3.3
func TestReadOfText(t *testing.T) {
	for _, at := range some() {
		s := libraryText(at)
		got, err := Read(s)
		if got != at || err != api.OK {
			t.Fatalf("Read of %q: %d, %v; not %d", s, got, err, at)
		}
		if back := Text(got); back != s {
			t.Fatalf("Text of what Read tells of %q: %q", s, back)
		}
		if got, err := Read(Text(at)); got != at || err != api.OK {
			t.Fatalf("Read of Text of %d: %d, %v", at, got, err)
		}
	}
}

// wantRead holds what is read against the library's word, and against the way back.
func wantRead(t *testing.T, s string) {
	t.Helper()
	got, err := Read(s)
	want, ok := libraryRead(s)
	if !ok {
		if got != 0 || err != api.ErrForm {
			t.Fatalf("Read of %q: %d, %v; not ErrForm", s, got, err)
		}
		return
	}
	if got != want || err != api.OK || Text(got) != s {
		t.Fatalf("Read of %q: %d, %v; not %d", s, got, err, want)
	}
}

func digits(n, width int) string {
	s := strconv.Itoa(n)
	return strings.Repeat("0", width-len(s)) + s
}

// P3.2
func TestReadOfAllDays(t *testing.T) {
	for _, year := range []int{0, 1, 4, 100, 400, 1900, 1970, 2000, 2023, 2024, 9999} {
		for month := range 100 {
			for day := range 100 {
				wantRead(t, digits(year, 4)+digits(month, 2)+digits(day, 2)+"000000Z")
				wantRead(t, digits(year, 4)+digits(month, 2)+digits(day, 2)+"235959Z")
			}
		}
	}
	for year := range 10000 {
		for _, day := range []string{"0101", "0228", "0229", "0230", "0301", "1231", "1232", "0001", "1301", "0100"} {
			wantRead(t, digits(year, 4)+day+"120000Z")
		}
	}
}

// P3.2
func TestReadOfAllSeconds(t *testing.T) {
	for _, day := range []string{"00010101", "19700101", "20240229", "99991231"} {
		for a := range 100 {
			for b := range 100 {
				wantRead(t, day+digits(a, 2)+digits(b, 2)+"00Z")
				wantRead(t, day+digits(a, 2)+"00"+digits(b, 2)+"Z")
				wantRead(t, day+"23"+digits(a, 2)+digits(b, 2)+"Z")
			}
		}
	}
}

// P3.2
func TestReadOfOneOtherByte(t *testing.T) {
	for _, s := range []string{"19700101000000Z", "20240229235959Z", "00010101000000Z", "99991231235959Z", "20231130101010Z"} {
		for i := range s {
			for c := range 256 {
				b := []byte(s)
				b[i] = byte(c)
				wantRead(t, string(b))
			}
			wantRead(t, s[:i])
			wantRead(t, s[i+1:])
			wantRead(t, s[:i]+s[i+1:])
			for _, c := range "0Z z.+-" {
				wantRead(t, s[:i]+string(c)+s[i:])
			}
		}
		for _, more := range []string{"Z", "0", " ", "\n", "\x00", s} {
			if got, err := Read(s + more); got != 0 || err != api.ErrForm {
				t.Errorf("Read of %q: %d, %v", s+more, got, err)
			}
		}
	}
}

// P3.2
func TestReadOfWhatIsNoTime(t *testing.T) {
	for _, s := range []string{
		"", "Z", "0", "000000000000000", "ZZZZZZZZZZZZZZZ", "00000000000000Z", "00001231235959Z",
		"20230229000000Z", "19000229000000Z", "21000229000000Z", "20240230000000Z", "20240431000000Z", "20240631000000Z",
		"20240931000000Z", "20241131000000Z", "20240132000000Z", "20240100000000Z", "20240001000000Z", "20241301000000Z",
		"20240101240000Z", "20240101236000Z", "20240101235960Z", "20161231235960Z",
		"20240101000000z", "20240101000000", "20240101000000+", "2024010100000Z", "240101000000Z", "120240101000000Z",
		"20240101T00000Z", "2024-01-01 0:0Z", "+2024101000000Z", "-0010101000000Z", "2024+1+1+0+0+0Z", "2024 1 1 0 0 0Z",
		"20240101000000\x00", "2024010100000.Z", "0x240101000000Z", "2_24_101000000Z", "20240101000000.0Z", "20240101000000+0000",
		"٢٠٢٤010101Z", "２024010100Z9Z", "\xff\xff\xff\xff\xff\xff\xff\xff\xff\xff\xff\xff\xff\xff\xff",
		strings.Repeat("0", 1<<16), strings.Repeat("Z", 1<<16), "20240101000000Z" + strings.Repeat("Z", 1<<16-15),
	} {
		if got, err := Read(s); got != 0 || err != api.ErrForm {
			t.Errorf("Read of %q: %d, %v", s, got, err)
		}
	}
}

// P3.2, 0.1
func TestReadOfAnyText(t *testing.T) {
	r := rand.New(rand.NewSource(4))
	kinds := []string{"0123456789", "0123456789Z", "012", "01Z+-. "}
	for range 200000 {
		kind := kinds[r.Intn(len(kinds))]
		b := make([]byte, 14, 15)
		for i := range b {
			b[i] = kind[r.Intn(len(kind))]
		}
		wantRead(t, string(append(b, 'Z')))
	}
	for range 20000 {
		b := make([]byte, r.Intn(20))
		r.Read(b)
		if got, err := Read(string(b)); got != 0 || err != api.ErrForm {
			t.Fatalf("Read of %q: %d, %v", b, got, err)
		}
	}
}

// P3.4
func TestTheEarlierHasTheLesserText(t *testing.T) {
	l := some()
	for i, a := range l[1:] {
		for _, b := range []int64{l[i], a + 1, a - 1, a} {
			if b < firstTime || b > lastTime {
				continue
			}
			if got, want := cmp.Compare(Text(a), Text(b)), cmp.Compare(a, b); got != want {
				t.Fatalf("%d and %d: their texts compare by %d", a, b, got)
			}
		}
	}
}

// P3.4: a calendar that is walked day by day, with its own account of years and months.
func TestTheNextDay(t *testing.T) {
	at, last := int64(firstTime)+43261, ""
	for year := 1; year <= 9999; year++ {
		lengths := []int{31, 28, 31, 30, 31, 30, 31, 31, 30, 31, 30, 31}
		if year%400 == 0 || year%100 != 0 && year%4 == 0 {
			lengths[1] = 29
		}
		for month, days := range lengths {
			head := digits(year, 4) + digits(month+1, 2)
			for day := 1; day <= days; day++ {
				got := Text(at)
				if got != head+digits(day, 2)+"120101Z" {
					t.Fatalf("%d: %q, not %s and day %d", at, got, head, day)
				}
				if got <= last {
					t.Fatalf("%q is not behind %q", got, last)
				}
				at, last = at+86400, got
			}
		}
	}
	if got := Text(at); got != "" {
		t.Errorf("a day behind the last one: %q", got)
	}
}
