package field_test

import (
	"slices"
	"strings"
	"testing"

	"herald/api"
	"herald/field"
	"herald/lists"
)

// TestNumbersOfFieldsWritten: P13.1: the greatest number of plain fields, and one above it.
func TestNumbersOfFieldsWritten(t *testing.T) {
	q := api.Request{Method: "PUT", Scheme: "http", Authority: "a", Path: "/", Body: "not looked at"}
	r := api.Response{Status: 200, Body: "not looked at"}
	for n := range 70 {
		q.Fields, r.Fields = lists.Filled(nil, n), lists.Filled(nil, n)
		wantWriteRequest(t, q)
		wantWriteResponse(t, r)
		if l, e := field.WriteRequest(q); n <= 60 && (e != api.OK || len(l) != n+4) || n > 60 && e != api.ErrLong {
			t.Errorf("P13.1: WriteRequest with %d Fields: %d fields, %d", n, len(l), e)
		}
		if l, e := field.WriteResponse(r); n <= 63 && (e != api.OK || len(l) != n+1) || n > 63 && e != api.ErrLong {
			t.Errorf("P13.1: WriteResponse with %d Fields: %d fields, %d", n, len(l), e)
		}
	}
	q.Fields, r.Fields = make([]api.Field, 1<<16), make([]api.Field, 1<<16)
	wantWriteRequest(t, q)
	wantWriteResponse(t, r)
}

// TestOrderOfErrorsWritten: P13.1: ErrLong, then ErrField, then ErrHead, wherever the wrong things stand.
func TestOrderOfErrorsWritten(t *testing.T) {
	right := api.Request{Method: "GET", Scheme: "http", Authority: "a", Path: "/", Fields: lists.Of("a", "b")}
	for wrong := range 64 {
		q, r := right, api.Response{Status: 200, Fields: lists.Of("a", "b")}
		want := api.OK
		has := func(bit int, e api.Errno) bool {
			if wrong&(1<<bit) != 0 && (want == api.OK || e < want) {
				want = e
			}
			return wrong&(1<<bit) != 0
		}
		if has(0, api.ErrHead) {
			q.Method, r.Status = "", 1000
		}
		if has(1, api.ErrHead) {
			q.Fields = append(lists.Joined(q.Fields), p("upgrade", "h2c"))
		}
		if has(2, api.ErrHead) {
			q.Fields = append(lists.Joined(q.Fields), p(":path", "/"))
		}
		if has(3, api.ErrField) {
			q.Fields = append(lists.Joined(q.Fields), p("a", "b "))
		}
		if has(4, api.ErrField) {
			q.Fields = append(lists.Joined(q.Fields), p("A", "b"))
		}
		if has(5, api.ErrLong) {
			q.Fields = lists.Filled(q.Fields, 64)
		}
		r.Fields = q.Fields
		if l, e := field.WriteRequest(q); e != want {
			t.Errorf("P13.1: WriteRequest(%s) = %s, %d, want %d", lists.ShownRequest(q), lists.Shown(l), e, want)
		}
		if l, e := field.WriteResponse(r); e != want {
			t.Errorf("P13.1: WriteResponse(%s) = %s, %d, want %d", lists.ShownResponse(r), lists.Shown(l), e, want)
		}
		wantWriteRequest(t, q)
		wantWriteResponse(t, r)
	}
	for _, q := range []api.Request{
		{}, {Body: "b"},
		{Method: "GET", Scheme: "http", Authority: "a", Path: " /"}, {Method: "GET ", Scheme: "http", Authority: "a", Path: "/"},
		{Method: "GET", Scheme: "http\n", Authority: "a", Path: "/"}, {Method: "GET", Scheme: "http", Authority: strings.Repeat("a", 4097), Path: "/"},
		{Method: "GET", Scheme: "", Authority: "\x00", Path: ""},
	} {
		wantWriteRequest(t, q)
	}
	if _, e := field.WriteRequest(api.Request{Method: "", Scheme: "http", Authority: "a", Path: "/ "}); e != api.ErrField {
		t.Errorf("P13.1: WriteRequest with a wrong method and a path that is no value: %d", e)
	}
}

// TestStatusesWritten: P13.1: statuses of every size and sign.
func TestStatusesWritten(t *testing.T) {
	statuses := []int{least, least + 200, -1 << 32, -1<<32 + 200, -1 << 31, 1<<31 - 1, 1 << 31, 1<<32 + 200, 1<<16 + 200, 256 + 456, 1<<40 + 404, greatest, greatest - 200}
	for n := -1200; n <= 2200; n++ {
		statuses = append(statuses, n)
	}
	taken := 0
	for _, n := range statuses {
		r := api.Response{Status: n, Fields: lists.Of("a", "b"), Body: "b"}
		wantWriteResponse(t, r)
		l, e := field.WriteResponse(r)
		if e == api.OK {
			taken++
		}
		if (e == api.OK) != (n >= 100 && n <= 599) || e != api.OK && (e != api.ErrHead || l != nil) {
			t.Errorf("P13.1: WriteResponse of %d: %s, %d", n, lists.Shown(l), e)
		}
	}
	if taken != 500 {
		t.Errorf("P13.1: %d statuses are taken", taken)
	}
}

// anyLists are of right and of wrong fields.
func anyLists() [][]api.Field {
	long := strings.Repeat("n", 70000)
	return [][]api.Field{
		nil, {}, {{}}, {{}, {}}, lists.Of("a", "bc"), someRequest(), someResponse(),
		lists.Of("A", "1", "a", "2", "", "3", "a", "", ":a", "4", "a ", "5", "a\x00", "6", "\xff", "7", "a", "\n"),
		lists.Of(long, "v", "n", long, long, long, long[1:], "x"),
		lists.Filled(nil, 65), lists.Filled(someRequest(), 1000), make([]api.Field, 100000),
		{never("a", "1"), p("a", "1"), never("b", ""), never("", "b")},
		lists.Of("\u00e9", "1", "e\u0301", "2", "\xe9", "3", "\ufffd", "4", "\xff", "5"),
	}
}

// TestSizes: P13.1: of any list.
func TestSizes(t *testing.T) {
	for _, l := range anyLists() {
		want := int64(0)
		for _, f := range l {
			want += int64(len([]byte(f.Name+f.Value))) + 32
		}
		if n := field.Size(l); n != want {
			t.Errorf("P13.1: Size(%s) = %d, want %d", lists.Shown(l), n, want)
		}
	}
	for _, c := range []struct {
		l    []api.Field
		want int64
	}{
		{make([]api.Field, 1), 32}, {make([]api.Field, 65), 2080}, {lists.Of("", "\u00e9"), 34}, {lists.Of("a", ""), 33}, {lists.Of("\x00\x00", "\xff"), 35},
		{lists.Of(":method", "GET", ":path", "/"), 42 + 38}, {[]api.Field{never("a", "b")}, 34},
	} {
		if n := field.Size(c.l); n != c.want {
			t.Errorf("P13.1: Size(%s) = %d, want %d", lists.Shown(c.l), n, c.want)
		}
	}
}

// TestGreatSize: P13.1: a sum that four bytes don't hold.
func TestGreatSize(t *testing.T) {
	text := strings.Repeat("t", 1<<20)
	l := make([]api.Field, 5000)
	for i := range l {
		l[i] = p(text, text[1:])
	}
	if n := field.Size(l); n != 5000*(1<<21-1+32) {
		t.Errorf("P13.1: Size of 5000 great fields: %d", n)
	}
}

// TestValues: P13.1: of any list and any name, byte by byte.
func TestValues(t *testing.T) {
	names := []string{"", "a", "A", ":a", "a ", " a", "a\x00", "\xff", "\ufffd", "\u00e9", "e\u0301", "\xe9", "n", strings.Repeat("n", 70000), "accept", ":method", ":METHOD", ":status", "vary", "x-64", "x-999", "b"}
	for _, l := range anyLists() {
		all := 0
		for _, name := range names {
			want := []string{}
			for _, f := range l {
				if len(f.Name) == len(name) && strings.HasPrefix(f.Name, name) {
					want = append(want, f.Value)
				}
			}
			v := field.Values(l, name)
			if !slices.Equal(v, want) {
				t.Errorf("P13.1: Values(%s, %s) = %.40q, want %.40q", lists.Shown(l), lists.ShownText(name), v, want)
			}
			all += len(v)
		}
		if all > len(l) {
			t.Errorf("P13.1: Values of %s are %d", lists.Shown(l), all)
		}
	}
	l := lists.Of("a", "1", "A", "2", "a", "1", "b", "3", "a", "", "ab", "4", "", "5")
	for name, want := range map[string]string{"a": "1 1 ", "A": "2", "b": "3", "ab": "4", "": "5"} {
		if got := strings.Join(field.Values(l, name), " "); got != want {
			t.Errorf("P13.1: Values(%s, %q) = %q, want %q", lists.Shown(l), name, got, want)
		}
	}
}
