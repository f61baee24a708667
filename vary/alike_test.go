package vary_test

import (
	"slices"
	"testing"

	"herald/api"
	"herald/lists"
	"herald/vary"
)

// someFields are few, so that all lists of them can be gone through.
var someFields = lists.Of("a", "", "a", "1", "b", "", "b", "1", "A", "1")

// smallRequests are all with at most three of someFields, and some of those again
// with another head.
func smallRequests() []api.Request {
	all := []api.Request{getX()}
	for from := 0; len(all[from].Fields) < 3; from++ {
		for _, f := range someFields {
			all = append(all, getX(lists.Joined(all[from].Fields, f)...))
		}
	}
	for i := range 12 {
		other := all[i*13]
		*heads(&other)[i%4] += "s"
		other.Body = "b"
		all = append(all, other)
	}
	return all
}

// smallNames are all lists of at most three of three names.
func smallNames() [][]string {
	all := [][]string{nil}
	for from := 0; len(all[from]) < 3; from++ {
		for _, name := range []string{"a", "b", "c"} {
			all = append(all, append(slices.Clone(all[from]), name))
		}
	}
	return all
}

// classesOf holds what Match says of all pairs to P16.3, and tells for each
// request the first one that it is like.
func classesOf(t *testing.T, all []api.Request, names []string) []int {
	t.Helper()
	class := make([]int, len(all))
	for i, a := range all {
		class[i] = slices.IndexFunc(all, func(b api.Request) bool { return vary.Match(a, b, names) })
		if class[i] < 0 || class[i] > i {
			t.Fatalf("P16.3: %s is like none up to itself by %q", lists.ShownRequest(a), names)
		}
	}
	for i, a := range all {
		for j, b := range all {
			if got := holdMatch(t, a, b, names); got != (class[i] == class[j]) {
				t.Fatalf("P16.3: by %q %s and %s: like %v, but like %s and %s", names, lists.ShownRequest(a), lists.ShownRequest(b), got, lists.ShownRequest(all[class[i]]), lists.ShownRequest(all[class[j]]))
			}
		}
	}
	return class
}

// sorted is the names, each once, in one order.
func sorted(names []string) []string {
	return slices.Compact(slices.Sorted(slices.Values(names)))
}

// TestAlike: each is like itself, one like another the other way about too, and
// two that are like a third like one another; the order of the names and one that
// stands there twice make no difference; with fewer names what was alike stays so.
func TestAlike(t *testing.T) {
	all := smallRequests()
	names := smallNames()
	var classes [][]int
	for _, l := range names {
		classes = append(classes, classesOf(t, all, l))
	}
	for i, fewer := range names {
		for j, more := range names {
			if slices.Equal(sorted(fewer), sorted(more)) && !slices.Equal(classes[i], classes[j]) {
				t.Errorf("P16.3: by %q and by %q other requests are alike", fewer, more)
			}
			if slices.ContainsFunc(fewer, func(name string) bool { return !slices.Contains(more, name) }) {
				continue
			}
			for k, like := range classes[j] {
				if classes[i][k] != classes[i][like] {
					t.Errorf("P16.3: %s and %s are alike by %q, not by %q", lists.ShownRequest(all[k]), lists.ShownRequest(all[like]), more, fewer)
				}
			}
		}
	}
	if len(all) < 150 || len(names) != 40 {
		t.Errorf("%d requests, %d lists of names: too few to tell", len(all), len(names))
	}
}

// TestThree: three requests at a time, of which two and two are alike or not.
func TestThree(t *testing.T) {
	all := []api.Request{
		getWith("a", "1", "b", "2"), getWith("b", "2", "a", "1"), getWith("b", "2", "c", "3", "a", "1"), getWith("a", "1", "b", "3"), getWith("a", "1"),
		getWith("a", "1", "a", "1", "b", "2"), getWith("a", "", "b", "2"), getWith("b", "2"), getX(), {}, {Method: "GET"},
	}
	for _, names := range [][]string{nil, {"a"}, {"b"}, {"a", "b"}, {"b", "a", "b"}, {"c"}, {"a", "b", "c"}, {"A"}, {""}} {
		for _, x := range all {
			for _, y := range all {
				for _, z := range all {
					if vary.Match(x, z, names) && vary.Match(z, y, names) && !vary.Match(x, y, names) {
						t.Errorf("P16.3: %s and %s are like %s by %q, not like one another", lists.ShownRequest(x), lists.ShownRequest(y), lists.ShownRequest(z), names)
					}
				}
			}
		}
	}
}

// TestFieldsBeside: fields that no name names make no difference, wherever they
// stand, nor does the order among fields of unlike names.
func TestFieldsBeside(t *testing.T) {
	all := smallRequests()
	names := [][]string{nil, {"a"}, {"b"}, {"a", "b"}, {"b", "a", "a"}}
	for i, a := range all {
		b := all[(i*37+5)%len(all)]
		for _, l := range names {
			want := vary.Match(a, b, l)
			for at := range len(a.Fields) + 1 {
				more := a
				more.Fields = lists.Put(a.Fields, at, api.Field{Name: "c", Value: "1", Never: at == 0})
				wantMatch(t, want, more, b, l...)
				wantMatch(t, true, more, a, l...)
			}
		}
		for at := 1; at < len(a.Fields); at++ {
			turned := a
			turned.Fields = slices.Clone(a.Fields)
			turned.Fields[at-1], turned.Fields[at] = a.Fields[at], a.Fields[at-1]
			if a.Fields[at-1].Name != a.Fields[at].Name {
				wantMatch(t, true, turned, a, "a", "b", "A")
				wantMatch(t, vary.Match(a, b, names[3]), turned, b, names[3]...)
			} else {
				wantMatch(t, a.Fields[at-1] == a.Fields[at], turned, a, a.Fields[at].Name)
			}
		}
	}
}
