package vary_test

import (
	"math/rand"
	"slices"
	"strings"
	"testing"

	"herald/api"
	"herald/lists"
	"herald/vary"
)

func one[T any](r *rand.Rand, l ...T) T { return l[r.Intn(len(l))] }

// randomValue is pieces and what might stand about them, and now and then any byte.
func randomValue(r *rand.Rand) string {
	var s strings.Builder
	for range r.Intn(12) {
		switch r.Intn(12) {
		case 0, 1, 2:
			s.WriteString(one(r, "a", "A", "b", "B", "Ab", "aB", "accept", "Accept", "x-1"))
		case 3, 4, 5:
			s.WriteString(",")
		case 6, 7:
			s.WriteString(one(r, " ", "\t", "  ", " \t"))
		case 8:
			s.WriteString(one(r, "*", ",*,", "**"))
		case 9:
			s.WriteString(one(r, "\n", "\v", "\f", "\r", "\x00", "\u00a0", "\u00c9", "\u00e9", "\u212a", "\xc9", "\xff"))
		case 10:
			s.WriteString(one(r, "vary", ";", "\"", "=", ":"))
		case 11:
			s.WriteByte(byte(r.Intn(256)))
		}
	}
	return s.String()
}

func randomResponse(r *rand.Rand) api.Response {
	q := api.Response{Status: r.Intn(700) - 50, Body: randomValue(r)}
	for range r.Intn(5) {
		q.Fields = append(q.Fields, api.Field{Name: one(r, "vary", "vary", "vary", "Vary", "VARY", "", "vary ", "x"), Value: randomValue(r), Never: r.Intn(4) == 0})
	}
	return q
}

// TestRandomNames: any responses against the model, each of them twice.
func TestRandomNames(t *testing.T) {
	r := rand.New(rand.NewSource(161))
	stars, lengths := map[bool]int{}, map[int]int{}
	for range 60000 {
		q := randomResponse(r)
		names, star := holdNames(t, q)
		stars[star]++
		lengths[min(len(names), 3)]++
		if again, starAgain := vary.Names(q); !slices.Equal(names, again) || star != starAgain {
			t.Errorf("R4: Names(%s) = %q, %v, then %q, %v", lists.ShownResponse(q), names, star, again, starAgain)
		}
		if t.Failed() {
			return
		}
	}
	if min(stars[true], stars[false], lengths[0], lengths[1], lengths[2], lengths[3]) < 3000 {
		t.Errorf("stars %v, numbers of names %v: too few to tell", stars, lengths)
	}
}

func randomField(r *rand.Rand) api.Field {
	if r.Intn(30) == 0 {
		return api.Field{Name: randomValue(r), Value: randomValue(r)}
	}
	return api.Field{Name: one(r, "a", "b", "c", "A", "", "accept"), Value: one(r, "", "1", "1", "1", "2", "1,2"), Never: r.Intn(4) == 0}
}

func randomRequest(r *rand.Rand) api.Request {
	q := getX()
	for range r.Intn(6) {
		q.Fields = append(q.Fields, randomField(r))
	}
	return q
}

// likely is the request with up to four things done to it, most of which some
// list of names doesn't see.
func likely(r *rand.Rand, q api.Request) api.Request {
	q.Fields = slices.Clone(q.Fields)
	for range r.Intn(5) {
		n := len(q.Fields)
		i, j := r.Intn(n+1), r.Intn(n+1)
		switch c := r.Intn(16); {
		case c < 4:
			q.Fields = lists.Put(q.Fields, i, randomField(r))
		case c < 7 && i < n:
			q.Fields = lists.Without(q.Fields, i)
		case c < 11 && i < n && j < n:
			q.Fields[i], q.Fields[j] = q.Fields[j], q.Fields[i]
		case c < 12 && i < n:
			q.Fields[i].Value = randomField(r).Value
		case c < 13 && i < n:
			q.Fields[i].Never = !q.Fields[i].Never
		case c < 14:
			q.Body += "b"
		case c < 15 && r.Intn(3) == 0:
			*one(r, heads(&q)...) += one(r, "", "", "x", " ", "\x00")
		}
	}
	return q
}

func randomNames(r *rand.Rand) []string {
	var names []string
	for range r.Intn(5) {
		names = append(names, one(r, "a", "b", "c", "A", "", "accept", "none", "*"))
	}
	return names
}

// TestRandomMatches: P16.2 and P16.3: three requests that are made of one another,
// by any names, by those in another order, by one twice, and by fewer.
func TestRandomMatches(t *testing.T) {
	r := rand.New(rand.NewSource(162))
	told := map[bool]int{}
	transitive := 0
	for range 60000 {
		x := randomRequest(r)
		y, z := likely(r, x), likely(r, x)
		names := randomNames(r)
		like := holdMatch(t, x, y, names)
		told[like]++
		if like && holdMatch(t, x, z, names) {
			transitive++
			if !vary.Match(y, z, names) {
				t.Errorf("P16.3: %s and %s are like a third by %q, not like one another", lists.ShownRequest(y), lists.ShownRequest(z), names)
			}
		}
		if !vary.Match(y, y, names) {
			t.Errorf("P16.3: %s isn't like itself by %q", lists.ShownRequest(y), names)
		}
		holdOtherNames(t, r, x, y, names, like)
		if t.Failed() {
			return
		}
	}
	if told[true] < 10000 || told[false] < 10000 || transitive < 5000 {
		t.Errorf("of the random requests %d are alike, %d not, %d like a third: too few to tell", told[true], told[false], transitive)
	}
}

// holdOtherNames: the names in another order and with some twice tell the same;
// with one fewer what was alike stays alike.
func holdOtherNames(t *testing.T, r *rand.Rand, x, y api.Request, names []string, like bool) {
	t.Helper()
	if len(names) == 0 {
		return
	}
	mixed := append(slices.Clone(names), one(r, names...), one(r, names...))
	r.Shuffle(len(mixed), func(i, j int) { mixed[i], mixed[j] = mixed[j], mixed[i] })
	if vary.Match(x, y, mixed) != like {
		t.Errorf("P16.3: %s and %s: by %q %v, by %q not so", lists.ShownRequest(x), lists.ShownRequest(y), names, like, mixed)
	}
	at := r.Intn(len(names))
	if fewer := slices.Delete(slices.Clone(names), at, at+1); like && !vary.Match(x, y, fewer) {
		t.Errorf("P16.3: %s and %s are alike by %q, not by %q", lists.ShownRequest(x), lists.ShownRequest(y), names, fewer)
	}
}

// FuzzNames: any response of three fields.
func FuzzNames(f *testing.F) {
	f.Add("vary", "Accept-Language, accept", "vary", "accept,,x")
	f.Add("Vary", "a", "vary", " * ")
	f.Add("vary", "a b,\t\u00c9\xff", "x", "*")
	f.Fuzz(func(t *testing.T, name, value, other, more string) {
		l, unchanged := lists.Guarded(lists.Of(name, value, other, more, "vary", value))
		for n := range len(l) + 1 {
			holdNames(t, api.Response{Fields: l[:n]})
		}
		holdNames(t, varying(value, more, value+","+more))
		if !unchanged() {
			t.Errorf("P16.4: %s or the room behind it was changed", lists.Shown(l))
		}
	})
}

// FuzzMatch: requests with any heads and fields, by any names.
func FuzzMatch(f *testing.F) {
	f.Add("GET", "HEAD", "accept", "1", "accept", "2")
	f.Add("GET", "GET", "x", "", "y", "")
	f.Add("", "\x00", "", "", "A", "a")
	f.Fuzz(func(t *testing.T, head, otherHead, name, value, otherName, otherValue string) {
		texts := []string{name, value, otherName, otherValue, name, otherValue, otherName, value}
		for i := range 4 {
			promised, asked := getWith(texts...), getWith(texts[2*i:]...)
			holdMatch(t, promised, asked, []string{name})
			holdMatch(t, promised, asked, []string{otherName, name, value})
			*heads(&promised)[i], *heads(&asked)[i] = head, otherHead
			holdMatch(t, promised, asked, nil)
			holdMatch(t, promised, asked, []string{name, otherName})
			holdMatch(t, asked, asked, []string{value, otherName})
		}
	})
}
